/-
  No cell of these rows narrows 'for every input' (looked for: loops, veiled, ifaces, maps, wideKeys, modest, calm, conditions, laid).
  DERIVED. THE GIVEN ROWS OF THIS SEAT. 4 by the template 'for every input the law returns true; each argument reads behind the call as it read before'; 0 by the template 'total and deterministic' (their statements: YtnbmlkkjgecigasTotals.lean).
  GIVEN WITH THE SEED: the statements are not yours to turn. If you find one false, say at which input.
  Laid BY PROGRAM, IN A SANDBOX (cutbox-rows.mjs): the forced cells as the released guide's own fill.sh prints them over the translation 460ee5e33954ae2b… (all of the seat's roots in one cut). By AI agents, Wed Nov 11 2026. No macro, syntax, notation, axiom, sorry.
-/
import Derived.Test.YtnbmlkkjgecigasChecked
import GoSem.Claim
import GoSem.ClaimJoined
import GoSem.ClaimMapViews
import Derived.JoinedTies
import Derived.KernelRfl
namespace Go.Proofs.Ytnbmlkkjgecigas
/- THE CELL 'sum', in the pinned program and in every row, IS THE sha256 OF THE DUMP (.gsa) THAT YtnbmlkkjgecigasProg.lean LOADS. Nothing in Lean hashes anything: it is a label: what it is worth is what the hold of that sum in a sandbox is worth. -/
noncomputable def Try.pinned : Pinned := { name := "ytnbmlkkjgecigas", sum := "460ee5e33954ae2bf85ec691957d51469ec29da1a2ec1d6ba8d201677a6bfb30", checked := Try.checked }
namespace Rows
def none {H : Type} : Left H := { results := [], args := [] }

/-- 'laws.FnExactFlushDisk': WHATEVER THE INPUT: true; the input reads as it did. -/
def fnExactFlushDiskSpec : ChangeSpec := { name := "fnExactFlushDisk", fn := fun _ => fun
  | [d] => { results := [.lit (.bool true)], args := [d] }
  | _ => none }
def fnExactFlushDiskRow : OpenClaim := { program := "ytnbmlkkjgecigas", sum := "460ee5e33954ae2bf85ec691957d51469ec29da1a2ec1d6ba8d201677a6bfb30", func := "loop.example/g00199/laws.FnExactFlushDisk", spec := "fnExactFlushDisk", apart := false }
def FnExactFlushDiskSaid : Prop := fnExactFlushDiskRow.holds Try.pinned (OpenSpec.ofChange fnExactFlushDiskSpec)

/-- ITS FALSE NEIGHBOUR: 'it returns false'. Refute it at one input. -/
def fnExactFlushDiskWrong : ChangeSpec := { name := "fnExactFlushDisk", fn := fun _ => fun
  | [d] => { results := [.lit (.bool false)], args := [d] }
  | _ => none }
def FnExactFlushDiskWrongFalsely : Prop := fnExactFlushDiskRow.holds Try.pinned (OpenSpec.ofChange fnExactFlushDiskWrong)

/-- 'laws.FnExactFallDisk': WHATEVER THE INPUT: true; the input reads as it did. -/
def fnExactFallDiskSpec : ChangeSpec := { name := "fnExactFallDisk", fn := fun _ => fun
  | [d1, d2] => { results := [.lit (.bool true)], args := [d1, d2] }
  | _ => none }
def fnExactFallDiskRow : OpenClaim := { program := "ytnbmlkkjgecigas", sum := "460ee5e33954ae2bf85ec691957d51469ec29da1a2ec1d6ba8d201677a6bfb30", func := "loop.example/g00199/laws.FnExactFallDisk", spec := "fnExactFallDisk", unfollowed := true, recurses := true, apart := false }
def FnExactFallDiskSaid : Prop := fnExactFallDiskRow.holds Try.pinned (OpenSpec.ofChange fnExactFallDiskSpec)

/-- ITS FALSE NEIGHBOUR: 'it returns false'. Refute it at one input. -/
def fnExactFallDiskWrong : ChangeSpec := { name := "fnExactFallDisk", fn := fun _ => fun
  | [d1, d2] => { results := [.lit (.bool false)], args := [d1, d2] }
  | _ => none }
def FnExactFallDiskWrongFalsely : Prop := fnExactFallDiskRow.holds Try.pinned (OpenSpec.ofChange fnExactFallDiskWrong)

/-- 'laws.FnExactGetRec': WHATEVER THE INPUT: true; the input reads as it did. -/
def fnExactGetRecSpec : ChangeSpec := { name := "fnExactGetRec", fn := fun _ => fun
  | [d] => { results := [.lit (.bool true)], args := [d] }
  | _ => none }
def fnExactGetRecRow : OpenClaim := { program := "ytnbmlkkjgecigas", sum := "460ee5e33954ae2bf85ec691957d51469ec29da1a2ec1d6ba8d201677a6bfb30", func := "loop.example/g00199/laws.FnExactGetRec", spec := "fnExactGetRec", apart := false }
def FnExactGetRecSaid : Prop := fnExactGetRecRow.holds Try.pinned (OpenSpec.ofChange fnExactGetRecSpec)

/-- ITS FALSE NEIGHBOUR: 'it returns false'. Refute it at one input. -/
def fnExactGetRecWrong : ChangeSpec := { name := "fnExactGetRec", fn := fun _ => fun
  | [d] => { results := [.lit (.bool false)], args := [d] }
  | _ => none }
def FnExactGetRecWrongFalsely : Prop := fnExactGetRecRow.holds Try.pinned (OpenSpec.ofChange fnExactGetRecWrong)

/-- 'laws.FnExactScanRecs': WHATEVER THE INPUT: true; the input reads as it did. -/
def fnExactScanRecsSpec : ChangeSpec := { name := "fnExactScanRecs", fn := fun _ => fun
  | [d] => { results := [.lit (.bool true)], args := [d] }
  | _ => none }
def fnExactScanRecsRow : OpenClaim := { program := "ytnbmlkkjgecigas", sum := "460ee5e33954ae2bf85ec691957d51469ec29da1a2ec1d6ba8d201677a6bfb30", func := "loop.example/g00199/laws.FnExactScanRecs", spec := "fnExactScanRecs", apart := false }
def FnExactScanRecsSaid : Prop := fnExactScanRecsRow.holds Try.pinned (OpenSpec.ofChange fnExactScanRecsSpec)

/-- ITS FALSE NEIGHBOUR: 'it returns false'. Refute it at one input. -/
def fnExactScanRecsWrong : ChangeSpec := { name := "fnExactScanRecs", fn := fun _ => fun
  | [d] => { results := [.lit (.bool false)], args := [d] }
  | _ => none }
def FnExactScanRecsWrongFalsely : Prop := fnExactScanRecsRow.holds Try.pinned (OpenSpec.ofChange fnExactScanRecsWrong)

/- THE SECOND FORM. 'bulk': how many values and letters a reading holds, each counted each time it is reached (what is shared counts as often as it is met; a slice's spare places count too). A statement '..UptoSaid' is the law's where the arguments, and the package variables that the reading takes, are together of bulk at most 1048576: NARROWER than '..Said'. Prove '..Said' where nothing that the law and all that it calls make is longer than what came in: it says more and counts as full. Else prove '..UptoSaid'. A law counts once. -/
mutual
def uptoBulk {H : Type} : DataW H → Nat
  | .lit (.string bytes) => bytes.length + 1
  | .lit _ => 1
  | .nil => 1
  | .ptr d => uptoBulk d + 1
  | .slice elems spare => uptoBulkAll elems + uptoBulkAll spare + 1
  | .agg parts => uptoBulkAll parts + 1
  | .iface _ d => uptoBulk d + 1
  | .map entries => uptoBulkEntries entries + 1
  | .held _ => 1
def uptoBulkAll {H : Type} : List (DataW H) → Nat
  | [] => 0
  | d :: r => uptoBulk d + uptoBulkAll r
def uptoBulkEntries {H : Type} : List (Lit × DataW H) → Nat
  | [] => 0
  | x :: r => uptoBulkEntry x + uptoBulkEntries r
def uptoBulkEntry {H : Type} : Lit × DataW H → Nat
  | (.string bytes, d) => bytes.length + uptoBulk d + 1
  | (_, d) => uptoBulk d + 1
 end
def uptoSmall : (H : Type) → List (DataW H) → Bool := fun _ ds => decide (uptoBulkAll ds ≤ 1048576)
def OpenSpec.upto (s : _root_.Go.ChangeSpec) : _root_.Go.OpenSpec := { _root_.Go.OpenSpec.ofChange s with cond := some uptoSmall }

/-- 'laws.FnExactFlushDisk', WHERE WHAT IT READS IS OF BULK AT MOST 1048576: true; the input reads as it did. -/
def fnExactFlushDiskUptoRow : OpenClaim := { program := "ytnbmlkkjgecigas", sum := "460ee5e33954ae2bf85ec691957d51469ec29da1a2ec1d6ba8d201677a6bfb30", func := "loop.example/g00199/laws.FnExactFlushDisk", spec := "fnExactFlushDisk", apart := false, narrowed := true }
def FnExactFlushDiskUptoSaid : Prop := fnExactFlushDiskUptoRow.holds Try.pinned (OpenSpec.upto fnExactFlushDiskSpec)

/-- 'laws.FnExactFallDisk', WHERE WHAT IT READS IS OF BULK AT MOST 1048576: true; the input reads as it did. -/
def fnExactFallDiskUptoRow : OpenClaim := { program := "ytnbmlkkjgecigas", sum := "460ee5e33954ae2bf85ec691957d51469ec29da1a2ec1d6ba8d201677a6bfb30", func := "loop.example/g00199/laws.FnExactFallDisk", spec := "fnExactFallDisk", unfollowed := true, recurses := true, apart := false, narrowed := true }
def FnExactFallDiskUptoSaid : Prop := fnExactFallDiskUptoRow.holds Try.pinned (OpenSpec.upto fnExactFallDiskSpec)

/-- 'laws.FnExactGetRec', WHERE WHAT IT READS IS OF BULK AT MOST 1048576: true; the input reads as it did. -/
def fnExactGetRecUptoRow : OpenClaim := { program := "ytnbmlkkjgecigas", sum := "460ee5e33954ae2bf85ec691957d51469ec29da1a2ec1d6ba8d201677a6bfb30", func := "loop.example/g00199/laws.FnExactGetRec", spec := "fnExactGetRec", apart := false, narrowed := true }
def FnExactGetRecUptoSaid : Prop := fnExactGetRecUptoRow.holds Try.pinned (OpenSpec.upto fnExactGetRecSpec)

/-- 'laws.FnExactScanRecs', WHERE WHAT IT READS IS OF BULK AT MOST 1048576: true; the input reads as it did. -/
def fnExactScanRecsUptoRow : OpenClaim := { program := "ytnbmlkkjgecigas", sum := "460ee5e33954ae2bf85ec691957d51469ec29da1a2ec1d6ba8d201677a6bfb30", func := "loop.example/g00199/laws.FnExactScanRecs", spec := "fnExactScanRecs", apart := false, narrowed := true }
def FnExactScanRecsUptoSaid : Prop := fnExactScanRecsUptoRow.holds Try.pinned (OpenSpec.upto fnExactScanRecsSpec)

end Rows
end Go.Proofs.Ytnbmlkkjgecigas
