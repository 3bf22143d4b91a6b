/-
  No cell of these rows narrows 'for every input' (looked for: loops, veiled, ifaces, maps, wideKeys, modest, calm, conditions, laid).
  DERIVED. THE GIVEN ROWS OF THIS SEAT. 4 by the template 'for every input the law returns true; each argument reads behind the call as it read before'; 0 by the template 'total and deterministic' (their statements: YtnbmlkkjgecigarTotals.lean).
  GIVEN WITH THE SEED: the statements are not yours to turn. If you find one false, say at which input.
  Laid BY PROGRAM, IN A SANDBOX (cutbox-rows.mjs): the forced cells as the released guide's own fill.sh prints them over the translation e37131ff094653c2… (all of the seat's roots in one cut). By AI agents, Wed Nov 11 2026. No macro, syntax, notation, axiom, sorry.
-/
import Derived.Test.YtnbmlkkjgecigarChecked
import GoSem.Claim
import GoSem.ClaimJoined
import GoSem.ClaimMapViews
import Derived.JoinedTies
import Derived.KernelRfl
namespace Go.Proofs.Ytnbmlkkjgecigar
/- THE CELL 'sum', in the pinned program and in every row, IS THE sha256 OF THE DUMP (.gsa) THAT YtnbmlkkjgecigarProg.lean LOADS. Nothing in Lean hashes anything: it is a label: what it is worth is what the hold of that sum in a sandbox is worth. -/
noncomputable def Try.pinned : Pinned := { name := "ytnbmlkkjgecigar", sum := "e37131ff094653c2e75f54bb39a41f5a617cdeb364a6a8845c98332f996ada75", checked := Try.checked }
namespace Rows
def none {H : Type} : Left H := { results := [], args := [] }

/-- 'laws.FnExactDiskNew': WHATEVER THE INPUT: true; the input reads as it did. -/
def fnExactDiskNewSpec : ChangeSpec := { name := "fnExactDiskNew", fn := fun _ => fun
  | [d] => { results := [.lit (.bool true)], args := [d] }
  | _ => none }
def fnExactDiskNewRow : OpenClaim := { program := "ytnbmlkkjgecigar", sum := "e37131ff094653c2e75f54bb39a41f5a617cdeb364a6a8845c98332f996ada75", func := "loop.example/g00199/laws.FnExactDiskNew", spec := "fnExactDiskNew", apart := false }
def FnExactDiskNewSaid : Prop := fnExactDiskNewRow.holds Try.pinned (OpenSpec.ofChange fnExactDiskNewSpec)

/-- ITS FALSE NEIGHBOUR: 'it returns false'. Refute it at one input. -/
def fnExactDiskNewWrong : ChangeSpec := { name := "fnExactDiskNew", fn := fun _ => fun
  | [d] => { results := [.lit (.bool false)], args := [d] }
  | _ => none }
def FnExactDiskNewWrongFalsely : Prop := fnExactDiskNewRow.holds Try.pinned (OpenSpec.ofChange fnExactDiskNewWrong)

/-- 'laws.FnExactDiskOk': WHATEVER THE INPUT: true; the input reads as it did. -/
def fnExactDiskOkSpec : ChangeSpec := { name := "fnExactDiskOk", fn := fun _ => fun
  | [d] => { results := [.lit (.bool true)], args := [d] }
  | _ => none }
def fnExactDiskOkRow : OpenClaim := { program := "ytnbmlkkjgecigar", sum := "e37131ff094653c2e75f54bb39a41f5a617cdeb364a6a8845c98332f996ada75", func := "loop.example/g00199/laws.FnExactDiskOk", spec := "fnExactDiskOk", unfollowed := true, recurses := true, apart := false }
def FnExactDiskOkSaid : Prop := fnExactDiskOkRow.holds Try.pinned (OpenSpec.ofChange fnExactDiskOkSpec)

/-- ITS FALSE NEIGHBOUR: 'it returns false'. Refute it at one input. -/
def fnExactDiskOkWrong : ChangeSpec := { name := "fnExactDiskOk", fn := fun _ => fun
  | [d] => { results := [.lit (.bool false)], args := [d] }
  | _ => none }
def FnExactDiskOkWrongFalsely : Prop := fnExactDiskOkRow.holds Try.pinned (OpenSpec.ofChange fnExactDiskOkWrong)

/-- 'laws.FnExactSectorAt': WHATEVER THE INPUT: true; the input reads as it did. -/
def fnExactSectorAtSpec : ChangeSpec := { name := "fnExactSectorAt", fn := fun _ => fun
  | [d1, d2] => { results := [.lit (.bool true)], args := [d1, d2] }
  | _ => none }
def fnExactSectorAtRow : OpenClaim := { program := "ytnbmlkkjgecigar", sum := "e37131ff094653c2e75f54bb39a41f5a617cdeb364a6a8845c98332f996ada75", func := "loop.example/g00199/laws.FnExactSectorAt", spec := "fnExactSectorAt", apart := false }
def FnExactSectorAtSaid : Prop := fnExactSectorAtRow.holds Try.pinned (OpenSpec.ofChange fnExactSectorAtSpec)

/-- ITS FALSE NEIGHBOUR: 'it returns false'. Refute it at one input. -/
def fnExactSectorAtWrong : ChangeSpec := { name := "fnExactSectorAt", fn := fun _ => fun
  | [d1, d2] => { results := [.lit (.bool false)], args := [d1, d2] }
  | _ => none }
def FnExactSectorAtWrongFalsely : Prop := fnExactSectorAtRow.holds Try.pinned (OpenSpec.ofChange fnExactSectorAtWrong)

/-- 'laws.FnExactPutSector': WHATEVER THE INPUT: true; the input reads as it did. -/
def fnExactPutSectorSpec : ChangeSpec := { name := "fnExactPutSector", fn := fun _ => fun
  | [d1, d2, d3] => { results := [.lit (.bool true)], args := [d1, d2, d3] }
  | _ => none }
def fnExactPutSectorRow : OpenClaim := { program := "ytnbmlkkjgecigar", sum := "e37131ff094653c2e75f54bb39a41f5a617cdeb364a6a8845c98332f996ada75", func := "loop.example/g00199/laws.FnExactPutSector", spec := "fnExactPutSector", unfollowed := true, recurses := true, apart := false }
def FnExactPutSectorSaid : Prop := fnExactPutSectorRow.holds Try.pinned (OpenSpec.ofChange fnExactPutSectorSpec)

/-- ITS FALSE NEIGHBOUR: 'it returns false'. Refute it at one input. -/
def fnExactPutSectorWrong : ChangeSpec := { name := "fnExactPutSector", fn := fun _ => fun
  | [d1, d2, d3] => { results := [.lit (.bool false)], args := [d1, d2, d3] }
  | _ => none }
def FnExactPutSectorWrongFalsely : Prop := fnExactPutSectorRow.holds Try.pinned (OpenSpec.ofChange fnExactPutSectorWrong)

/- THE SECOND FORM. 'bulk': how many values and letters a reading holds, each counted each time it is reached (what is shared counts as often as it is met; a slice's spare places count too). A statement '..UptoSaid' is the law's where the arguments, and the package variables that the reading takes, are together of bulk at most 1048576: NARROWER than '..Said'. Prove '..Said' where nothing that the law and all that it calls make is longer than what came in: it says more and counts as full. Else prove '..UptoSaid'. A law counts once. -/
mutual
def uptoBulk {H : Type} : DataW H → Nat
  | .lit (.string bytes) => bytes.length + 1
  | .lit _ => 1
  | .nil => 1
  | .ptr d => uptoBulk d + 1
  | .slice elems spare => uptoBulkAll elems + uptoBulkAll spare + 1
  | .agg parts => uptoBulkAll parts + 1
  | .iface _ d => uptoBulk d + 1
  | .map entries => uptoBulkEntries entries + 1
  | .held _ => 1
def uptoBulkAll {H : Type} : List (DataW H) → Nat
  | [] => 0
  | d :: r => uptoBulk d + uptoBulkAll r
def uptoBulkEntries {H : Type} : List (Lit × DataW H) → Nat
  | [] => 0
  | x :: r => uptoBulkEntry x + uptoBulkEntries r
def uptoBulkEntry {H : Type} : Lit × DataW H → Nat
  | (.string bytes, d) => bytes.length + uptoBulk d + 1
  | (_, d) => uptoBulk d + 1
 end
def uptoSmall : (H : Type) → List (DataW H) → Bool := fun _ ds => decide (uptoBulkAll ds ≤ 1048576)
def OpenSpec.upto (s : _root_.Go.ChangeSpec) : _root_.Go.OpenSpec := { _root_.Go.OpenSpec.ofChange s with cond := some uptoSmall }

/-- 'laws.FnExactDiskNew', WHERE WHAT IT READS IS OF BULK AT MOST 1048576: true; the input reads as it did. -/
def fnExactDiskNewUptoRow : OpenClaim := { program := "ytnbmlkkjgecigar", sum := "e37131ff094653c2e75f54bb39a41f5a617cdeb364a6a8845c98332f996ada75", func := "loop.example/g00199/laws.FnExactDiskNew", spec := "fnExactDiskNew", apart := false, narrowed := true }
def FnExactDiskNewUptoSaid : Prop := fnExactDiskNewUptoRow.holds Try.pinned (OpenSpec.upto fnExactDiskNewSpec)

/-- 'laws.FnExactDiskOk', WHERE WHAT IT READS IS OF BULK AT MOST 1048576: true; the input reads as it did. -/
def fnExactDiskOkUptoRow : OpenClaim := { program := "ytnbmlkkjgecigar", sum := "e37131ff094653c2e75f54bb39a41f5a617cdeb364a6a8845c98332f996ada75", func := "loop.example/g00199/laws.FnExactDiskOk", spec := "fnExactDiskOk", unfollowed := true, recurses := true, apart := false, narrowed := true }
def FnExactDiskOkUptoSaid : Prop := fnExactDiskOkUptoRow.holds Try.pinned (OpenSpec.upto fnExactDiskOkSpec)

/-- 'laws.FnExactSectorAt', WHERE WHAT IT READS IS OF BULK AT MOST 1048576: true; the input reads as it did. -/
def fnExactSectorAtUptoRow : OpenClaim := { program := "ytnbmlkkjgecigar", sum := "e37131ff094653c2e75f54bb39a41f5a617cdeb364a6a8845c98332f996ada75", func := "loop.example/g00199/laws.FnExactSectorAt", spec := "fnExactSectorAt", apart := false, narrowed := true }
def FnExactSectorAtUptoSaid : Prop := fnExactSectorAtUptoRow.holds Try.pinned (OpenSpec.upto fnExactSectorAtSpec)

/-- 'laws.FnExactPutSector', WHERE WHAT IT READS IS OF BULK AT MOST 1048576: true; the input reads as it did. -/
def fnExactPutSectorUptoRow : OpenClaim := { program := "ytnbmlkkjgecigar", sum := "e37131ff094653c2e75f54bb39a41f5a617cdeb364a6a8845c98332f996ada75", func := "loop.example/g00199/laws.FnExactPutSector", spec := "fnExactPutSector", unfollowed := true, recurses := true, apart := false, narrowed := true }
def FnExactPutSectorUptoSaid : Prop := fnExactPutSectorUptoRow.holds Try.pinned (OpenSpec.upto fnExactPutSectorSpec)

end Rows
end Go.Proofs.Ytnbmlkkjgecigar
