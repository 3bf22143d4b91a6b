/-
  No cell of these rows narrows 'for every input' (looked for: loops, veiled, ifaces, maps, wideKeys, modest, calm, conditions, laid).
  DERIVED. THE GIVEN ROWS OF THIS SEAT. 6 by the template 'for every input the law returns true; each argument reads behind the call as it read before'; 0 by the template 'total and deterministic' (their statements: YtljhplddgcmmoabTotals.lean).
  GIVEN WITH THE SEED: the statements are not yours to turn. If you find one false, say at which input.
  Laid BY PROGRAM, IN A SANDBOX (cutbox-rows.mjs): the forced cells as the released guide's own fill.sh prints them over the translation c16c286ff8e20235… (all of the seat's roots in one cut). By AI agents, Wed Nov 11 2026. No macro, syntax, notation, axiom, sorry.
-/
import Derived.Test.YtljhplddgcmmoabChecked
import GoSem.Claim
import GoSem.ClaimJoined
import GoSem.ClaimMapViews
import Derived.JoinedTies
import Derived.KernelRfl
namespace Go.Proofs.Ytljhplddgcmmoab
/- THE CELL 'sum', in the pinned program and in every row, IS THE sha256 OF THE DUMP (.gsa) THAT YtljhplddgcmmoabProg.lean LOADS. Nothing in Lean hashes anything: it is a label: what it is worth is what the hold of that sum in a sandbox is worth. -/
noncomputable def Try.pinned : Pinned := { name := "ytljhplddgcmmoab", sum := "c16c286ff8e2023577cd447e0f86d62a64b23d42b7bfdc9a4edb68c56d7c98c1", checked := Try.checked }
namespace Rows
def none {H : Type} : Left H := { results := [], args := [] }

/-- 'laws.FnCodes': WHATEVER THE INPUT: true; the input reads as it did. -/
def fnCodesSpec : ChangeSpec := { name := "fnCodes", fn := fun _ => fun
  | [d] => { results := [.lit (.bool true)], args := [d] }
  | _ => none }
def fnCodesRow : OpenClaim := { program := "ytljhplddgcmmoab", sum := "c16c286ff8e2023577cd447e0f86d62a64b23d42b7bfdc9a4edb68c56d7c98c1", func := "loop.example/g00199/laws.FnCodes", spec := "fnCodes", plainKeys := false, apart := false }
def FnCodesSaid : Prop := fnCodesRow.holds Try.pinned (OpenSpec.ofChange fnCodesSpec)

/-- ITS FALSE NEIGHBOUR: 'it returns false'. Refute it at one input. -/
def fnCodesWrong : ChangeSpec := { name := "fnCodes", fn := fun _ => fun
  | [d] => { results := [.lit (.bool false)], args := [d] }
  | _ => none }
def FnCodesWrongFalsely : Prop := fnCodesRow.holds Try.pinned (OpenSpec.ofChange fnCodesWrong)

/-- 'laws.FnUncoded': WHATEVER THE INPUT: true; the input reads as it did. -/
def fnUncodedSpec : ChangeSpec := { name := "fnUncoded", fn := fun _ => fun
  | [d] => { results := [.lit (.bool true)], args := [d] }
  | _ => none }
def fnUncodedRow : OpenClaim := { program := "ytljhplddgcmmoab", sum := "c16c286ff8e2023577cd447e0f86d62a64b23d42b7bfdc9a4edb68c56d7c98c1", func := "loop.example/g00199/laws.FnUncoded", spec := "fnUncoded", unfollowed := true, recurses := true, plainKeys := false, apart := false }
def FnUncodedSaid : Prop := fnUncodedRow.holds Try.pinned (OpenSpec.ofChange fnUncodedSpec)

/-- ITS FALSE NEIGHBOUR: 'it returns false'. Refute it at one input. -/
def fnUncodedWrong : ChangeSpec := { name := "fnUncoded", fn := fun _ => fun
  | [d] => { results := [.lit (.bool false)], args := [d] }
  | _ => none }
def FnUncodedWrongFalsely : Prop := fnUncodedRow.holds Try.pinned (OpenSpec.ofChange fnUncodedWrong)

/-- 'laws.FnTables': WHATEVER THE INPUT: true; the input reads as it did. -/
def fnTablesSpec : ChangeSpec := { name := "fnTables", fn := fun _ => fun
  | [d] => { results := [.lit (.bool true)], args := [d] }
  | _ => none }
def fnTablesRow : OpenClaim := { program := "ytljhplddgcmmoab", sum := "c16c286ff8e2023577cd447e0f86d62a64b23d42b7bfdc9a4edb68c56d7c98c1", func := "loop.example/g00199/laws.FnTables", spec := "fnTables", unfollowed := true, recurses := true, plainKeys := false, apart := false }
def FnTablesSaid : Prop := fnTablesRow.holds Try.pinned (OpenSpec.ofChange fnTablesSpec)

/-- ITS FALSE NEIGHBOUR: 'it returns false'. Refute it at one input. -/
def fnTablesWrong : ChangeSpec := { name := "fnTables", fn := fun _ => fun
  | [d] => { results := [.lit (.bool false)], args := [d] }
  | _ => none }
def FnTablesWrongFalsely : Prop := fnTablesRow.holds Try.pinned (OpenSpec.ofChange fnTablesWrong)

/-- 'laws.FnFound': WHATEVER THE INPUT: true; the input reads as it did. -/
def fnFoundSpec : ChangeSpec := { name := "fnFound", fn := fun _ => fun
  | [d] => { results := [.lit (.bool true)], args := [d] }
  | _ => none }
def fnFoundRow : OpenClaim := { program := "ytljhplddgcmmoab", sum := "c16c286ff8e2023577cd447e0f86d62a64b23d42b7bfdc9a4edb68c56d7c98c1", func := "loop.example/g00199/laws.FnFound", spec := "fnFound", unfollowed := true, recurses := true, plainKeys := false, apart := false }
def FnFoundSaid : Prop := fnFoundRow.holds Try.pinned (OpenSpec.ofChange fnFoundSpec)

/-- ITS FALSE NEIGHBOUR: 'it returns false'. Refute it at one input. -/
def fnFoundWrong : ChangeSpec := { name := "fnFound", fn := fun _ => fun
  | [d] => { results := [.lit (.bool false)], args := [d] }
  | _ => none }
def FnFoundWrongFalsely : Prop := fnFoundRow.holds Try.pinned (OpenSpec.ofChange fnFoundWrong)

/-- 'laws.FnResized': WHATEVER THE INPUT: true; the input reads as it did. -/
def fnResizedSpec : ChangeSpec := { name := "fnResized", fn := fun _ => fun
  | [d] => { results := [.lit (.bool true)], args := [d] }
  | _ => none }
def fnResizedRow : OpenClaim := { program := "ytljhplddgcmmoab", sum := "c16c286ff8e2023577cd447e0f86d62a64b23d42b7bfdc9a4edb68c56d7c98c1", func := "loop.example/g00199/laws.FnResized", spec := "fnResized", unfollowed := true, recurses := true, plainKeys := false, apart := false }
def FnResizedSaid : Prop := fnResizedRow.holds Try.pinned (OpenSpec.ofChange fnResizedSpec)

/-- ITS FALSE NEIGHBOUR: 'it returns false'. Refute it at one input. -/
def fnResizedWrong : ChangeSpec := { name := "fnResized", fn := fun _ => fun
  | [d] => { results := [.lit (.bool false)], args := [d] }
  | _ => none }
def FnResizedWrongFalsely : Prop := fnResizedRow.holds Try.pinned (OpenSpec.ofChange fnResizedWrong)

/-- 'laws.FnStrings': WHATEVER THE INPUT: true; the input reads as it did. -/
def fnStringsSpec : ChangeSpec := { name := "fnStrings", fn := fun _ => fun
  | [d] => { results := [.lit (.bool true)], args := [d] }
  | _ => none }
def fnStringsRow : OpenClaim := { program := "ytljhplddgcmmoab", sum := "c16c286ff8e2023577cd447e0f86d62a64b23d42b7bfdc9a4edb68c56d7c98c1", func := "loop.example/g00199/laws.FnStrings", spec := "fnStrings", unfollowed := true, recurses := true, plainKeys := false, apart := false }
def FnStringsSaid : Prop := fnStringsRow.holds Try.pinned (OpenSpec.ofChange fnStringsSpec)

/-- ITS FALSE NEIGHBOUR: 'it returns false'. Refute it at one input. -/
def fnStringsWrong : ChangeSpec := { name := "fnStrings", fn := fun _ => fun
  | [d] => { results := [.lit (.bool false)], args := [d] }
  | _ => none }
def FnStringsWrongFalsely : Prop := fnStringsRow.holds Try.pinned (OpenSpec.ofChange fnStringsWrong)

/- THE SECOND FORM. 'bulk': how many values and letters a reading holds, each counted each time it is reached (what is shared counts as often as it is met; a slice's spare places count too). A statement '..UptoSaid' is the law's where the arguments, and the package variables that the reading takes, are together of bulk at most 1048576: NARROWER than '..Said'. Prove '..Said' where nothing that the law and all that it calls make is longer than what came in: it says more and counts as full. Else prove '..UptoSaid'. A law counts once. -/
mutual
def uptoBulk {H : Type} : DataW H → Nat
  | .lit (.string bytes) => bytes.length + 1
  | .lit _ => 1
  | .nil => 1
  | .ptr d => uptoBulk d + 1
  | .slice elems spare => uptoBulkAll elems + uptoBulkAll spare + 1
  | .agg parts => uptoBulkAll parts + 1
  | .iface _ d => uptoBulk d + 1
  | .map entries => uptoBulkEntries entries + 1
  | .held _ => 1
def uptoBulkAll {H : Type} : List (DataW H) → Nat
  | [] => 0
  | d :: r => uptoBulk d + uptoBulkAll r
def uptoBulkEntries {H : Type} : List (Lit × DataW H) → Nat
  | [] => 0
  | x :: r => uptoBulkEntry x + uptoBulkEntries r
def uptoBulkEntry {H : Type} : Lit × DataW H → Nat
  | (.string bytes, d) => bytes.length + uptoBulk d + 1
  | (_, d) => uptoBulk d + 1
 end
def uptoSmall : (H : Type) → List (DataW H) → Bool := fun _ ds => decide (uptoBulkAll ds ≤ 1048576)
def OpenSpec.upto (s : _root_.Go.ChangeSpec) : _root_.Go.OpenSpec := { _root_.Go.OpenSpec.ofChange s with cond := some uptoSmall }

/-- 'laws.FnCodes', WHERE WHAT IT READS IS OF BULK AT MOST 1048576: true; the input reads as it did. -/
def fnCodesUptoRow : OpenClaim := { program := "ytljhplddgcmmoab", sum := "c16c286ff8e2023577cd447e0f86d62a64b23d42b7bfdc9a4edb68c56d7c98c1", func := "loop.example/g00199/laws.FnCodes", spec := "fnCodes", plainKeys := false, apart := false, narrowed := true }
def FnCodesUptoSaid : Prop := fnCodesUptoRow.holds Try.pinned (OpenSpec.upto fnCodesSpec)

/-- 'laws.FnUncoded', WHERE WHAT IT READS IS OF BULK AT MOST 1048576: true; the input reads as it did. -/
def fnUncodedUptoRow : OpenClaim := { program := "ytljhplddgcmmoab", sum := "c16c286ff8e2023577cd447e0f86d62a64b23d42b7bfdc9a4edb68c56d7c98c1", func := "loop.example/g00199/laws.FnUncoded", spec := "fnUncoded", unfollowed := true, recurses := true, plainKeys := false, apart := false, narrowed := true }
def FnUncodedUptoSaid : Prop := fnUncodedUptoRow.holds Try.pinned (OpenSpec.upto fnUncodedSpec)

/-- 'laws.FnTables', WHERE WHAT IT READS IS OF BULK AT MOST 1048576: true; the input reads as it did. -/
def fnTablesUptoRow : OpenClaim := { program := "ytljhplddgcmmoab", sum := "c16c286ff8e2023577cd447e0f86d62a64b23d42b7bfdc9a4edb68c56d7c98c1", func := "loop.example/g00199/laws.FnTables", spec := "fnTables", unfollowed := true, recurses := true, plainKeys := false, apart := false, narrowed := true }
def FnTablesUptoSaid : Prop := fnTablesUptoRow.holds Try.pinned (OpenSpec.upto fnTablesSpec)

/-- 'laws.FnFound', WHERE WHAT IT READS IS OF BULK AT MOST 1048576: true; the input reads as it did. -/
def fnFoundUptoRow : OpenClaim := { program := "ytljhplddgcmmoab", sum := "c16c286ff8e2023577cd447e0f86d62a64b23d42b7bfdc9a4edb68c56d7c98c1", func := "loop.example/g00199/laws.FnFound", spec := "fnFound", unfollowed := true, recurses := true, plainKeys := false, apart := false, narrowed := true }
def FnFoundUptoSaid : Prop := fnFoundUptoRow.holds Try.pinned (OpenSpec.upto fnFoundSpec)

/-- 'laws.FnResized', WHERE WHAT IT READS IS OF BULK AT MOST 1048576: true; the input reads as it did. -/
def fnResizedUptoRow : OpenClaim := { program := "ytljhplddgcmmoab", sum := "c16c286ff8e2023577cd447e0f86d62a64b23d42b7bfdc9a4edb68c56d7c98c1", func := "loop.example/g00199/laws.FnResized", spec := "fnResized", unfollowed := true, recurses := true, plainKeys := false, apart := false, narrowed := true }
def FnResizedUptoSaid : Prop := fnResizedUptoRow.holds Try.pinned (OpenSpec.upto fnResizedSpec)

/-- 'laws.FnStrings', WHERE WHAT IT READS IS OF BULK AT MOST 1048576: true; the input reads as it did. -/
def fnStringsUptoRow : OpenClaim := { program := "ytljhplddgcmmoab", sum := "c16c286ff8e2023577cd447e0f86d62a64b23d42b7bfdc9a4edb68c56d7c98c1", func := "loop.example/g00199/laws.FnStrings", spec := "fnStrings", unfollowed := true, recurses := true, plainKeys := false, apart := false, narrowed := true }
def FnStringsUptoSaid : Prop := fnStringsUptoRow.holds Try.pinned (OpenSpec.upto fnStringsSpec)

end Rows
end Go.Proofs.Ytljhplddgcmmoab
