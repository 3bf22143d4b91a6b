/-
  No cell of these rows narrows 'for every input' (looked for: loops, veiled, ifaces, maps, wideKeys, modest, calm, conditions, laid).
  DERIVED. THE GIVEN ROWS OF THIS SEAT. 6 by the template 'for every input the law returns true; each argument reads behind the call as it read before'; 0 by the template 'total and deterministic' (their statements: YtnenphedodfnnajTotals.lean).
  GIVEN WITH THE SEED: the statements are not yours to turn. If you find one false, say at which input.
  Laid BY PROGRAM, IN A SANDBOX (cutbox-rows.mjs): the forced cells as the released guide's own fill.sh prints them over the translation 9bb7d853f3d882f0… (all of the seat's roots in one cut). By AI agents, Wed Nov 11 2026. No macro, syntax, notation, axiom, sorry.
-/
import Derived.Test.YtnenphedodfnnajChecked
import GoSem.Claim
import GoSem.ClaimJoined
import GoSem.ClaimMapViews
import Derived.JoinedTies
import Derived.KernelRfl
namespace Go.Proofs.Ytnenphedodfnnaj
/- THE CELL 'sum', in the pinned program and in every row, IS THE sha256 OF THE DUMP (.gsa) THAT YtnenphedodfnnajProg.lean LOADS. Nothing in Lean hashes anything: it is a label: what it is worth is what the hold of that sum in a sandbox is worth. -/
noncomputable def Try.pinned : Pinned := { name := "ytnenphedodfnnaj", sum := "9bb7d853f3d882f020e4636afceeb98672cc608d1f3d4e1afcfdb508c3248bad", checked := Try.checked }
namespace Rows
def none {H : Type} : Left H := { results := [], args := [] }

/-- 'laws.FnExactCodeLen': WHATEVER THE INPUT: true; the input reads as it did. -/
def fnExactCodeLenSpec : ChangeSpec := { name := "fnExactCodeLen", fn := fun _ => fun
  | [d] => { results := [.lit (.bool true)], args := [d] }
  | _ => none }
def fnExactCodeLenRow : OpenClaim := { program := "ytnenphedodfnnaj", sum := "9bb7d853f3d882f020e4636afceeb98672cc608d1f3d4e1afcfdb508c3248bad", func := "loop.example/g00199/laws.FnExactCodeLen", spec := "fnExactCodeLen", apart := false }
def FnExactCodeLenSaid : Prop := fnExactCodeLenRow.holds Try.pinned (OpenSpec.ofChange fnExactCodeLenSpec)

/-- ITS FALSE NEIGHBOUR: 'it returns false'. Refute it at one input. -/
def fnExactCodeLenWrong : ChangeSpec := { name := "fnExactCodeLen", fn := fun _ => fun
  | [d] => { results := [.lit (.bool false)], args := [d] }
  | _ => none }
def FnExactCodeLenWrongFalsely : Prop := fnExactCodeLenRow.holds Try.pinned (OpenSpec.ofChange fnExactCodeLenWrong)

/-- 'laws.FnExactCodeOf': WHATEVER THE INPUT: true; the input reads as it did. -/
def fnExactCodeOfSpec : ChangeSpec := { name := "fnExactCodeOf", fn := fun _ => fun
  | [d] => { results := [.lit (.bool true)], args := [d] }
  | _ => none }
def fnExactCodeOfRow : OpenClaim := { program := "ytnenphedodfnnaj", sum := "9bb7d853f3d882f020e4636afceeb98672cc608d1f3d4e1afcfdb508c3248bad", func := "loop.example/g00199/laws.FnExactCodeOf", spec := "fnExactCodeOf", apart := false }
def FnExactCodeOfSaid : Prop := fnExactCodeOfRow.holds Try.pinned (OpenSpec.ofChange fnExactCodeOfSpec)

/-- ITS FALSE NEIGHBOUR: 'it returns false'. Refute it at one input. -/
def fnExactCodeOfWrong : ChangeSpec := { name := "fnExactCodeOf", fn := fun _ => fun
  | [d] => { results := [.lit (.bool false)], args := [d] }
  | _ => none }
def FnExactCodeOfWrongFalsely : Prop := fnExactCodeOfRow.holds Try.pinned (OpenSpec.ofChange fnExactCodeOfWrong)

/-- 'laws.FnExactHuffLen': WHATEVER THE INPUT: true; the input reads as it did. -/
def fnExactHuffLenSpec : ChangeSpec := { name := "fnExactHuffLen", fn := fun _ => fun
  | [d] => { results := [.lit (.bool true)], args := [d] }
  | _ => none }
def fnExactHuffLenRow : OpenClaim := { program := "ytnenphedodfnnaj", sum := "9bb7d853f3d882f020e4636afceeb98672cc608d1f3d4e1afcfdb508c3248bad", func := "loop.example/g00199/laws.FnExactHuffLen", spec := "fnExactHuffLen", apart := false }
def FnExactHuffLenSaid : Prop := fnExactHuffLenRow.holds Try.pinned (OpenSpec.ofChange fnExactHuffLenSpec)

/-- ITS FALSE NEIGHBOUR: 'it returns false'. Refute it at one input. -/
def fnExactHuffLenWrong : ChangeSpec := { name := "fnExactHuffLen", fn := fun _ => fun
  | [d] => { results := [.lit (.bool false)], args := [d] }
  | _ => none }
def FnExactHuffLenWrongFalsely : Prop := fnExactHuffLenRow.holds Try.pinned (OpenSpec.ofChange fnExactHuffLenWrong)

/-- 'laws.FnExactHuff': WHATEVER THE INPUT: true; the input reads as it did. -/
def fnExactHuffSpec : ChangeSpec := { name := "fnExactHuff", fn := fun _ => fun
  | [d] => { results := [.lit (.bool true)], args := [d] }
  | _ => none }
def fnExactHuffRow : OpenClaim := { program := "ytnenphedodfnnaj", sum := "9bb7d853f3d882f020e4636afceeb98672cc608d1f3d4e1afcfdb508c3248bad", func := "loop.example/g00199/laws.FnExactHuff", spec := "fnExactHuff", apart := false }
def FnExactHuffSaid : Prop := fnExactHuffRow.holds Try.pinned (OpenSpec.ofChange fnExactHuffSpec)

/-- ITS FALSE NEIGHBOUR: 'it returns false'. Refute it at one input. -/
def fnExactHuffWrong : ChangeSpec := { name := "fnExactHuff", fn := fun _ => fun
  | [d] => { results := [.lit (.bool false)], args := [d] }
  | _ => none }
def FnExactHuffWrongFalsely : Prop := fnExactHuffRow.holds Try.pinned (OpenSpec.ofChange fnExactHuffWrong)

/-- 'laws.FnExactUnHuff': WHATEVER THE INPUT: true; the input reads as it did. -/
def fnExactUnHuffSpec : ChangeSpec := { name := "fnExactUnHuff", fn := fun _ => fun
  | [d] => { results := [.lit (.bool true)], args := [d] }
  | _ => none }
def fnExactUnHuffRow : OpenClaim := { program := "ytnenphedodfnnaj", sum := "9bb7d853f3d882f020e4636afceeb98672cc608d1f3d4e1afcfdb508c3248bad", func := "loop.example/g00199/laws.FnExactUnHuff", spec := "fnExactUnHuff", unfollowed := true, recurses := true, apart := false }
def FnExactUnHuffSaid : Prop := fnExactUnHuffRow.holds Try.pinned (OpenSpec.ofChange fnExactUnHuffSpec)

/-- ITS FALSE NEIGHBOUR: 'it returns false'. Refute it at one input. -/
def fnExactUnHuffWrong : ChangeSpec := { name := "fnExactUnHuff", fn := fun _ => fun
  | [d] => { results := [.lit (.bool false)], args := [d] }
  | _ => none }
def FnExactUnHuffWrongFalsely : Prop := fnExactUnHuffRow.holds Try.pinned (OpenSpec.ofChange fnExactUnHuffWrong)

/-- 'laws.FnExactFirstField': WHATEVER THE INPUT: true; the input reads as it did. -/
def fnExactFirstFieldSpec : ChangeSpec := { name := "fnExactFirstField", fn := fun _ => fun
  | [d] => { results := [.lit (.bool true)], args := [d] }
  | _ => none }
def fnExactFirstFieldRow : OpenClaim := { program := "ytnenphedodfnnaj", sum := "9bb7d853f3d882f020e4636afceeb98672cc608d1f3d4e1afcfdb508c3248bad", func := "loop.example/g00199/laws.FnExactFirstField", spec := "fnExactFirstField", apart := false }
def FnExactFirstFieldSaid : Prop := fnExactFirstFieldRow.holds Try.pinned (OpenSpec.ofChange fnExactFirstFieldSpec)

/-- ITS FALSE NEIGHBOUR: 'it returns false'. Refute it at one input. -/
def fnExactFirstFieldWrong : ChangeSpec := { name := "fnExactFirstField", fn := fun _ => fun
  | [d] => { results := [.lit (.bool false)], args := [d] }
  | _ => none }
def FnExactFirstFieldWrongFalsely : Prop := fnExactFirstFieldRow.holds Try.pinned (OpenSpec.ofChange fnExactFirstFieldWrong)

/- THE SECOND FORM. 'bulk': how many values and letters a reading holds, each counted each time it is reached (what is shared counts as often as it is met; a slice's spare places count too). A statement '..UptoSaid' is the law's where the arguments, and the package variables that the reading takes, are together of bulk at most 1048576: NARROWER than '..Said'. Prove '..Said' where nothing that the law and all that it calls make is longer than what came in: it says more and counts as full. Else prove '..UptoSaid'. A law counts once. -/
mutual
def uptoBulk {H : Type} : DataW H → Nat
  | .lit (.string bytes) => bytes.length + 1
  | .lit _ => 1
  | .nil => 1
  | .ptr d => uptoBulk d + 1
  | .slice elems spare => uptoBulkAll elems + uptoBulkAll spare + 1
  | .agg parts => uptoBulkAll parts + 1
  | .iface _ d => uptoBulk d + 1
  | .map entries => uptoBulkEntries entries + 1
  | .held _ => 1
def uptoBulkAll {H : Type} : List (DataW H) → Nat
  | [] => 0
  | d :: r => uptoBulk d + uptoBulkAll r
def uptoBulkEntries {H : Type} : List (Lit × DataW H) → Nat
  | [] => 0
  | x :: r => uptoBulkEntry x + uptoBulkEntries r
def uptoBulkEntry {H : Type} : Lit × DataW H → Nat
  | (.string bytes, d) => bytes.length + uptoBulk d + 1
  | (_, d) => uptoBulk d + 1
 end
def uptoSmall : (H : Type) → List (DataW H) → Bool := fun _ ds => decide (uptoBulkAll ds ≤ 1048576)
def OpenSpec.upto (s : _root_.Go.ChangeSpec) : _root_.Go.OpenSpec := { _root_.Go.OpenSpec.ofChange s with cond := some uptoSmall }

/-- 'laws.FnExactCodeLen', WHERE WHAT IT READS IS OF BULK AT MOST 1048576: true; the input reads as it did. -/
def fnExactCodeLenUptoRow : OpenClaim := { program := "ytnenphedodfnnaj", sum := "9bb7d853f3d882f020e4636afceeb98672cc608d1f3d4e1afcfdb508c3248bad", func := "loop.example/g00199/laws.FnExactCodeLen", spec := "fnExactCodeLen", apart := false, narrowed := true }
def FnExactCodeLenUptoSaid : Prop := fnExactCodeLenUptoRow.holds Try.pinned (OpenSpec.upto fnExactCodeLenSpec)

/-- 'laws.FnExactCodeOf', WHERE WHAT IT READS IS OF BULK AT MOST 1048576: true; the input reads as it did. -/
def fnExactCodeOfUptoRow : OpenClaim := { program := "ytnenphedodfnnaj", sum := "9bb7d853f3d882f020e4636afceeb98672cc608d1f3d4e1afcfdb508c3248bad", func := "loop.example/g00199/laws.FnExactCodeOf", spec := "fnExactCodeOf", apart := false, narrowed := true }
def FnExactCodeOfUptoSaid : Prop := fnExactCodeOfUptoRow.holds Try.pinned (OpenSpec.upto fnExactCodeOfSpec)

/-- 'laws.FnExactHuffLen', WHERE WHAT IT READS IS OF BULK AT MOST 1048576: true; the input reads as it did. -/
def fnExactHuffLenUptoRow : OpenClaim := { program := "ytnenphedodfnnaj", sum := "9bb7d853f3d882f020e4636afceeb98672cc608d1f3d4e1afcfdb508c3248bad", func := "loop.example/g00199/laws.FnExactHuffLen", spec := "fnExactHuffLen", apart := false, narrowed := true }
def FnExactHuffLenUptoSaid : Prop := fnExactHuffLenUptoRow.holds Try.pinned (OpenSpec.upto fnExactHuffLenSpec)

/-- 'laws.FnExactHuff', WHERE WHAT IT READS IS OF BULK AT MOST 1048576: true; the input reads as it did. -/
def fnExactHuffUptoRow : OpenClaim := { program := "ytnenphedodfnnaj", sum := "9bb7d853f3d882f020e4636afceeb98672cc608d1f3d4e1afcfdb508c3248bad", func := "loop.example/g00199/laws.FnExactHuff", spec := "fnExactHuff", apart := false, narrowed := true }
def FnExactHuffUptoSaid : Prop := fnExactHuffUptoRow.holds Try.pinned (OpenSpec.upto fnExactHuffSpec)

/-- 'laws.FnExactUnHuff', WHERE WHAT IT READS IS OF BULK AT MOST 1048576: true; the input reads as it did. -/
def fnExactUnHuffUptoRow : OpenClaim := { program := "ytnenphedodfnnaj", sum := "9bb7d853f3d882f020e4636afceeb98672cc608d1f3d4e1afcfdb508c3248bad", func := "loop.example/g00199/laws.FnExactUnHuff", spec := "fnExactUnHuff", unfollowed := true, recurses := true, apart := false, narrowed := true }
def FnExactUnHuffUptoSaid : Prop := fnExactUnHuffUptoRow.holds Try.pinned (OpenSpec.upto fnExactUnHuffSpec)

/-- 'laws.FnExactFirstField', WHERE WHAT IT READS IS OF BULK AT MOST 1048576: true; the input reads as it did. -/
def fnExactFirstFieldUptoRow : OpenClaim := { program := "ytnenphedodfnnaj", sum := "9bb7d853f3d882f020e4636afceeb98672cc608d1f3d4e1afcfdb508c3248bad", func := "loop.example/g00199/laws.FnExactFirstField", spec := "fnExactFirstField", apart := false, narrowed := true }
def FnExactFirstFieldUptoSaid : Prop := fnExactFirstFieldUptoRow.holds Try.pinned (OpenSpec.upto fnExactFirstFieldSpec)

end Rows
end Go.Proofs.Ytnenphedodfnnaj
