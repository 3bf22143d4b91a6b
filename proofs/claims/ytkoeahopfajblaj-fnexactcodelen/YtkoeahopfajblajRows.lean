/-
  No cell of these rows narrows 'for every input' (looked for: loops, veiled, ifaces, maps, wideKeys, modest, calm, conditions, laid).
  DERIVED. THE GIVEN ROWS OF THIS SEAT. 5 by the template 'for every input the law returns true; each argument reads behind the call as it read before'; 0 by the template 'total and deterministic' (their statements: YtkoeahopfajblajTotals.lean).
  GIVEN WITH THE SEED: the statements are not yours to turn. If you find one false, say at which input.
  Laid BY PROGRAM, IN A SANDBOX (cutbox-rows.mjs): the forced cells as the released guide's own fill.sh prints them over the translation 41d3f0daa5e3ec24… (all of the seat's roots in one cut). By AI agents, Wed Nov 11 2026. No macro, syntax, notation, axiom, sorry.
-/
import Derived.Test.YtkoeahopfajblajChecked
import GoSem.Claim
import GoSem.ClaimJoined
import GoSem.ClaimMapViews
import Derived.JoinedTies
import Derived.KernelRfl
namespace Go.Proofs.Ytkoeahopfajblaj
/- THE CELL 'sum', in the pinned program and in every row, IS THE sha256 OF THE DUMP (.gsa) THAT YtkoeahopfajblajProg.lean LOADS. Nothing in Lean hashes anything: it is a label: what it is worth is what the hold of that sum in a sandbox is worth. -/
noncomputable def Try.pinned : Pinned := { name := "ytkoeahopfajblaj", sum := "41d3f0daa5e3ec24392957a8c67807525dfdfea9100e1ff916e72272c6ee081a", checked := Try.checked }
namespace Rows
def none {H : Type} : Left H := { results := [], args := [] }

/-- 'laws.FnExactCodeLen': WHATEVER THE INPUT: true; the input reads as it did. -/
def fnExactCodeLenSpec : ChangeSpec := { name := "fnExactCodeLen", fn := fun _ => fun
  | [d] => { results := [.lit (.bool true)], args := [d] }
  | _ => none }
def fnExactCodeLenRow : OpenClaim := { program := "ytkoeahopfajblaj", sum := "41d3f0daa5e3ec24392957a8c67807525dfdfea9100e1ff916e72272c6ee081a", func := "loop.example/g00199/laws.FnExactCodeLen", spec := "fnExactCodeLen", apart := false }
def FnExactCodeLenSaid : Prop := fnExactCodeLenRow.holds Try.pinned (OpenSpec.ofChange fnExactCodeLenSpec)

/-- ITS FALSE NEIGHBOUR: 'it returns false'. Refute it at one input. -/
def fnExactCodeLenWrong : ChangeSpec := { name := "fnExactCodeLen", fn := fun _ => fun
  | [d] => { results := [.lit (.bool false)], args := [d] }
  | _ => none }
def FnExactCodeLenWrongFalsely : Prop := fnExactCodeLenRow.holds Try.pinned (OpenSpec.ofChange fnExactCodeLenWrong)

/-- 'laws.FnExactCodeOf': WHATEVER THE INPUT: true; the input reads as it did. -/
def fnExactCodeOfSpec : ChangeSpec := { name := "fnExactCodeOf", fn := fun _ => fun
  | [d] => { results := [.lit (.bool true)], args := [d] }
  | _ => none }
def fnExactCodeOfRow : OpenClaim := { program := "ytkoeahopfajblaj", sum := "41d3f0daa5e3ec24392957a8c67807525dfdfea9100e1ff916e72272c6ee081a", func := "loop.example/g00199/laws.FnExactCodeOf", spec := "fnExactCodeOf", apart := false }
def FnExactCodeOfSaid : Prop := fnExactCodeOfRow.holds Try.pinned (OpenSpec.ofChange fnExactCodeOfSpec)

/-- ITS FALSE NEIGHBOUR: 'it returns false'. Refute it at one input. -/
def fnExactCodeOfWrong : ChangeSpec := { name := "fnExactCodeOf", fn := fun _ => fun
  | [d] => { results := [.lit (.bool false)], args := [d] }
  | _ => none }
def FnExactCodeOfWrongFalsely : Prop := fnExactCodeOfRow.holds Try.pinned (OpenSpec.ofChange fnExactCodeOfWrong)

/-- 'laws.FnExactHuffLen': WHATEVER THE INPUT: true; the input reads as it did. -/
def fnExactHuffLenSpec : ChangeSpec := { name := "fnExactHuffLen", fn := fun _ => fun
  | [d] => { results := [.lit (.bool true)], args := [d] }
  | _ => none }
def fnExactHuffLenRow : OpenClaim := { program := "ytkoeahopfajblaj", sum := "41d3f0daa5e3ec24392957a8c67807525dfdfea9100e1ff916e72272c6ee081a", func := "loop.example/g00199/laws.FnExactHuffLen", spec := "fnExactHuffLen", apart := false }
def FnExactHuffLenSaid : Prop := fnExactHuffLenRow.holds Try.pinned (OpenSpec.ofChange fnExactHuffLenSpec)

/-- ITS FALSE NEIGHBOUR: 'it returns false'. Refute it at one input. -/
def fnExactHuffLenWrong : ChangeSpec := { name := "fnExactHuffLen", fn := fun _ => fun
  | [d] => { results := [.lit (.bool false)], args := [d] }
  | _ => none }
def FnExactHuffLenWrongFalsely : Prop := fnExactHuffLenRow.holds Try.pinned (OpenSpec.ofChange fnExactHuffLenWrong)

/-- 'laws.FnExactHuff': WHATEVER THE INPUT: true; the input reads as it did. -/
def fnExactHuffSpec : ChangeSpec := { name := "fnExactHuff", fn := fun _ => fun
  | [d] => { results := [.lit (.bool true)], args := [d] }
  | _ => none }
def fnExactHuffRow : OpenClaim := { program := "ytkoeahopfajblaj", sum := "41d3f0daa5e3ec24392957a8c67807525dfdfea9100e1ff916e72272c6ee081a", func := "loop.example/g00199/laws.FnExactHuff", spec := "fnExactHuff", apart := false }
def FnExactHuffSaid : Prop := fnExactHuffRow.holds Try.pinned (OpenSpec.ofChange fnExactHuffSpec)

/-- ITS FALSE NEIGHBOUR: 'it returns false'. Refute it at one input. -/
def fnExactHuffWrong : ChangeSpec := { name := "fnExactHuff", fn := fun _ => fun
  | [d] => { results := [.lit (.bool false)], args := [d] }
  | _ => none }
def FnExactHuffWrongFalsely : Prop := fnExactHuffRow.holds Try.pinned (OpenSpec.ofChange fnExactHuffWrong)

/-- 'laws.FnExactUnHuff': WHATEVER THE INPUT: true; the input reads as it did. -/
def fnExactUnHuffSpec : ChangeSpec := { name := "fnExactUnHuff", fn := fun _ => fun
  | [d] => { results := [.lit (.bool true)], args := [d] }
  | _ => none }
def fnExactUnHuffRow : OpenClaim := { program := "ytkoeahopfajblaj", sum := "41d3f0daa5e3ec24392957a8c67807525dfdfea9100e1ff916e72272c6ee081a", func := "loop.example/g00199/laws.FnExactUnHuff", spec := "fnExactUnHuff", unfollowed := true, recurses := true, apart := false }
def FnExactUnHuffSaid : Prop := fnExactUnHuffRow.holds Try.pinned (OpenSpec.ofChange fnExactUnHuffSpec)

/-- ITS FALSE NEIGHBOUR: 'it returns false'. Refute it at one input. -/
def fnExactUnHuffWrong : ChangeSpec := { name := "fnExactUnHuff", fn := fun _ => fun
  | [d] => { results := [.lit (.bool false)], args := [d] }
  | _ => none }
def FnExactUnHuffWrongFalsely : Prop := fnExactUnHuffRow.holds Try.pinned (OpenSpec.ofChange fnExactUnHuffWrong)

/- THE SECOND FORM. 'bulk': how many values and letters a reading holds, each counted each time it is reached (what is shared counts as often as it is met; a slice's spare places count too). A statement '..UptoSaid' is the law's where the arguments, and the package variables that the reading takes, are together of bulk at most 1048576: NARROWER than '..Said'. Prove '..Said' where nothing that the law and all that it calls make is longer than what came in: it says more and counts as full. Else prove '..UptoSaid'. A law counts once. -/
mutual
def uptoBulk {H : Type} : DataW H → Nat
  | .lit (.string bytes) => bytes.length + 1
  | .lit _ => 1
  | .nil => 1
  | .ptr d => uptoBulk d + 1
  | .slice elems spare => uptoBulkAll elems + uptoBulkAll spare + 1
  | .agg parts => uptoBulkAll parts + 1
  | .iface _ d => uptoBulk d + 1
  | .map entries => uptoBulkEntries entries + 1
  | .held _ => 1
def uptoBulkAll {H : Type} : List (DataW H) → Nat
  | [] => 0
  | d :: r => uptoBulk d + uptoBulkAll r
def uptoBulkEntries {H : Type} : List (Lit × DataW H) → Nat
  | [] => 0
  | x :: r => uptoBulkEntry x + uptoBulkEntries r
def uptoBulkEntry {H : Type} : Lit × DataW H → Nat
  | (.string bytes, d) => bytes.length + uptoBulk d + 1
  | (_, d) => uptoBulk d + 1
 end
def uptoSmall : (H : Type) → List (DataW H) → Bool := fun _ ds => decide (uptoBulkAll ds ≤ 1048576)
def OpenSpec.upto (s : _root_.Go.ChangeSpec) : _root_.Go.OpenSpec := { _root_.Go.OpenSpec.ofChange s with cond := some uptoSmall }

/-- 'laws.FnExactCodeLen', WHERE WHAT IT READS IS OF BULK AT MOST 1048576: true; the input reads as it did. -/
def fnExactCodeLenUptoRow : OpenClaim := { program := "ytkoeahopfajblaj", sum := "41d3f0daa5e3ec24392957a8c67807525dfdfea9100e1ff916e72272c6ee081a", func := "loop.example/g00199/laws.FnExactCodeLen", spec := "fnExactCodeLen", apart := false, narrowed := true }
def FnExactCodeLenUptoSaid : Prop := fnExactCodeLenUptoRow.holds Try.pinned (OpenSpec.upto fnExactCodeLenSpec)

/-- 'laws.FnExactCodeOf', WHERE WHAT IT READS IS OF BULK AT MOST 1048576: true; the input reads as it did. -/
def fnExactCodeOfUptoRow : OpenClaim := { program := "ytkoeahopfajblaj", sum := "41d3f0daa5e3ec24392957a8c67807525dfdfea9100e1ff916e72272c6ee081a", func := "loop.example/g00199/laws.FnExactCodeOf", spec := "fnExactCodeOf", apart := false, narrowed := true }
def FnExactCodeOfUptoSaid : Prop := fnExactCodeOfUptoRow.holds Try.pinned (OpenSpec.upto fnExactCodeOfSpec)

/-- 'laws.FnExactHuffLen', WHERE WHAT IT READS IS OF BULK AT MOST 1048576: true; the input reads as it did. -/
def fnExactHuffLenUptoRow : OpenClaim := { program := "ytkoeahopfajblaj", sum := "41d3f0daa5e3ec24392957a8c67807525dfdfea9100e1ff916e72272c6ee081a", func := "loop.example/g00199/laws.FnExactHuffLen", spec := "fnExactHuffLen", apart := false, narrowed := true }
def FnExactHuffLenUptoSaid : Prop := fnExactHuffLenUptoRow.holds Try.pinned (OpenSpec.upto fnExactHuffLenSpec)

/-- 'laws.FnExactHuff', WHERE WHAT IT READS IS OF BULK AT MOST 1048576: true; the input reads as it did. -/
def fnExactHuffUptoRow : OpenClaim := { program := "ytkoeahopfajblaj", sum := "41d3f0daa5e3ec24392957a8c67807525dfdfea9100e1ff916e72272c6ee081a", func := "loop.example/g00199/laws.FnExactHuff", spec := "fnExactHuff", apart := false, narrowed := true }
def FnExactHuffUptoSaid : Prop := fnExactHuffUptoRow.holds Try.pinned (OpenSpec.upto fnExactHuffSpec)

/-- 'laws.FnExactUnHuff', WHERE WHAT IT READS IS OF BULK AT MOST 1048576: true; the input reads as it did. -/
def fnExactUnHuffUptoRow : OpenClaim := { program := "ytkoeahopfajblaj", sum := "41d3f0daa5e3ec24392957a8c67807525dfdfea9100e1ff916e72272c6ee081a", func := "loop.example/g00199/laws.FnExactUnHuff", spec := "fnExactUnHuff", unfollowed := true, recurses := true, apart := false, narrowed := true }
def FnExactUnHuffUptoSaid : Prop := fnExactUnHuffUptoRow.holds Try.pinned (OpenSpec.upto fnExactUnHuffSpec)

end Rows
end Go.Proofs.Ytkoeahopfajblaj
