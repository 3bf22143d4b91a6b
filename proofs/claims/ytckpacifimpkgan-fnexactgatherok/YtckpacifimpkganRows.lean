/-
  No cell of these rows narrows 'for every input' (looked for: loops, veiled, ifaces, maps, wideKeys, modest, calm, conditions, laid).
  DERIVED. THE GIVEN ROWS OF THIS SEAT. 6 by the template 'for every input the law returns true; each argument reads behind the call as it read before'; 0 by the template 'total and deterministic' (their statements: YtckpacifimpkganTotals.lean).
  GIVEN WITH THE SEED: the statements are not yours to turn. If you find one false, say at which input.
  Laid BY PROGRAM, IN A SANDBOX (cutbox-rows.mjs): the forced cells as the released guide's own fill.sh prints them over the translation 4b4e47a2e7550708… (all of the seat's roots in one cut). By AI agents, Wed Nov 11 2026. No macro, syntax, notation, axiom, sorry.
-/
import Derived.Test.YtckpacifimpkganChecked
import GoSem.Claim
import GoSem.ClaimJoined
import GoSem.ClaimMapViews
import Derived.JoinedTies
import Derived.KernelRfl
namespace Go.Proofs.Ytckpacifimpkgan
/- THE CELL 'sum', in the pinned program and in every row, IS THE sha256 OF THE DUMP (.gsa) THAT YtckpacifimpkganProg.lean LOADS. Nothing in Lean hashes anything: it is a label: what it is worth is what the hold of that sum in a sandbox is worth. -/
noncomputable def Try.pinned : Pinned := { name := "ytckpacifimpkgan", sum := "4b4e47a2e755070867df570266a9184611b30ead84ab5931268e4ea80dab3a6f", checked := Try.checked }
namespace Rows
def none {H : Type} : Left H := { results := [], args := [] }

/-- 'laws.FnExactPutGoAway': WHATEVER THE INPUT: true; the input reads as it did. -/
def fnExactPutGoAwaySpec : ChangeSpec := { name := "fnExactPutGoAway", fn := fun _ => fun
  | [d1, d2] => { results := [.lit (.bool true)], args := [d1, d2] }
  | _ => none }
def fnExactPutGoAwayRow : OpenClaim := { program := "ytckpacifimpkgan", sum := "4b4e47a2e755070867df570266a9184611b30ead84ab5931268e4ea80dab3a6f", func := "loop.example/g00199/laws.FnExactPutGoAway", spec := "fnExactPutGoAway", apart := false }
def FnExactPutGoAwaySaid : Prop := fnExactPutGoAwayRow.holds Try.pinned (OpenSpec.ofChange fnExactPutGoAwaySpec)

/-- ITS FALSE NEIGHBOUR: 'it returns false'. Refute it at one input. -/
def fnExactPutGoAwayWrong : ChangeSpec := { name := "fnExactPutGoAway", fn := fun _ => fun
  | [d1, d2] => { results := [.lit (.bool false)], args := [d1, d2] }
  | _ => none }
def FnExactPutGoAwayWrongFalsely : Prop := fnExactPutGoAwayRow.holds Try.pinned (OpenSpec.ofChange fnExactPutGoAwayWrong)

/-- 'laws.FnExactGetGoAway': WHATEVER THE INPUT: true; the input reads as it did. -/
def fnExactGetGoAwaySpec : ChangeSpec := { name := "fnExactGetGoAway", fn := fun _ => fun
  | [d] => { results := [.lit (.bool true)], args := [d] }
  | _ => none }
def fnExactGetGoAwayRow : OpenClaim := { program := "ytckpacifimpkgan", sum := "4b4e47a2e755070867df570266a9184611b30ead84ab5931268e4ea80dab3a6f", func := "loop.example/g00199/laws.FnExactGetGoAway", spec := "fnExactGetGoAway", apart := false }
def FnExactGetGoAwaySaid : Prop := fnExactGetGoAwayRow.holds Try.pinned (OpenSpec.ofChange fnExactGetGoAwaySpec)

/-- ITS FALSE NEIGHBOUR: 'it returns false'. Refute it at one input. -/
def fnExactGetGoAwayWrong : ChangeSpec := { name := "fnExactGetGoAway", fn := fun _ => fun
  | [d] => { results := [.lit (.bool false)], args := [d] }
  | _ => none }
def FnExactGetGoAwayWrongFalsely : Prop := fnExactGetGoAwayRow.holds Try.pinned (OpenSpec.ofChange fnExactGetGoAwayWrong)

/-- 'laws.FnExactWindowOf': WHATEVER THE INPUT: true; the input reads as it did. -/
def fnExactWindowOfSpec : ChangeSpec := { name := "fnExactWindowOf", fn := fun _ => fun
  | [d] => { results := [.lit (.bool true)], args := [d] }
  | _ => none }
def fnExactWindowOfRow : OpenClaim := { program := "ytckpacifimpkgan", sum := "4b4e47a2e755070867df570266a9184611b30ead84ab5931268e4ea80dab3a6f", func := "loop.example/g00199/laws.FnExactWindowOf", spec := "fnExactWindowOf", apart := false }
def FnExactWindowOfSaid : Prop := fnExactWindowOfRow.holds Try.pinned (OpenSpec.ofChange fnExactWindowOfSpec)

/-- ITS FALSE NEIGHBOUR: 'it returns false'. Refute it at one input. -/
def fnExactWindowOfWrong : ChangeSpec := { name := "fnExactWindowOf", fn := fun _ => fun
  | [d] => { results := [.lit (.bool false)], args := [d] }
  | _ => none }
def FnExactWindowOfWrongFalsely : Prop := fnExactWindowOfRow.holds Try.pinned (OpenSpec.ofChange fnExactWindowOfWrong)

/-- 'laws.FnExactPad': WHATEVER THE INPUT: true; the input reads as it did. -/
def fnExactPadSpec : ChangeSpec := { name := "fnExactPad", fn := fun _ => fun
  | [d1, d2] => { results := [.lit (.bool true)], args := [d1, d2] }
  | _ => none }
def fnExactPadRow : OpenClaim := { program := "ytckpacifimpkgan", sum := "4b4e47a2e755070867df570266a9184611b30ead84ab5931268e4ea80dab3a6f", func := "loop.example/g00199/laws.FnExactPad", spec := "fnExactPad", apart := false }
def FnExactPadSaid : Prop := fnExactPadRow.holds Try.pinned (OpenSpec.ofChange fnExactPadSpec)

/-- ITS FALSE NEIGHBOUR: 'it returns false'. Refute it at one input. -/
def fnExactPadWrong : ChangeSpec := { name := "fnExactPad", fn := fun _ => fun
  | [d1, d2] => { results := [.lit (.bool false)], args := [d1, d2] }
  | _ => none }
def FnExactPadWrongFalsely : Prop := fnExactPadRow.holds Try.pinned (OpenSpec.ofChange fnExactPadWrong)

/-- 'laws.FnExactUnpad': WHATEVER THE INPUT: true; the input reads as it did. -/
def fnExactUnpadSpec : ChangeSpec := { name := "fnExactUnpad", fn := fun _ => fun
  | [d] => { results := [.lit (.bool true)], args := [d] }
  | _ => none }
def fnExactUnpadRow : OpenClaim := { program := "ytckpacifimpkgan", sum := "4b4e47a2e755070867df570266a9184611b30ead84ab5931268e4ea80dab3a6f", func := "loop.example/g00199/laws.FnExactUnpad", spec := "fnExactUnpad", apart := false }
def FnExactUnpadSaid : Prop := fnExactUnpadRow.holds Try.pinned (OpenSpec.ofChange fnExactUnpadSpec)

/-- ITS FALSE NEIGHBOUR: 'it returns false'. Refute it at one input. -/
def fnExactUnpadWrong : ChangeSpec := { name := "fnExactUnpad", fn := fun _ => fun
  | [d] => { results := [.lit (.bool false)], args := [d] }
  | _ => none }
def FnExactUnpadWrongFalsely : Prop := fnExactUnpadRow.holds Try.pinned (OpenSpec.ofChange fnExactUnpadWrong)

/-- 'laws.FnExactGatherOk': WHATEVER THE INPUT: true; the input reads as it did. -/
def fnExactGatherOkSpec : ChangeSpec := { name := "fnExactGatherOk", fn := fun _ => fun
  | [d] => { results := [.lit (.bool true)], args := [d] }
  | _ => none }
def fnExactGatherOkRow : OpenClaim := { program := "ytckpacifimpkgan", sum := "4b4e47a2e755070867df570266a9184611b30ead84ab5931268e4ea80dab3a6f", func := "loop.example/g00199/laws.FnExactGatherOk", spec := "fnExactGatherOk", apart := false }
def FnExactGatherOkSaid : Prop := fnExactGatherOkRow.holds Try.pinned (OpenSpec.ofChange fnExactGatherOkSpec)

/-- ITS FALSE NEIGHBOUR: 'it returns false'. Refute it at one input. -/
def fnExactGatherOkWrong : ChangeSpec := { name := "fnExactGatherOk", fn := fun _ => fun
  | [d] => { results := [.lit (.bool false)], args := [d] }
  | _ => none }
def FnExactGatherOkWrongFalsely : Prop := fnExactGatherOkRow.holds Try.pinned (OpenSpec.ofChange fnExactGatherOkWrong)

/- THE SECOND FORM. 'bulk': how many values and letters a reading holds, each counted each time it is reached (what is shared counts as often as it is met; a slice's spare places count too). A statement '..UptoSaid' is the law's where the arguments, and the package variables that the reading takes, are together of bulk at most 1048576: NARROWER than '..Said'. Prove '..Said' where nothing that the law and all that it calls make is longer than what came in: it says more and counts as full. Else prove '..UptoSaid'. A law counts once. -/
mutual
def uptoBulk {H : Type} : DataW H → Nat
  | .lit (.string bytes) => bytes.length + 1
  | .lit _ => 1
  | .nil => 1
  | .ptr d => uptoBulk d + 1
  | .slice elems spare => uptoBulkAll elems + uptoBulkAll spare + 1
  | .agg parts => uptoBulkAll parts + 1
  | .iface _ d => uptoBulk d + 1
  | .map entries => uptoBulkEntries entries + 1
  | .held _ => 1
def uptoBulkAll {H : Type} : List (DataW H) → Nat
  | [] => 0
  | d :: r => uptoBulk d + uptoBulkAll r
def uptoBulkEntries {H : Type} : List (Lit × DataW H) → Nat
  | [] => 0
  | x :: r => uptoBulkEntry x + uptoBulkEntries r
def uptoBulkEntry {H : Type} : Lit × DataW H → Nat
  | (.string bytes, d) => bytes.length + uptoBulk d + 1
  | (_, d) => uptoBulk d + 1
 end
def uptoSmall : (H : Type) → List (DataW H) → Bool := fun _ ds => decide (uptoBulkAll ds ≤ 1048576)
def OpenSpec.upto (s : _root_.Go.ChangeSpec) : _root_.Go.OpenSpec := { _root_.Go.OpenSpec.ofChange s with cond := some uptoSmall }

/-- 'laws.FnExactPutGoAway', WHERE WHAT IT READS IS OF BULK AT MOST 1048576: true; the input reads as it did. -/
def fnExactPutGoAwayUptoRow : OpenClaim := { program := "ytckpacifimpkgan", sum := "4b4e47a2e755070867df570266a9184611b30ead84ab5931268e4ea80dab3a6f", func := "loop.example/g00199/laws.FnExactPutGoAway", spec := "fnExactPutGoAway", apart := false, narrowed := true }
def FnExactPutGoAwayUptoSaid : Prop := fnExactPutGoAwayUptoRow.holds Try.pinned (OpenSpec.upto fnExactPutGoAwaySpec)

/-- 'laws.FnExactGetGoAway', WHERE WHAT IT READS IS OF BULK AT MOST 1048576: true; the input reads as it did. -/
def fnExactGetGoAwayUptoRow : OpenClaim := { program := "ytckpacifimpkgan", sum := "4b4e47a2e755070867df570266a9184611b30ead84ab5931268e4ea80dab3a6f", func := "loop.example/g00199/laws.FnExactGetGoAway", spec := "fnExactGetGoAway", apart := false, narrowed := true }
def FnExactGetGoAwayUptoSaid : Prop := fnExactGetGoAwayUptoRow.holds Try.pinned (OpenSpec.upto fnExactGetGoAwaySpec)

/-- 'laws.FnExactWindowOf', WHERE WHAT IT READS IS OF BULK AT MOST 1048576: true; the input reads as it did. -/
def fnExactWindowOfUptoRow : OpenClaim := { program := "ytckpacifimpkgan", sum := "4b4e47a2e755070867df570266a9184611b30ead84ab5931268e4ea80dab3a6f", func := "loop.example/g00199/laws.FnExactWindowOf", spec := "fnExactWindowOf", apart := false, narrowed := true }
def FnExactWindowOfUptoSaid : Prop := fnExactWindowOfUptoRow.holds Try.pinned (OpenSpec.upto fnExactWindowOfSpec)

/-- 'laws.FnExactPad', WHERE WHAT IT READS IS OF BULK AT MOST 1048576: true; the input reads as it did. -/
def fnExactPadUptoRow : OpenClaim := { program := "ytckpacifimpkgan", sum := "4b4e47a2e755070867df570266a9184611b30ead84ab5931268e4ea80dab3a6f", func := "loop.example/g00199/laws.FnExactPad", spec := "fnExactPad", apart := false, narrowed := true }
def FnExactPadUptoSaid : Prop := fnExactPadUptoRow.holds Try.pinned (OpenSpec.upto fnExactPadSpec)

/-- 'laws.FnExactUnpad', WHERE WHAT IT READS IS OF BULK AT MOST 1048576: true; the input reads as it did. -/
def fnExactUnpadUptoRow : OpenClaim := { program := "ytckpacifimpkgan", sum := "4b4e47a2e755070867df570266a9184611b30ead84ab5931268e4ea80dab3a6f", func := "loop.example/g00199/laws.FnExactUnpad", spec := "fnExactUnpad", apart := false, narrowed := true }
def FnExactUnpadUptoSaid : Prop := fnExactUnpadUptoRow.holds Try.pinned (OpenSpec.upto fnExactUnpadSpec)

/-- 'laws.FnExactGatherOk', WHERE WHAT IT READS IS OF BULK AT MOST 1048576: true; the input reads as it did. -/
def fnExactGatherOkUptoRow : OpenClaim := { program := "ytckpacifimpkgan", sum := "4b4e47a2e755070867df570266a9184611b30ead84ab5931268e4ea80dab3a6f", func := "loop.example/g00199/laws.FnExactGatherOk", spec := "fnExactGatherOk", apart := false, narrowed := true }
def FnExactGatherOkUptoSaid : Prop := fnExactGatherOkUptoRow.holds Try.pinned (OpenSpec.upto fnExactGatherOkSpec)

end Rows
end Go.Proofs.Ytckpacifimpkgan
