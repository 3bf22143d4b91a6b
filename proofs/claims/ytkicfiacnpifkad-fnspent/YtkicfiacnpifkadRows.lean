/-
  No cell of these rows narrows 'for every input' (looked for: loops, veiled, ifaces, maps, wideKeys, modest, calm, conditions, laid).
  DERIVED. THE GIVEN ROWS OF THIS SEAT. 3 by the template 'for every input the law returns true; each argument reads behind the call as it read before'; 0 by the template 'total and deterministic' (their statements: YtkicfiacnpifkadTotals.lean).
  GIVEN WITH THE SEED: the statements are not yours to turn. If you find one false, say at which input.
  Laid BY PROGRAM, IN A SANDBOX (cutbox-rows.mjs): the forced cells as the released guide's own fill.sh prints them over the translation 0062ebb92337afba… (all of the seat's roots in one cut). By AI agents, Wed Nov 11 2026. No macro, syntax, notation, axiom, sorry.
-/
import Derived.Test.YtkicfiacnpifkadChecked
import GoSem.Claim
import GoSem.ClaimJoined
import GoSem.ClaimMapViews
import Derived.JoinedTies
import Derived.KernelRfl
namespace Go.Proofs.Ytkicfiacnpifkad
/- THE CELL 'sum', in the pinned program and in every row, IS THE sha256 OF THE DUMP (.gsa) THAT YtkicfiacnpifkadProg.lean LOADS. Nothing in Lean hashes anything: it is a label: what it is worth is what the hold of that sum in a sandbox is worth. -/
noncomputable def Try.pinned : Pinned := { name := "ytkicfiacnpifkad", sum := "0062ebb92337afbaf6901f1c4443338cbca17dc72c9b2f63d6b26ee9cc8927ff", checked := Try.checked }
namespace Rows
def none {H : Type} : Left H := { results := [], args := [] }

/-- 'laws.FnPadded': WHATEVER THE INPUT: true; the input reads as it did. -/
def fnPaddedSpec : ChangeSpec := { name := "fnPadded", fn := fun _ => fun
  | [d] => { results := [.lit (.bool true)], args := [d] }
  | _ => none }
def fnPaddedRow : OpenClaim := { program := "ytkicfiacnpifkad", sum := "0062ebb92337afbaf6901f1c4443338cbca17dc72c9b2f63d6b26ee9cc8927ff", func := "loop.example/g00199/laws.FnPadded", spec := "fnPadded", apart := false }
def FnPaddedSaid : Prop := fnPaddedRow.holds Try.pinned (OpenSpec.ofChange fnPaddedSpec)

/-- ITS FALSE NEIGHBOUR: 'it returns false'. Refute it at one input. -/
def fnPaddedWrong : ChangeSpec := { name := "fnPadded", fn := fun _ => fun
  | [d] => { results := [.lit (.bool false)], args := [d] }
  | _ => none }
def FnPaddedWrongFalsely : Prop := fnPaddedRow.holds Try.pinned (OpenSpec.ofChange fnPaddedWrong)

/-- 'laws.FnSpent': WHATEVER THE INPUT: true; the input reads as it did. -/
def fnSpentSpec : ChangeSpec := { name := "fnSpent", fn := fun _ => fun
  | [d] => { results := [.lit (.bool true)], args := [d] }
  | _ => none }
def fnSpentRow : OpenClaim := { program := "ytkicfiacnpifkad", sum := "0062ebb92337afbaf6901f1c4443338cbca17dc72c9b2f63d6b26ee9cc8927ff", func := "loop.example/g00199/laws.FnSpent", spec := "fnSpent", unfollowed := true, recurses := true, apart := false }
def FnSpentSaid : Prop := fnSpentRow.holds Try.pinned (OpenSpec.ofChange fnSpentSpec)

/-- ITS FALSE NEIGHBOUR: 'it returns false'. Refute it at one input. -/
def fnSpentWrong : ChangeSpec := { name := "fnSpent", fn := fun _ => fun
  | [d] => { results := [.lit (.bool false)], args := [d] }
  | _ => none }
def FnSpentWrongFalsely : Prop := fnSpentRow.holds Try.pinned (OpenSpec.ofChange fnSpentWrong)

/-- 'laws.FnLanes': WHATEVER THE INPUT: true; the input reads as it did. -/
def fnLanesSpec : ChangeSpec := { name := "fnLanes", fn := fun _ => fun
  | [d] => { results := [.lit (.bool true)], args := [d] }
  | _ => none }
def fnLanesRow : OpenClaim := { program := "ytkicfiacnpifkad", sum := "0062ebb92337afbaf6901f1c4443338cbca17dc72c9b2f63d6b26ee9cc8927ff", func := "loop.example/g00199/laws.FnLanes", spec := "fnLanes", inPlace := ["slices.overlaps[loop.example/g00199/impl.Lane]"], unfollowed := true, recurses := true, apart := false }
def FnLanesSaid : Prop := fnLanesRow.holds Try.pinned (OpenSpec.ofChange fnLanesSpec)

/-- ITS FALSE NEIGHBOUR: 'it returns false'. Refute it at one input. -/
def fnLanesWrong : ChangeSpec := { name := "fnLanes", fn := fun _ => fun
  | [d] => { results := [.lit (.bool false)], args := [d] }
  | _ => none }
def FnLanesWrongFalsely : Prop := fnLanesRow.holds Try.pinned (OpenSpec.ofChange fnLanesWrong)

/- THE SECOND FORM. 'bulk': how many values and letters a reading holds, each counted each time it is reached (what is shared counts as often as it is met; a slice's spare places count too). A statement '..UptoSaid' is the law's where the arguments, and the package variables that the reading takes, are together of bulk at most 1048576: NARROWER than '..Said'. Prove '..Said' where nothing that the law and all that it calls make is longer than what came in: it says more and counts as full. Else prove '..UptoSaid'. A law counts once. -/
mutual
def uptoBulk {H : Type} : DataW H → Nat
  | .lit (.string bytes) => bytes.length + 1
  | .lit _ => 1
  | .nil => 1
  | .ptr d => uptoBulk d + 1
  | .slice elems spare => uptoBulkAll elems + uptoBulkAll spare + 1
  | .agg parts => uptoBulkAll parts + 1
  | .iface _ d => uptoBulk d + 1
  | .map entries => uptoBulkEntries entries + 1
  | .held _ => 1
def uptoBulkAll {H : Type} : List (DataW H) → Nat
  | [] => 0
  | d :: r => uptoBulk d + uptoBulkAll r
def uptoBulkEntries {H : Type} : List (Lit × DataW H) → Nat
  | [] => 0
  | x :: r => uptoBulkEntry x + uptoBulkEntries r
def uptoBulkEntry {H : Type} : Lit × DataW H → Nat
  | (.string bytes, d) => bytes.length + uptoBulk d + 1
  | (_, d) => uptoBulk d + 1
 end
def uptoSmall : (H : Type) → List (DataW H) → Bool := fun _ ds => decide (uptoBulkAll ds ≤ 1048576)
def OpenSpec.upto (s : _root_.Go.ChangeSpec) : _root_.Go.OpenSpec := { _root_.Go.OpenSpec.ofChange s with cond := some uptoSmall }

/-- 'laws.FnPadded', WHERE WHAT IT READS IS OF BULK AT MOST 1048576: true; the input reads as it did. -/
def fnPaddedUptoRow : OpenClaim := { program := "ytkicfiacnpifkad", sum := "0062ebb92337afbaf6901f1c4443338cbca17dc72c9b2f63d6b26ee9cc8927ff", func := "loop.example/g00199/laws.FnPadded", spec := "fnPadded", apart := false, narrowed := true }
def FnPaddedUptoSaid : Prop := fnPaddedUptoRow.holds Try.pinned (OpenSpec.upto fnPaddedSpec)

/-- 'laws.FnSpent', WHERE WHAT IT READS IS OF BULK AT MOST 1048576: true; the input reads as it did. -/
def fnSpentUptoRow : OpenClaim := { program := "ytkicfiacnpifkad", sum := "0062ebb92337afbaf6901f1c4443338cbca17dc72c9b2f63d6b26ee9cc8927ff", func := "loop.example/g00199/laws.FnSpent", spec := "fnSpent", unfollowed := true, recurses := true, apart := false, narrowed := true }
def FnSpentUptoSaid : Prop := fnSpentUptoRow.holds Try.pinned (OpenSpec.upto fnSpentSpec)

/-- 'laws.FnLanes', WHERE WHAT IT READS IS OF BULK AT MOST 1048576: true; the input reads as it did. -/
def fnLanesUptoRow : OpenClaim := { program := "ytkicfiacnpifkad", sum := "0062ebb92337afbaf6901f1c4443338cbca17dc72c9b2f63d6b26ee9cc8927ff", func := "loop.example/g00199/laws.FnLanes", spec := "fnLanes", inPlace := ["slices.overlaps[loop.example/g00199/impl.Lane]"], unfollowed := true, recurses := true, apart := false, narrowed := true }
def FnLanesUptoSaid : Prop := fnLanesUptoRow.holds Try.pinned (OpenSpec.upto fnLanesSpec)

end Rows
end Go.Proofs.Ytkicfiacnpifkad
