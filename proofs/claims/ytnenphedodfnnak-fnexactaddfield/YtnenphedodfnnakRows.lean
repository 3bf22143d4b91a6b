/-
  No cell of these rows narrows 'for every input' (looked for: loops, veiled, ifaces, maps, wideKeys, modest, calm, conditions, laid).
  DERIVED. THE GIVEN ROWS OF THIS SEAT. 6 by the template 'for every input the law returns true; each argument reads behind the call as it read before'; 0 by the template 'total and deterministic' (their statements: YtnenphedodfnnakTotals.lean).
  GIVEN WITH THE SEED: the statements are not yours to turn. If you find one false, say at which input.
  Laid BY PROGRAM, IN A SANDBOX (cutbox-rows.mjs): the forced cells as the released guide's own fill.sh prints them over the translation 696cca21822e7dbb… (all of the seat's roots in one cut). By AI agents, Wed Nov 11 2026. No macro, syntax, notation, axiom, sorry.
-/
import Derived.Test.YtnenphedodfnnakChecked
import GoSem.Claim
import GoSem.ClaimJoined
import GoSem.ClaimMapViews
import Derived.JoinedTies
import Derived.KernelRfl
namespace Go.Proofs.Ytnenphedodfnnak
/- THE CELL 'sum', in the pinned program and in every row, IS THE sha256 OF THE DUMP (.gsa) THAT YtnenphedodfnnakProg.lean LOADS. Nothing in Lean hashes anything: it is a label: what it is worth is what the hold of that sum in a sandbox is worth. -/
noncomputable def Try.pinned : Pinned := { name := "ytnenphedodfnnak", sum := "696cca21822e7dbb9c91c5ebf7e99fa7e13cd2db5a9ba31cd524b367417bb31f", checked := Try.checked }
namespace Rows
def none {H : Type} : Left H := { results := [], args := [] }

/-- 'laws.FnExactSizeOf': WHATEVER THE INPUT: true; the input reads as it did. -/
def fnExactSizeOfSpec : ChangeSpec := { name := "fnExactSizeOf", fn := fun _ => fun
  | [d] => { results := [.lit (.bool true)], args := [d] }
  | _ => none }
def fnExactSizeOfRow : OpenClaim := { program := "ytnenphedodfnnak", sum := "696cca21822e7dbb9c91c5ebf7e99fa7e13cd2db5a9ba31cd524b367417bb31f", func := "loop.example/g00199/laws.FnExactSizeOf", spec := "fnExactSizeOf", plainKeys := false, apart := false }
def FnExactSizeOfSaid : Prop := fnExactSizeOfRow.holds Try.pinned (OpenSpec.ofChange fnExactSizeOfSpec)

/-- ITS FALSE NEIGHBOUR: 'it returns false'. Refute it at one input. -/
def fnExactSizeOfWrong : ChangeSpec := { name := "fnExactSizeOf", fn := fun _ => fun
  | [d] => { results := [.lit (.bool false)], args := [d] }
  | _ => none }
def FnExactSizeOfWrongFalsely : Prop := fnExactSizeOfRow.holds Try.pinned (OpenSpec.ofChange fnExactSizeOfWrong)

/-- 'laws.FnExactTableOk': WHATEVER THE INPUT: true; the input reads as it did. -/
def fnExactTableOkSpec : ChangeSpec := { name := "fnExactTableOk", fn := fun _ => fun
  | [d] => { results := [.lit (.bool true)], args := [d] }
  | _ => none }
def fnExactTableOkRow : OpenClaim := { program := "ytnenphedodfnnak", sum := "696cca21822e7dbb9c91c5ebf7e99fa7e13cd2db5a9ba31cd524b367417bb31f", func := "loop.example/g00199/laws.FnExactTableOk", spec := "fnExactTableOk", plainKeys := false, apart := false }
def FnExactTableOkSaid : Prop := fnExactTableOkRow.holds Try.pinned (OpenSpec.ofChange fnExactTableOkSpec)

/-- ITS FALSE NEIGHBOUR: 'it returns false'. Refute it at one input. -/
def fnExactTableOkWrong : ChangeSpec := { name := "fnExactTableOk", fn := fun _ => fun
  | [d] => { results := [.lit (.bool false)], args := [d] }
  | _ => none }
def FnExactTableOkWrongFalsely : Prop := fnExactTableOkRow.holds Try.pinned (OpenSpec.ofChange fnExactTableOkWrong)

/-- 'laws.FnExactAddField': WHATEVER THE INPUT: true; the input reads as it did. -/
def fnExactAddFieldSpec : ChangeSpec := { name := "fnExactAddField", fn := fun _ => fun
  | [d1, d2] => { results := [.lit (.bool true)], args := [d1, d2] }
  | _ => none }
def fnExactAddFieldRow : OpenClaim := { program := "ytnenphedodfnnak", sum := "696cca21822e7dbb9c91c5ebf7e99fa7e13cd2db5a9ba31cd524b367417bb31f", func := "loop.example/g00199/laws.FnExactAddField", spec := "fnExactAddField", unfollowed := true, recurses := true, plainKeys := false, apart := false }
def FnExactAddFieldSaid : Prop := fnExactAddFieldRow.holds Try.pinned (OpenSpec.ofChange fnExactAddFieldSpec)

/-- ITS FALSE NEIGHBOUR: 'it returns false'. Refute it at one input. -/
def fnExactAddFieldWrong : ChangeSpec := { name := "fnExactAddField", fn := fun _ => fun
  | [d1, d2] => { results := [.lit (.bool false)], args := [d1, d2] }
  | _ => none }
def FnExactAddFieldWrongFalsely : Prop := fnExactAddFieldRow.holds Try.pinned (OpenSpec.ofChange fnExactAddFieldWrong)

/-- 'laws.FnExactResize': WHATEVER THE INPUT: true; the input reads as it did. -/
def fnExactResizeSpec : ChangeSpec := { name := "fnExactResize", fn := fun _ => fun
  | [d1, d2] => { results := [.lit (.bool true)], args := [d1, d2] }
  | _ => none }
def fnExactResizeRow : OpenClaim := { program := "ytnenphedodfnnak", sum := "696cca21822e7dbb9c91c5ebf7e99fa7e13cd2db5a9ba31cd524b367417bb31f", func := "loop.example/g00199/laws.FnExactResize", spec := "fnExactResize", unfollowed := true, recurses := true, plainKeys := false, apart := false }
def FnExactResizeSaid : Prop := fnExactResizeRow.holds Try.pinned (OpenSpec.ofChange fnExactResizeSpec)

/-- ITS FALSE NEIGHBOUR: 'it returns false'. Refute it at one input. -/
def fnExactResizeWrong : ChangeSpec := { name := "fnExactResize", fn := fun _ => fun
  | [d1, d2] => { results := [.lit (.bool false)], args := [d1, d2] }
  | _ => none }
def FnExactResizeWrongFalsely : Prop := fnExactResizeRow.holds Try.pinned (OpenSpec.ofChange fnExactResizeWrong)

/-- 'laws.FnExactFieldAt': WHATEVER THE INPUT: true; the input reads as it did. -/
def fnExactFieldAtSpec : ChangeSpec := { name := "fnExactFieldAt", fn := fun _ => fun
  | [d1, d2] => { results := [.lit (.bool true)], args := [d1, d2] }
  | _ => none }
def fnExactFieldAtRow : OpenClaim := { program := "ytnenphedodfnnak", sum := "696cca21822e7dbb9c91c5ebf7e99fa7e13cd2db5a9ba31cd524b367417bb31f", func := "loop.example/g00199/laws.FnExactFieldAt", spec := "fnExactFieldAt", plainKeys := false, apart := false }
def FnExactFieldAtSaid : Prop := fnExactFieldAtRow.holds Try.pinned (OpenSpec.ofChange fnExactFieldAtSpec)

/-- ITS FALSE NEIGHBOUR: 'it returns false'. Refute it at one input. -/
def fnExactFieldAtWrong : ChangeSpec := { name := "fnExactFieldAt", fn := fun _ => fun
  | [d1, d2] => { results := [.lit (.bool false)], args := [d1, d2] }
  | _ => none }
def FnExactFieldAtWrongFalsely : Prop := fnExactFieldAtRow.holds Try.pinned (OpenSpec.ofChange fnExactFieldAtWrong)

/-- 'laws.FnExactFindField': WHATEVER THE INPUT: true; the input reads as it did. -/
def fnExactFindFieldSpec : ChangeSpec := { name := "fnExactFindField", fn := fun _ => fun
  | [d1, d2] => { results := [.lit (.bool true)], args := [d1, d2] }
  | _ => none }
def fnExactFindFieldRow : OpenClaim := { program := "ytnenphedodfnnak", sum := "696cca21822e7dbb9c91c5ebf7e99fa7e13cd2db5a9ba31cd524b367417bb31f", func := "loop.example/g00199/laws.FnExactFindField", spec := "fnExactFindField", unfollowed := true, recurses := true, plainKeys := false, apart := false }
def FnExactFindFieldSaid : Prop := fnExactFindFieldRow.holds Try.pinned (OpenSpec.ofChange fnExactFindFieldSpec)

/-- ITS FALSE NEIGHBOUR: 'it returns false'. Refute it at one input. -/
def fnExactFindFieldWrong : ChangeSpec := { name := "fnExactFindField", fn := fun _ => fun
  | [d1, d2] => { results := [.lit (.bool false)], args := [d1, d2] }
  | _ => none }
def FnExactFindFieldWrongFalsely : Prop := fnExactFindFieldRow.holds Try.pinned (OpenSpec.ofChange fnExactFindFieldWrong)

/- THE SECOND FORM. 'bulk': how many values and letters a reading holds, each counted each time it is reached (what is shared counts as often as it is met; a slice's spare places count too). A statement '..UptoSaid' is the law's where the arguments, and the package variables that the reading takes, are together of bulk at most 1048576: NARROWER than '..Said'. Prove '..Said' where nothing that the law and all that it calls make is longer than what came in: it says more and counts as full. Else prove '..UptoSaid'. A law counts once. -/
mutual
def uptoBulk {H : Type} : DataW H → Nat
  | .lit (.string bytes) => bytes.length + 1
  | .lit _ => 1
  | .nil => 1
  | .ptr d => uptoBulk d + 1
  | .slice elems spare => uptoBulkAll elems + uptoBulkAll spare + 1
  | .agg parts => uptoBulkAll parts + 1
  | .iface _ d => uptoBulk d + 1
  | .map entries => uptoBulkEntries entries + 1
  | .held _ => 1
def uptoBulkAll {H : Type} : List (DataW H) → Nat
  | [] => 0
  | d :: r => uptoBulk d + uptoBulkAll r
def uptoBulkEntries {H : Type} : List (Lit × DataW H) → Nat
  | [] => 0
  | x :: r => uptoBulkEntry x + uptoBulkEntries r
def uptoBulkEntry {H : Type} : Lit × DataW H → Nat
  | (.string bytes, d) => bytes.length + uptoBulk d + 1
  | (_, d) => uptoBulk d + 1
 end
def uptoSmall : (H : Type) → List (DataW H) → Bool := fun _ ds => decide (uptoBulkAll ds ≤ 1048576)
def OpenSpec.upto (s : _root_.Go.ChangeSpec) : _root_.Go.OpenSpec := { _root_.Go.OpenSpec.ofChange s with cond := some uptoSmall }

/-- 'laws.FnExactSizeOf', WHERE WHAT IT READS IS OF BULK AT MOST 1048576: true; the input reads as it did. -/
def fnExactSizeOfUptoRow : OpenClaim := { program := "ytnenphedodfnnak", sum := "696cca21822e7dbb9c91c5ebf7e99fa7e13cd2db5a9ba31cd524b367417bb31f", func := "loop.example/g00199/laws.FnExactSizeOf", spec := "fnExactSizeOf", plainKeys := false, apart := false, narrowed := true }
def FnExactSizeOfUptoSaid : Prop := fnExactSizeOfUptoRow.holds Try.pinned (OpenSpec.upto fnExactSizeOfSpec)

/-- 'laws.FnExactTableOk', WHERE WHAT IT READS IS OF BULK AT MOST 1048576: true; the input reads as it did. -/
def fnExactTableOkUptoRow : OpenClaim := { program := "ytnenphedodfnnak", sum := "696cca21822e7dbb9c91c5ebf7e99fa7e13cd2db5a9ba31cd524b367417bb31f", func := "loop.example/g00199/laws.FnExactTableOk", spec := "fnExactTableOk", plainKeys := false, apart := false, narrowed := true }
def FnExactTableOkUptoSaid : Prop := fnExactTableOkUptoRow.holds Try.pinned (OpenSpec.upto fnExactTableOkSpec)

/-- 'laws.FnExactAddField', WHERE WHAT IT READS IS OF BULK AT MOST 1048576: true; the input reads as it did. -/
def fnExactAddFieldUptoRow : OpenClaim := { program := "ytnenphedodfnnak", sum := "696cca21822e7dbb9c91c5ebf7e99fa7e13cd2db5a9ba31cd524b367417bb31f", func := "loop.example/g00199/laws.FnExactAddField", spec := "fnExactAddField", unfollowed := true, recurses := true, plainKeys := false, apart := false, narrowed := true }
def FnExactAddFieldUptoSaid : Prop := fnExactAddFieldUptoRow.holds Try.pinned (OpenSpec.upto fnExactAddFieldSpec)

/-- 'laws.FnExactResize', WHERE WHAT IT READS IS OF BULK AT MOST 1048576: true; the input reads as it did. -/
def fnExactResizeUptoRow : OpenClaim := { program := "ytnenphedodfnnak", sum := "696cca21822e7dbb9c91c5ebf7e99fa7e13cd2db5a9ba31cd524b367417bb31f", func := "loop.example/g00199/laws.FnExactResize", spec := "fnExactResize", unfollowed := true, recurses := true, plainKeys := false, apart := false, narrowed := true }
def FnExactResizeUptoSaid : Prop := fnExactResizeUptoRow.holds Try.pinned (OpenSpec.upto fnExactResizeSpec)

/-- 'laws.FnExactFieldAt', WHERE WHAT IT READS IS OF BULK AT MOST 1048576: true; the input reads as it did. -/
def fnExactFieldAtUptoRow : OpenClaim := { program := "ytnenphedodfnnak", sum := "696cca21822e7dbb9c91c5ebf7e99fa7e13cd2db5a9ba31cd524b367417bb31f", func := "loop.example/g00199/laws.FnExactFieldAt", spec := "fnExactFieldAt", plainKeys := false, apart := false, narrowed := true }
def FnExactFieldAtUptoSaid : Prop := fnExactFieldAtUptoRow.holds Try.pinned (OpenSpec.upto fnExactFieldAtSpec)

/-- 'laws.FnExactFindField', WHERE WHAT IT READS IS OF BULK AT MOST 1048576: true; the input reads as it did. -/
def fnExactFindFieldUptoRow : OpenClaim := { program := "ytnenphedodfnnak", sum := "696cca21822e7dbb9c91c5ebf7e99fa7e13cd2db5a9ba31cd524b367417bb31f", func := "loop.example/g00199/laws.FnExactFindField", spec := "fnExactFindField", unfollowed := true, recurses := true, plainKeys := false, apart := false, narrowed := true }
def FnExactFindFieldUptoSaid : Prop := fnExactFindFieldUptoRow.holds Try.pinned (OpenSpec.upto fnExactFindFieldSpec)

end Rows
end Go.Proofs.Ytnenphedodfnnak
