/-
  NARROWER THAN 'FOR EVERY INPUT', by the rows' own cells (each row's printed sentence says how): FnExactFeed: laid · FnExactStreamStep: laid · FnExactStreamRun: laid · FnExactMayPut: laid · FnExactMayGet: laid.
  DERIVED. THE GIVEN ROWS OF THIS SEAT. 5 by the template 'for every input the law returns true; each argument reads behind the call as it read before'; 0 by the template 'total and deterministic' (their statements: YtcfinhepcpjcnaoDoorTotals.lean).
  GIVEN WITH THE SEED: the statements are not yours to turn. If you find one false, say at which input.
  Laid BY PROGRAM, IN A SANDBOX (cutbox-rows.mjs): the forced cells as the released guide's own fill.sh prints them over the translation 9f9fdf5fb135959a… (all of the seat's roots in one cut). By AI agents, Wed Nov 11 2026. No macro, syntax, notation, axiom, sorry.
-/
import Derived.Test.YtcfinhepcpjcnaoDoorChecked
import GoSem.Claim
import GoSem.ClaimJoined
import GoSem.ClaimMapViews
import Derived.JoinedTies
import Derived.KernelRfl
namespace Go.Proofs.YtcfinhepcpjcnaoDoor
/- THE CELL 'sum', in the pinned program and in every row, IS THE sha256 OF THE DUMP (.gsa) THAT YtcfinhepcpjcnaoDoorProg.lean LOADS. Nothing in Lean hashes anything: it is a label: what it is worth is what the hold of that sum in a sandbox is worth. -/
noncomputable def Tryd.pinned : Pinned := { name := "ytcfinhepcpjcnaodoor", sum := "9f9fdf5fb135959a6c26fb721fb6be75083207e3c06cf37e764b5704ac8c86f2", checked := Tryd.checked }
namespace Rows
def none {H : Type} : Left H := { results := [], args := [] }

/- WHAT THE LISTED PACKAGE-LEVEL VARIABLES READ AS WHEN THE CALL BEGINS. Each datum BY PROGRAM (the guide's laid-datum.mjs) off the statement by which the dump's own 'gosem.cut.vars' lays the variable. In a bare row this is a premise. The card (YtcfinhepcpjcnaoDoorCards.lean) ties it to the program's text. -/
def laid_errors_errorType {H : Type} : DataW H := .iface "internal/reflectlite.rtype" (.agg [.ptr (.lit (.string [101, 114, 114, 111, 114]))])
def laid_loop_example_g00199_impl_streamSteps {H : Type} : DataW H := .agg [.agg [.lit (.int .i64 0), .lit (.int .i64 1), .lit (.int .i64 2), .lit (.int .i64 (-1)), .lit (.int .i64 (-1)), .lit (.int .i64 (-1)), .lit (.int .i64 1), .lit (.int .i64 3), .lit (.int .i64 (-1)), .lit (.int .i64 (-1)), .lit (.int .i64 (-1))], .agg [.lit (.int .i64 0), .lit (.int .i64 (-1)), .lit (.int .i64 2), .lit (.int .i64 1), .lit (.int .i64 2), .lit (.int .i64 4), .lit (.int .i64 1), .lit (.int .i64 3), .lit (.int .i64 1), .lit (.int .i64 3), .lit (.int .i64 4)], .agg [.lit (.int .i64 0), .lit (.int .i64 (-2)), .lit (.int .i64 (-2)), .lit (.int .i64 (-2)), .lit (.int .i64 (-2)), .lit (.int .i64 4), .lit (.int .i64 2), .lit (.int .i64 4), .lit (.int .i64 2), .lit (.int .i64 4), .lit (.int .i64 4)], .agg [.lit (.int .i64 0), .lit (.int .i64 (-1)), .lit (.int .i64 4), .lit (.int .i64 3), .lit (.int .i64 4), .lit (.int .i64 4), .lit (.int .i64 (-2)), .lit (.int .i64 (-2)), .lit (.int .i64 (-2)), .lit (.int .i64 (-2)), .lit (.int .i64 4)], .agg [.lit (.int .i64 0), .lit (.int .i64 (-2)), .lit (.int .i64 (-2)), .lit (.int .i64 (-2)), .lit (.int .i64 (-2)), .lit (.int .i64 4), .lit (.int .i64 (-2)), .lit (.int .i64 (-2)), .lit (.int .i64 (-2)), .lit (.int .i64 (-2)), .lit (.int .i64 (-2))]]

/-- 'laws.FnExactFeed': WHATEVER THE INPUT: true; the input reads as it did. -/
def fnExactFeedSpec : ChangeSpec := { name := "fnExactFeed", fn := fun _ => fun
  | [d1, d2] => { results := [.lit (.bool true)], args := [d1, d2] }
  | _ => none }
def fnExactFeedRow : OpenClaim := { program := "ytcfinhepcpjcnaodoor", sum := "9f9fdf5fb135959a6c26fb721fb6be75083207e3c06cf37e764b5704ac8c86f2", func := "loop.example/g00199/laws.FnExactFeed", spec := "fnExactFeed", inPlace := ["internal/reflectlite.ValueOf", "(internal/reflectlite.Value).Type", "(internal/reflectlite.Value).IsNil", "internal/reflectlite.TypeOf", "(internal/reflectlite.Value).Elem", "(internal/reflectlite.Value).Set"], unfollowed := true, recurses := true, named := ["errors.errorType"], apart := false, laid := [("errors.errorType", laid_errors_errorType)] }
def FnExactFeedSaid : Prop := fnExactFeedRow.holds Tryd.pinned (OpenSpec.ofChange fnExactFeedSpec)

/-- ITS FALSE NEIGHBOUR: 'it returns false'. Refute it at one input. -/
def fnExactFeedWrong : ChangeSpec := { name := "fnExactFeed", fn := fun _ => fun
  | [d1, d2] => { results := [.lit (.bool false)], args := [d1, d2] }
  | _ => none }
def FnExactFeedWrongFalsely : Prop := fnExactFeedRow.holds Tryd.pinned (OpenSpec.ofChange fnExactFeedWrong)

/-- 'laws.FnExactStreamStep': WHATEVER THE INPUT: true; the input reads as it did. -/
def fnExactStreamStepSpec : ChangeSpec := { name := "fnExactStreamStep", vars := ["loop.example/g00199/impl.streamSteps"], fn := fun _ => fun
  | [d1, d2, g1] => { results := [.lit (.bool true)], args := [d1, d2], vars := [g1] }
  | _ => none }
def fnExactStreamStepRow : OpenClaim := { program := "ytcfinhepcpjcnaodoor", sum := "9f9fdf5fb135959a6c26fb721fb6be75083207e3c06cf37e764b5704ac8c86f2", func := "loop.example/g00199/laws.FnExactStreamStep", spec := "fnExactStreamStep", named := ["loop.example/g00199/impl.streamSteps"], apart := false, laid := [("loop.example/g00199/impl.streamSteps", laid_loop_example_g00199_impl_streamSteps)] }
def FnExactStreamStepSaid : Prop := fnExactStreamStepRow.holds Tryd.pinned (OpenSpec.ofChange fnExactStreamStepSpec)

/-- ITS FALSE NEIGHBOUR: 'it returns false'. Refute it at one input. -/
def fnExactStreamStepWrong : ChangeSpec := { name := "fnExactStreamStep", vars := ["loop.example/g00199/impl.streamSteps"], fn := fun _ => fun
  | [d1, d2, g1] => { results := [.lit (.bool false)], args := [d1, d2], vars := [g1] }
  | _ => none }
def FnExactStreamStepWrongFalsely : Prop := fnExactStreamStepRow.holds Tryd.pinned (OpenSpec.ofChange fnExactStreamStepWrong)

/-- 'laws.FnExactStreamRun': WHATEVER THE INPUT: true; the input reads as it did. -/
def fnExactStreamRunSpec : ChangeSpec := { name := "fnExactStreamRun", vars := ["loop.example/g00199/impl.streamSteps"], fn := fun _ => fun
  | [d, g1] => { results := [.lit (.bool true)], args := [d], vars := [g1] }
  | _ => none }
def fnExactStreamRunRow : OpenClaim := { program := "ytcfinhepcpjcnaodoor", sum := "9f9fdf5fb135959a6c26fb721fb6be75083207e3c06cf37e764b5704ac8c86f2", func := "loop.example/g00199/laws.FnExactStreamRun", spec := "fnExactStreamRun", named := ["loop.example/g00199/impl.streamSteps"], apart := false, laid := [("loop.example/g00199/impl.streamSteps", laid_loop_example_g00199_impl_streamSteps)] }
def FnExactStreamRunSaid : Prop := fnExactStreamRunRow.holds Tryd.pinned (OpenSpec.ofChange fnExactStreamRunSpec)

/-- ITS FALSE NEIGHBOUR: 'it returns false'. Refute it at one input. -/
def fnExactStreamRunWrong : ChangeSpec := { name := "fnExactStreamRun", vars := ["loop.example/g00199/impl.streamSteps"], fn := fun _ => fun
  | [d, g1] => { results := [.lit (.bool false)], args := [d], vars := [g1] }
  | _ => none }
def FnExactStreamRunWrongFalsely : Prop := fnExactStreamRunRow.holds Tryd.pinned (OpenSpec.ofChange fnExactStreamRunWrong)

/-- 'laws.FnExactMayPut': WHATEVER THE INPUT: true; the input reads as it did. -/
def fnExactMayPutSpec : ChangeSpec := { name := "fnExactMayPut", vars := ["loop.example/g00199/impl.streamSteps"], fn := fun _ => fun
  | [d, g1] => { results := [.lit (.bool true)], args := [d], vars := [g1] }
  | _ => none }
def fnExactMayPutRow : OpenClaim := { program := "ytcfinhepcpjcnaodoor", sum := "9f9fdf5fb135959a6c26fb721fb6be75083207e3c06cf37e764b5704ac8c86f2", func := "loop.example/g00199/laws.FnExactMayPut", spec := "fnExactMayPut", named := ["loop.example/g00199/impl.streamSteps"], apart := false, laid := [("loop.example/g00199/impl.streamSteps", laid_loop_example_g00199_impl_streamSteps)] }
def FnExactMayPutSaid : Prop := fnExactMayPutRow.holds Tryd.pinned (OpenSpec.ofChange fnExactMayPutSpec)

/-- ITS FALSE NEIGHBOUR: 'it returns false'. Refute it at one input. -/
def fnExactMayPutWrong : ChangeSpec := { name := "fnExactMayPut", vars := ["loop.example/g00199/impl.streamSteps"], fn := fun _ => fun
  | [d, g1] => { results := [.lit (.bool false)], args := [d], vars := [g1] }
  | _ => none }
def FnExactMayPutWrongFalsely : Prop := fnExactMayPutRow.holds Tryd.pinned (OpenSpec.ofChange fnExactMayPutWrong)

/-- 'laws.FnExactMayGet': WHATEVER THE INPUT: true; the input reads as it did. -/
def fnExactMayGetSpec : ChangeSpec := { name := "fnExactMayGet", vars := ["loop.example/g00199/impl.streamSteps"], fn := fun _ => fun
  | [d, g1] => { results := [.lit (.bool true)], args := [d], vars := [g1] }
  | _ => none }
def fnExactMayGetRow : OpenClaim := { program := "ytcfinhepcpjcnaodoor", sum := "9f9fdf5fb135959a6c26fb721fb6be75083207e3c06cf37e764b5704ac8c86f2", func := "loop.example/g00199/laws.FnExactMayGet", spec := "fnExactMayGet", named := ["loop.example/g00199/impl.streamSteps"], apart := false, laid := [("loop.example/g00199/impl.streamSteps", laid_loop_example_g00199_impl_streamSteps)] }
def FnExactMayGetSaid : Prop := fnExactMayGetRow.holds Tryd.pinned (OpenSpec.ofChange fnExactMayGetSpec)

/-- ITS FALSE NEIGHBOUR: 'it returns false'. Refute it at one input. -/
def fnExactMayGetWrong : ChangeSpec := { name := "fnExactMayGet", vars := ["loop.example/g00199/impl.streamSteps"], fn := fun _ => fun
  | [d, g1] => { results := [.lit (.bool false)], args := [d], vars := [g1] }
  | _ => none }
def FnExactMayGetWrongFalsely : Prop := fnExactMayGetRow.holds Tryd.pinned (OpenSpec.ofChange fnExactMayGetWrong)

/- THE SECOND FORM. 'bulk': how many values and letters a reading holds, each counted each time it is reached (what is shared counts as often as it is met; a slice's spare places count too). A statement '..UptoSaid' is the law's where the arguments, and the package variables that the reading takes, are together of bulk at most 1048576: NARROWER than '..Said'. Prove '..Said' where nothing that the law and all that it calls make is longer than what came in: it says more and counts as full. Else prove '..UptoSaid'. A law counts once. -/
mutual
def uptoBulk {H : Type} : DataW H → Nat
  | .lit (.string bytes) => bytes.length + 1
  | .lit _ => 1
  | .nil => 1
  | .ptr d => uptoBulk d + 1
  | .slice elems spare => uptoBulkAll elems + uptoBulkAll spare + 1
  | .agg parts => uptoBulkAll parts + 1
  | .iface _ d => uptoBulk d + 1
  | .map entries => uptoBulkEntries entries + 1
  | .held _ => 1
def uptoBulkAll {H : Type} : List (DataW H) → Nat
  | [] => 0
  | d :: r => uptoBulk d + uptoBulkAll r
def uptoBulkEntries {H : Type} : List (Lit × DataW H) → Nat
  | [] => 0
  | x :: r => uptoBulkEntry x + uptoBulkEntries r
def uptoBulkEntry {H : Type} : Lit × DataW H → Nat
  | (.string bytes, d) => bytes.length + uptoBulk d + 1
  | (_, d) => uptoBulk d + 1
 end
def uptoSmall : (H : Type) → List (DataW H) → Bool := fun _ ds => decide (uptoBulkAll ds ≤ 1048576)
def OpenSpec.upto (s : _root_.Go.ChangeSpec) : _root_.Go.OpenSpec := { _root_.Go.OpenSpec.ofChange s with cond := some uptoSmall }

/-- 'laws.FnExactFeed', WHERE WHAT IT READS IS OF BULK AT MOST 1048576: true; the input reads as it did. -/
def fnExactFeedUptoRow : OpenClaim := { program := "ytcfinhepcpjcnaodoor", sum := "9f9fdf5fb135959a6c26fb721fb6be75083207e3c06cf37e764b5704ac8c86f2", func := "loop.example/g00199/laws.FnExactFeed", spec := "fnExactFeed", inPlace := ["internal/reflectlite.ValueOf", "(internal/reflectlite.Value).Type", "(internal/reflectlite.Value).IsNil", "internal/reflectlite.TypeOf", "(internal/reflectlite.Value).Elem", "(internal/reflectlite.Value).Set"], unfollowed := true, recurses := true, named := ["errors.errorType"], apart := false, laid := [("errors.errorType", laid_errors_errorType)], narrowed := true }
def FnExactFeedUptoSaid : Prop := fnExactFeedUptoRow.holds Tryd.pinned (OpenSpec.upto fnExactFeedSpec)

/-- 'laws.FnExactStreamStep', WHERE WHAT IT READS IS OF BULK AT MOST 1048576: true; the input reads as it did. -/
def fnExactStreamStepUptoRow : OpenClaim := { program := "ytcfinhepcpjcnaodoor", sum := "9f9fdf5fb135959a6c26fb721fb6be75083207e3c06cf37e764b5704ac8c86f2", func := "loop.example/g00199/laws.FnExactStreamStep", spec := "fnExactStreamStep", named := ["loop.example/g00199/impl.streamSteps"], apart := false, laid := [("loop.example/g00199/impl.streamSteps", laid_loop_example_g00199_impl_streamSteps)], narrowed := true }
def FnExactStreamStepUptoSaid : Prop := fnExactStreamStepUptoRow.holds Tryd.pinned (OpenSpec.upto fnExactStreamStepSpec)

/-- 'laws.FnExactStreamRun', WHERE WHAT IT READS IS OF BULK AT MOST 1048576: true; the input reads as it did. -/
def fnExactStreamRunUptoRow : OpenClaim := { program := "ytcfinhepcpjcnaodoor", sum := "9f9fdf5fb135959a6c26fb721fb6be75083207e3c06cf37e764b5704ac8c86f2", func := "loop.example/g00199/laws.FnExactStreamRun", spec := "fnExactStreamRun", named := ["loop.example/g00199/impl.streamSteps"], apart := false, laid := [("loop.example/g00199/impl.streamSteps", laid_loop_example_g00199_impl_streamSteps)], narrowed := true }
def FnExactStreamRunUptoSaid : Prop := fnExactStreamRunUptoRow.holds Tryd.pinned (OpenSpec.upto fnExactStreamRunSpec)

/-- 'laws.FnExactMayPut', WHERE WHAT IT READS IS OF BULK AT MOST 1048576: true; the input reads as it did. -/
def fnExactMayPutUptoRow : OpenClaim := { program := "ytcfinhepcpjcnaodoor", sum := "9f9fdf5fb135959a6c26fb721fb6be75083207e3c06cf37e764b5704ac8c86f2", func := "loop.example/g00199/laws.FnExactMayPut", spec := "fnExactMayPut", named := ["loop.example/g00199/impl.streamSteps"], apart := false, laid := [("loop.example/g00199/impl.streamSteps", laid_loop_example_g00199_impl_streamSteps)], narrowed := true }
def FnExactMayPutUptoSaid : Prop := fnExactMayPutUptoRow.holds Tryd.pinned (OpenSpec.upto fnExactMayPutSpec)

/-- 'laws.FnExactMayGet', WHERE WHAT IT READS IS OF BULK AT MOST 1048576: true; the input reads as it did. -/
def fnExactMayGetUptoRow : OpenClaim := { program := "ytcfinhepcpjcnaodoor", sum := "9f9fdf5fb135959a6c26fb721fb6be75083207e3c06cf37e764b5704ac8c86f2", func := "loop.example/g00199/laws.FnExactMayGet", spec := "fnExactMayGet", named := ["loop.example/g00199/impl.streamSteps"], apart := false, laid := [("loop.example/g00199/impl.streamSteps", laid_loop_example_g00199_impl_streamSteps)], narrowed := true }
def FnExactMayGetUptoSaid : Prop := fnExactMayGetUptoRow.holds Tryd.pinned (OpenSpec.upto fnExactMayGetSpec)

end Rows
end Go.Proofs.YtcfinhepcpjcnaoDoor
