/-
  NARROWER THAN 'FOR EVERY INPUT', by the rows' own cells (each row's printed sentence says how): FnParted: laid · FnGathered: laid · FnStreams: laid.
  DERIVED. THE GIVEN ROWS OF THIS SEAT. 3 by the template 'for every input the law returns true; each argument reads behind the call as it read before'; 0 by the template 'total and deterministic' (their statements: YtpjldfpipchmjadDoorTotals.lean).
  GIVEN WITH THE SEED: the statements are not yours to turn. If you find one false, say at which input.
  Laid BY PROGRAM, IN A SANDBOX (cutbox-rows.mjs): the forced cells as the released guide's own fill.sh prints them over the translation ecf98849297578d1… (all of the seat's roots in one cut). By AI agents, Wed Nov 11 2026. No macro, syntax, notation, axiom, sorry.
-/
import Derived.Test.YtpjldfpipchmjadDoorChecked
import GoSem.Claim
import GoSem.ClaimJoined
import GoSem.ClaimMapViews
import Derived.JoinedTies
import Derived.KernelRfl
namespace Go.Proofs.YtpjldfpipchmjadDoor
/- THE CELL 'sum', in the pinned program and in every row, IS THE sha256 OF THE DUMP (.gsa) THAT YtpjldfpipchmjadDoorProg.lean LOADS. Nothing in Lean hashes anything: it is a label: what it is worth is what the hold of that sum in a sandbox is worth. -/
noncomputable def Tryd.pinned : Pinned := { name := "ytpjldfpipchmjaddoor", sum := "ecf98849297578d10bb8cfbf86336a41c25e651aff6b5f68d339a0bf5861314a", checked := Tryd.checked }
namespace Rows
def none {H : Type} : Left H := { results := [], args := [] }

/- WHAT THE LISTED PACKAGE-LEVEL VARIABLES READ AS WHEN THE CALL BEGINS. Each datum BY PROGRAM (the guide's laid-datum.mjs) off the statement by which the dump's own 'gosem.cut.vars' lays the variable. In a bare row this is a premise. The card (YtpjldfpipchmjadDoorCards.lean) ties it to the program's text. -/
def laid_errors_errorType {H : Type} : DataW H := .iface "internal/reflectlite.rtype" (.agg [.ptr (.lit (.string [101, 114, 114, 111, 114]))])
def laid_loop_example_g00199_impl_streamSteps {H : Type} : DataW H := .agg [.agg [.lit (.int .i64 0), .lit (.int .i64 1), .lit (.int .i64 2), .lit (.int .i64 (-1)), .lit (.int .i64 (-1)), .lit (.int .i64 (-1)), .lit (.int .i64 1), .lit (.int .i64 3), .lit (.int .i64 (-1)), .lit (.int .i64 (-1)), .lit (.int .i64 (-1))], .agg [.lit (.int .i64 0), .lit (.int .i64 (-1)), .lit (.int .i64 2), .lit (.int .i64 1), .lit (.int .i64 2), .lit (.int .i64 4), .lit (.int .i64 1), .lit (.int .i64 3), .lit (.int .i64 1), .lit (.int .i64 3), .lit (.int .i64 4)], .agg [.lit (.int .i64 0), .lit (.int .i64 (-2)), .lit (.int .i64 (-2)), .lit (.int .i64 (-2)), .lit (.int .i64 (-2)), .lit (.int .i64 4), .lit (.int .i64 2), .lit (.int .i64 4), .lit (.int .i64 2), .lit (.int .i64 4), .lit (.int .i64 4)], .agg [.lit (.int .i64 0), .lit (.int .i64 (-1)), .lit (.int .i64 4), .lit (.int .i64 3), .lit (.int .i64 4), .lit (.int .i64 4), .lit (.int .i64 (-2)), .lit (.int .i64 (-2)), .lit (.int .i64 (-2)), .lit (.int .i64 (-2)), .lit (.int .i64 4)], .agg [.lit (.int .i64 0), .lit (.int .i64 (-2)), .lit (.int .i64 (-2)), .lit (.int .i64 (-2)), .lit (.int .i64 (-2)), .lit (.int .i64 4), .lit (.int .i64 (-2)), .lit (.int .i64 (-2)), .lit (.int .i64 (-2)), .lit (.int .i64 (-2)), .lit (.int .i64 (-2))]]

/-- 'laws.FnParted': WHATEVER THE INPUT: true; the input reads as it did. -/
def fnPartedSpec : ChangeSpec := { name := "fnParted", fn := fun _ => fun
  | [d] => { results := [.lit (.bool true)], args := [d] }
  | _ => none }
def fnPartedRow : OpenClaim := { program := "ytpjldfpipchmjaddoor", sum := "ecf98849297578d10bb8cfbf86336a41c25e651aff6b5f68d339a0bf5861314a", func := "loop.example/g00199/laws.FnParted", spec := "fnParted", inPlace := ["internal/reflectlite.ValueOf", "(internal/reflectlite.Value).Type", "(internal/reflectlite.Value).IsNil", "internal/reflectlite.TypeOf", "(internal/reflectlite.Value).Elem", "(internal/reflectlite.Value).Set"], unfollowed := true, recurses := true, named := ["errors.errorType"], apart := false, laid := [("errors.errorType", laid_errors_errorType)] }
def FnPartedSaid : Prop := fnPartedRow.holds Tryd.pinned (OpenSpec.ofChange fnPartedSpec)

/-- ITS FALSE NEIGHBOUR: 'it returns false'. Refute it at one input. -/
def fnPartedWrong : ChangeSpec := { name := "fnParted", fn := fun _ => fun
  | [d] => { results := [.lit (.bool false)], args := [d] }
  | _ => none }
def FnPartedWrongFalsely : Prop := fnPartedRow.holds Tryd.pinned (OpenSpec.ofChange fnPartedWrong)

/-- 'laws.FnGathered': WHATEVER THE INPUT: true; the input reads as it did. -/
def fnGatheredSpec : ChangeSpec := { name := "fnGathered", fn := fun _ => fun
  | [d] => { results := [.lit (.bool true)], args := [d] }
  | _ => none }
def fnGatheredRow : OpenClaim := { program := "ytpjldfpipchmjaddoor", sum := "ecf98849297578d10bb8cfbf86336a41c25e651aff6b5f68d339a0bf5861314a", func := "loop.example/g00199/laws.FnGathered", spec := "fnGathered", inPlace := ["internal/reflectlite.ValueOf", "(internal/reflectlite.Value).Type", "(internal/reflectlite.Value).IsNil", "internal/reflectlite.TypeOf", "(internal/reflectlite.Value).Elem", "(internal/reflectlite.Value).Set"], unfollowed := true, recurses := true, named := ["errors.errorType"], apart := false, laid := [("errors.errorType", laid_errors_errorType)] }
def FnGatheredSaid : Prop := fnGatheredRow.holds Tryd.pinned (OpenSpec.ofChange fnGatheredSpec)

/-- ITS FALSE NEIGHBOUR: 'it returns false'. Refute it at one input. -/
def fnGatheredWrong : ChangeSpec := { name := "fnGathered", fn := fun _ => fun
  | [d] => { results := [.lit (.bool false)], args := [d] }
  | _ => none }
def FnGatheredWrongFalsely : Prop := fnGatheredRow.holds Tryd.pinned (OpenSpec.ofChange fnGatheredWrong)

/-- 'laws.FnStreams': WHATEVER THE INPUT: true; the input reads as it did. -/
def fnStreamsSpec : ChangeSpec := { name := "fnStreams", vars := ["loop.example/g00199/impl.streamSteps"], fn := fun _ => fun
  | [d, g1] => { results := [.lit (.bool true)], args := [d], vars := [g1] }
  | _ => none }
def fnStreamsRow : OpenClaim := { program := "ytpjldfpipchmjaddoor", sum := "ecf98849297578d10bb8cfbf86336a41c25e651aff6b5f68d339a0bf5861314a", func := "loop.example/g00199/laws.FnStreams", spec := "fnStreams", named := ["loop.example/g00199/impl.streamSteps"], apart := false, laid := [("loop.example/g00199/impl.streamSteps", laid_loop_example_g00199_impl_streamSteps)] }
def FnStreamsSaid : Prop := fnStreamsRow.holds Tryd.pinned (OpenSpec.ofChange fnStreamsSpec)

/-- ITS FALSE NEIGHBOUR: 'it returns false'. Refute it at one input. -/
def fnStreamsWrong : ChangeSpec := { name := "fnStreams", vars := ["loop.example/g00199/impl.streamSteps"], fn := fun _ => fun
  | [d, g1] => { results := [.lit (.bool false)], args := [d], vars := [g1] }
  | _ => none }
def FnStreamsWrongFalsely : Prop := fnStreamsRow.holds Tryd.pinned (OpenSpec.ofChange fnStreamsWrong)

/- THE SECOND FORM. 'bulk': how many values and letters a reading holds, each counted each time it is reached (what is shared counts as often as it is met; a slice's spare places count too). A statement '..UptoSaid' is the law's where the arguments, and the package variables that the reading takes, are together of bulk at most 1048576: NARROWER than '..Said'. Prove '..Said' where nothing that the law and all that it calls make is longer than what came in: it says more and counts as full. Else prove '..UptoSaid'. A law counts once. -/
mutual
def uptoBulk {H : Type} : DataW H → Nat
  | .lit (.string bytes) => bytes.length + 1
  | .lit _ => 1
  | .nil => 1
  | .ptr d => uptoBulk d + 1
  | .slice elems spare => uptoBulkAll elems + uptoBulkAll spare + 1
  | .agg parts => uptoBulkAll parts + 1
  | .iface _ d => uptoBulk d + 1
  | .map entries => uptoBulkEntries entries + 1
  | .held _ => 1
def uptoBulkAll {H : Type} : List (DataW H) → Nat
  | [] => 0
  | d :: r => uptoBulk d + uptoBulkAll r
def uptoBulkEntries {H : Type} : List (Lit × DataW H) → Nat
  | [] => 0
  | x :: r => uptoBulkEntry x + uptoBulkEntries r
def uptoBulkEntry {H : Type} : Lit × DataW H → Nat
  | (.string bytes, d) => bytes.length + uptoBulk d + 1
  | (_, d) => uptoBulk d + 1
 end
def uptoSmall : (H : Type) → List (DataW H) → Bool := fun _ ds => decide (uptoBulkAll ds ≤ 1048576)
def OpenSpec.upto (s : _root_.Go.ChangeSpec) : _root_.Go.OpenSpec := { _root_.Go.OpenSpec.ofChange s with cond := some uptoSmall }

/-- 'laws.FnParted', WHERE WHAT IT READS IS OF BULK AT MOST 1048576: true; the input reads as it did. -/
def fnPartedUptoRow : OpenClaim := { program := "ytpjldfpipchmjaddoor", sum := "ecf98849297578d10bb8cfbf86336a41c25e651aff6b5f68d339a0bf5861314a", func := "loop.example/g00199/laws.FnParted", spec := "fnParted", inPlace := ["internal/reflectlite.ValueOf", "(internal/reflectlite.Value).Type", "(internal/reflectlite.Value).IsNil", "internal/reflectlite.TypeOf", "(internal/reflectlite.Value).Elem", "(internal/reflectlite.Value).Set"], unfollowed := true, recurses := true, named := ["errors.errorType"], apart := false, laid := [("errors.errorType", laid_errors_errorType)], narrowed := true }
def FnPartedUptoSaid : Prop := fnPartedUptoRow.holds Tryd.pinned (OpenSpec.upto fnPartedSpec)

/-- 'laws.FnGathered', WHERE WHAT IT READS IS OF BULK AT MOST 1048576: true; the input reads as it did. -/
def fnGatheredUptoRow : OpenClaim := { program := "ytpjldfpipchmjaddoor", sum := "ecf98849297578d10bb8cfbf86336a41c25e651aff6b5f68d339a0bf5861314a", func := "loop.example/g00199/laws.FnGathered", spec := "fnGathered", inPlace := ["internal/reflectlite.ValueOf", "(internal/reflectlite.Value).Type", "(internal/reflectlite.Value).IsNil", "internal/reflectlite.TypeOf", "(internal/reflectlite.Value).Elem", "(internal/reflectlite.Value).Set"], unfollowed := true, recurses := true, named := ["errors.errorType"], apart := false, laid := [("errors.errorType", laid_errors_errorType)], narrowed := true }
def FnGatheredUptoSaid : Prop := fnGatheredUptoRow.holds Tryd.pinned (OpenSpec.upto fnGatheredSpec)

/-- 'laws.FnStreams', WHERE WHAT IT READS IS OF BULK AT MOST 1048576: true; the input reads as it did. -/
def fnStreamsUptoRow : OpenClaim := { program := "ytpjldfpipchmjaddoor", sum := "ecf98849297578d10bb8cfbf86336a41c25e651aff6b5f68d339a0bf5861314a", func := "loop.example/g00199/laws.FnStreams", spec := "fnStreams", named := ["loop.example/g00199/impl.streamSteps"], apart := false, laid := [("loop.example/g00199/impl.streamSteps", laid_loop_example_g00199_impl_streamSteps)], narrowed := true }
def FnStreamsUptoSaid : Prop := fnStreamsUptoRow.holds Tryd.pinned (OpenSpec.upto fnStreamsSpec)

end Rows
end Go.Proofs.YtpjldfpipchmjadDoor
