/-
  NARROWER THAN 'FOR EVERY INPUT', by the rows' own cells (each row's printed sentence says how): FnExactServerOk: ifaces, laid · FnExactServe: ifaces, laid · FnExactSyncAll: ifaces, laid · FnExactCrashServer: ifaces, laid.
  DERIVED. THE GIVEN ROWS OF THIS SEAT. 4 by the template 'for every input the law returns true; each argument reads behind the call as it read before'; 0 by the template 'total and deterministic' (their statements: YtpjldfpipchmjavGreatDoorTotals.lean).
  GIVEN WITH THE SEED: the statements are not yours to turn. If you find one false, say at which input.
  Laid BY PROGRAM, IN A SANDBOX (cutbox-rows.mjs): the forced cells as the released guide's own fill.sh prints them over the translation 3521de6a0caa598a… (all of the seat's roots in one cut). By AI agents, Wed Nov 11 2026. No macro, syntax, notation, axiom, sorry.
-/
import Derived.Test.YtpjldfpipchmjavGreatDoorChecked
import GoSem.Claim
import GoSem.ClaimJoined
import GoSem.ClaimMapViews
import Derived.JoinedTies
import Derived.KernelRfl
namespace Go.Proofs.YtpjldfpipchmjavGreatDoor
/- THE CELL 'sum', in the pinned program and in every row, IS THE sha256 OF THE DUMP (.gsa) THAT YtpjldfpipchmjavGreatDoorProg.lean LOADS. Nothing in Lean hashes anything: it is a label: what it is worth is what the hold of that sum in a sandbox is worth. -/
noncomputable def Tryz.pinned : Pinned := { name := "ytpjldfpipchmjavgreatdoor", sum := "3521de6a0caa598a2a89a1507c0d3b9e7ec1876feb19cf3f72b53cad879af221", checked := Tryz.checked }
namespace Rows
def none {H : Type} : Left H := { results := [], args := [] }

/- WHAT THE LISTED PACKAGE-LEVEL VARIABLES READ AS WHEN THE CALL BEGINS. Each datum BY PROGRAM (the guide's laid-datum.mjs) off the statement by which the dump's own 'gosem.cut.vars' lays the variable. In a bare row this is a premise. The card (YtpjldfpipchmjavGreatDoorCards.lean) ties it to the program's text. -/
def laid_loop_example_g00199_impl_recForms {H : Type} : DataW H := .agg [.agg [.lit (.int .i64 0), .lit (.int .i64 0), .lit (.int .i64 0)], .agg [.lit (.int .i64 1000000000), .lit (.int .i64 0), .lit (.int .i64 0)], .agg [.lit (.int .i64 1000000000), .lit (.int .i64 1), .lit (.int .i64 24)], .agg [.lit (.int .i64 0), .lit (.int .i64 0), .lit (.int .i64 0)], .agg [.lit (.int .i64 0), .lit (.int .i64 0), .lit (.int .i64 0)]]
def laid_loop_example_g00199_impl_errNoFit {H : Type} : DataW H := .iface "*errors.errorString" (.ptr (.agg [.lit (.string [97, 32, 114, 101, 99, 111, 114, 100, 32, 100, 111, 101, 115, 32, 110, 111, 116, 32, 102, 105, 116, 32, 98, 101, 104, 105, 110, 100, 32, 116, 104, 111, 115, 101, 32, 97, 104, 101, 97, 100, 32, 111, 102, 32, 105, 116])]))
def laid_loop_example_g00199_impl_methods {H : Type} : DataW H := .agg [.agg [.lit (.string []), .lit (.string []), .lit (.int .i64 0)], .agg [.lit (.string [80, 79, 83, 84]), .lit (.string [117, 112, 108, 111, 97, 100, 45, 108, 101, 110, 103, 116, 104]), .lit (.int .i64 1000000000)], .agg [.lit (.string [72, 69, 65, 68]), .lit (.string []), .lit (.int .i64 0)], .agg [.lit (.string [80, 65, 84, 67, 72]), .lit (.string [117, 112, 108, 111, 97, 100, 45, 111, 102, 102, 115, 101, 116]), .lit (.int .i64 1000000000)], .agg [.lit (.string [80, 85, 84]), .lit (.string [117, 112, 108, 111, 97, 100, 45, 115, 117, 109]), .lit (.int .i64 4294967295)], .agg [.lit (.string [71, 69, 84]), .lit (.string []), .lit (.int .i64 0)], .agg [.lit (.string [68, 69, 76, 69, 84, 69]), .lit (.string []), .lit (.int .i64 0)]]
def laid_loop_example_g00199_impl_goodMeanings {H : Type} : DataW H := .agg [.agg [.lit (.int .i64 0), .lit (.bool false)], .agg [.lit (.int .i64 201), .lit (.bool true)], .agg [.lit (.int .i64 200), .lit (.bool true)], .agg [.lit (.int .i64 204), .lit (.bool true)], .agg [.lit (.int .i64 200), .lit (.bool false)], .agg [.lit (.int .i64 200), .lit (.bool true)], .agg [.lit (.int .i64 204), .lit (.bool false)]]

/-- 'laws.FnExactServerOk': WHATEVER THE INPUT: true; the input reads as it did. -/
def fnExactServerOkSpec : ChangeSpec := { name := "fnExactServerOk", vars := ["loop.example/g00199/impl.recForms", "loop.example/g00199/impl.errNoFit"], fn := fun _ => fun
  | [d, g1, g2] => { results := [.lit (.bool true)], args := [d], vars := [g1, g2] }
  | _ => none }
def fnExactServerOkRow : OpenClaim := { program := "ytpjldfpipchmjavgreatdoor", sum := "3521de6a0caa598a2a89a1507c0d3b9e7ec1876feb19cf3f72b53cad879af221", func := "loop.example/g00199/laws.FnExactServerOk", spec := "fnExactServerOk", inPlace := ["slices.overlaps[loop.example/g00199/impl.Up]"], unfollowed := true, recurses := true, named := ["loop.example/g00199/impl.recForms", "loop.example/g00199/impl.errNoFit"], ifaces := true, apart := false, laid := [("loop.example/g00199/impl.recForms", laid_loop_example_g00199_impl_recForms), ("loop.example/g00199/impl.errNoFit", laid_loop_example_g00199_impl_errNoFit)] }
def FnExactServerOkSaid : Prop := fnExactServerOkRow.holds Tryz.pinned (OpenSpec.ofChange fnExactServerOkSpec)

/-- ITS FALSE NEIGHBOUR: 'it returns false'. Refute it at one input. -/
def fnExactServerOkWrong : ChangeSpec := { name := "fnExactServerOk", vars := ["loop.example/g00199/impl.recForms", "loop.example/g00199/impl.errNoFit"], fn := fun _ => fun
  | [d, g1, g2] => { results := [.lit (.bool false)], args := [d], vars := [g1, g2] }
  | _ => none }
def FnExactServerOkWrongFalsely : Prop := fnExactServerOkRow.holds Tryz.pinned (OpenSpec.ofChange fnExactServerOkWrong)

/-- 'laws.FnExactServe': WHATEVER THE INPUT: true; the input reads as it did. -/
def fnExactServeSpec : ChangeSpec := { name := "fnExactServe", vars := ["loop.example/g00199/impl.recForms", "loop.example/g00199/impl.errNoFit", "loop.example/g00199/impl.methods", "loop.example/g00199/impl.goodMeanings"], fn := fun _ => fun
  | [d1, d2, d3, d4, g1, g2, g3, g4] => { results := [.lit (.bool true)], args := [d1, d2, d3, d4], vars := [g1, g2, g3, g4] }
  | _ => none }
def fnExactServeRow : OpenClaim := { program := "ytpjldfpipchmjavgreatdoor", sum := "3521de6a0caa598a2a89a1507c0d3b9e7ec1876feb19cf3f72b53cad879af221", func := "loop.example/g00199/laws.FnExactServe", spec := "fnExactServe", inPlace := ["slices.overlaps[loop.example/g00199/impl.Up]"], unfollowed := true, recurses := true, named := ["loop.example/g00199/impl.recForms", "loop.example/g00199/impl.errNoFit", "loop.example/g00199/impl.methods", "loop.example/g00199/impl.goodMeanings"], ifaces := true, apart := false, laid := [("loop.example/g00199/impl.methods", laid_loop_example_g00199_impl_methods), ("loop.example/g00199/impl.recForms", laid_loop_example_g00199_impl_recForms), ("loop.example/g00199/impl.errNoFit", laid_loop_example_g00199_impl_errNoFit), ("loop.example/g00199/impl.goodMeanings", laid_loop_example_g00199_impl_goodMeanings)] }
def FnExactServeSaid : Prop := fnExactServeRow.holds Tryz.pinned (OpenSpec.ofChange fnExactServeSpec)

/-- ITS FALSE NEIGHBOUR: 'it returns false'. Refute it at one input. -/
def fnExactServeWrong : ChangeSpec := { name := "fnExactServe", vars := ["loop.example/g00199/impl.recForms", "loop.example/g00199/impl.errNoFit", "loop.example/g00199/impl.methods", "loop.example/g00199/impl.goodMeanings"], fn := fun _ => fun
  | [d1, d2, d3, d4, g1, g2, g3, g4] => { results := [.lit (.bool false)], args := [d1, d2, d3, d4], vars := [g1, g2, g3, g4] }
  | _ => none }
def FnExactServeWrongFalsely : Prop := fnExactServeRow.holds Tryz.pinned (OpenSpec.ofChange fnExactServeWrong)

/-- 'laws.FnExactSyncAll': WHATEVER THE INPUT: true; the input reads as it did. -/
def fnExactSyncAllSpec : ChangeSpec := { name := "fnExactSyncAll", vars := ["loop.example/g00199/impl.recForms", "loop.example/g00199/impl.errNoFit"], fn := fun _ => fun
  | [d, g1, g2] => { results := [.lit (.bool true)], args := [d], vars := [g1, g2] }
  | _ => none }
def fnExactSyncAllRow : OpenClaim := { program := "ytpjldfpipchmjavgreatdoor", sum := "3521de6a0caa598a2a89a1507c0d3b9e7ec1876feb19cf3f72b53cad879af221", func := "loop.example/g00199/laws.FnExactSyncAll", spec := "fnExactSyncAll", inPlace := ["slices.overlaps[loop.example/g00199/impl.Up]"], unfollowed := true, recurses := true, named := ["loop.example/g00199/impl.recForms", "loop.example/g00199/impl.errNoFit"], ifaces := true, apart := false, laid := [("loop.example/g00199/impl.recForms", laid_loop_example_g00199_impl_recForms), ("loop.example/g00199/impl.errNoFit", laid_loop_example_g00199_impl_errNoFit)] }
def FnExactSyncAllSaid : Prop := fnExactSyncAllRow.holds Tryz.pinned (OpenSpec.ofChange fnExactSyncAllSpec)

/-- ITS FALSE NEIGHBOUR: 'it returns false'. Refute it at one input. -/
def fnExactSyncAllWrong : ChangeSpec := { name := "fnExactSyncAll", vars := ["loop.example/g00199/impl.recForms", "loop.example/g00199/impl.errNoFit"], fn := fun _ => fun
  | [d, g1, g2] => { results := [.lit (.bool false)], args := [d], vars := [g1, g2] }
  | _ => none }
def FnExactSyncAllWrongFalsely : Prop := fnExactSyncAllRow.holds Tryz.pinned (OpenSpec.ofChange fnExactSyncAllWrong)

/-- 'laws.FnExactCrashServer': WHATEVER THE INPUT: true; the input reads as it did. -/
def fnExactCrashServerSpec : ChangeSpec := { name := "fnExactCrashServer", vars := ["loop.example/g00199/impl.recForms", "loop.example/g00199/impl.errNoFit"], fn := fun _ => fun
  | [d1, d2, g1, g2] => { results := [.lit (.bool true)], args := [d1, d2], vars := [g1, g2] }
  | _ => none }
def fnExactCrashServerRow : OpenClaim := { program := "ytpjldfpipchmjavgreatdoor", sum := "3521de6a0caa598a2a89a1507c0d3b9e7ec1876feb19cf3f72b53cad879af221", func := "loop.example/g00199/laws.FnExactCrashServer", spec := "fnExactCrashServer", inPlace := ["slices.overlaps[loop.example/g00199/impl.Up]"], unfollowed := true, recurses := true, named := ["loop.example/g00199/impl.recForms", "loop.example/g00199/impl.errNoFit"], ifaces := true, apart := false, laid := [("loop.example/g00199/impl.recForms", laid_loop_example_g00199_impl_recForms), ("loop.example/g00199/impl.errNoFit", laid_loop_example_g00199_impl_errNoFit)] }
def FnExactCrashServerSaid : Prop := fnExactCrashServerRow.holds Tryz.pinned (OpenSpec.ofChange fnExactCrashServerSpec)

/-- ITS FALSE NEIGHBOUR: 'it returns false'. Refute it at one input. -/
def fnExactCrashServerWrong : ChangeSpec := { name := "fnExactCrashServer", vars := ["loop.example/g00199/impl.recForms", "loop.example/g00199/impl.errNoFit"], fn := fun _ => fun
  | [d1, d2, g1, g2] => { results := [.lit (.bool false)], args := [d1, d2], vars := [g1, g2] }
  | _ => none }
def FnExactCrashServerWrongFalsely : Prop := fnExactCrashServerRow.holds Tryz.pinned (OpenSpec.ofChange fnExactCrashServerWrong)

/- THE SECOND FORM. 'bulk': how many values and letters a reading holds, each counted each time it is reached (what is shared counts as often as it is met; a slice's spare places count too). A statement '..UptoSaid' is the law's where the arguments, and the package variables that the reading takes, are together of bulk at most 1048576: NARROWER than '..Said'. Prove '..Said' where nothing that the law and all that it calls make is longer than what came in: it says more and counts as full. Else prove '..UptoSaid'. A law counts once. -/
mutual
def uptoBulk {H : Type} : DataW H → Nat
  | .lit (.string bytes) => bytes.length + 1
  | .lit _ => 1
  | .nil => 1
  | .ptr d => uptoBulk d + 1
  | .slice elems spare => uptoBulkAll elems + uptoBulkAll spare + 1
  | .agg parts => uptoBulkAll parts + 1
  | .iface _ d => uptoBulk d + 1
  | .map entries => uptoBulkEntries entries + 1
  | .held _ => 1
def uptoBulkAll {H : Type} : List (DataW H) → Nat
  | [] => 0
  | d :: r => uptoBulk d + uptoBulkAll r
def uptoBulkEntries {H : Type} : List (Lit × DataW H) → Nat
  | [] => 0
  | x :: r => uptoBulkEntry x + uptoBulkEntries r
def uptoBulkEntry {H : Type} : Lit × DataW H → Nat
  | (.string bytes, d) => bytes.length + uptoBulk d + 1
  | (_, d) => uptoBulk d + 1
 end
def uptoSmall : (H : Type) → List (DataW H) → Bool := fun _ ds => decide (uptoBulkAll ds ≤ 1048576)
def OpenSpec.upto (s : _root_.Go.ChangeSpec) : _root_.Go.OpenSpec := { _root_.Go.OpenSpec.ofChange s with cond := some uptoSmall }

/-- 'laws.FnExactServerOk', WHERE WHAT IT READS IS OF BULK AT MOST 1048576: true; the input reads as it did. -/
def fnExactServerOkUptoRow : OpenClaim := { program := "ytpjldfpipchmjavgreatdoor", sum := "3521de6a0caa598a2a89a1507c0d3b9e7ec1876feb19cf3f72b53cad879af221", func := "loop.example/g00199/laws.FnExactServerOk", spec := "fnExactServerOk", inPlace := ["slices.overlaps[loop.example/g00199/impl.Up]"], unfollowed := true, recurses := true, named := ["loop.example/g00199/impl.recForms", "loop.example/g00199/impl.errNoFit"], ifaces := true, apart := false, laid := [("loop.example/g00199/impl.recForms", laid_loop_example_g00199_impl_recForms), ("loop.example/g00199/impl.errNoFit", laid_loop_example_g00199_impl_errNoFit)], narrowed := true }
def FnExactServerOkUptoSaid : Prop := fnExactServerOkUptoRow.holds Tryz.pinned (OpenSpec.upto fnExactServerOkSpec)

/-- 'laws.FnExactServe', WHERE WHAT IT READS IS OF BULK AT MOST 1048576: true; the input reads as it did. -/
def fnExactServeUptoRow : OpenClaim := { program := "ytpjldfpipchmjavgreatdoor", sum := "3521de6a0caa598a2a89a1507c0d3b9e7ec1876feb19cf3f72b53cad879af221", func := "loop.example/g00199/laws.FnExactServe", spec := "fnExactServe", inPlace := ["slices.overlaps[loop.example/g00199/impl.Up]"], unfollowed := true, recurses := true, named := ["loop.example/g00199/impl.recForms", "loop.example/g00199/impl.errNoFit", "loop.example/g00199/impl.methods", "loop.example/g00199/impl.goodMeanings"], ifaces := true, apart := false, laid := [("loop.example/g00199/impl.methods", laid_loop_example_g00199_impl_methods), ("loop.example/g00199/impl.recForms", laid_loop_example_g00199_impl_recForms), ("loop.example/g00199/impl.errNoFit", laid_loop_example_g00199_impl_errNoFit), ("loop.example/g00199/impl.goodMeanings", laid_loop_example_g00199_impl_goodMeanings)], narrowed := true }
def FnExactServeUptoSaid : Prop := fnExactServeUptoRow.holds Tryz.pinned (OpenSpec.upto fnExactServeSpec)

/-- 'laws.FnExactSyncAll', WHERE WHAT IT READS IS OF BULK AT MOST 1048576: true; the input reads as it did. -/
def fnExactSyncAllUptoRow : OpenClaim := { program := "ytpjldfpipchmjavgreatdoor", sum := "3521de6a0caa598a2a89a1507c0d3b9e7ec1876feb19cf3f72b53cad879af221", func := "loop.example/g00199/laws.FnExactSyncAll", spec := "fnExactSyncAll", inPlace := ["slices.overlaps[loop.example/g00199/impl.Up]"], unfollowed := true, recurses := true, named := ["loop.example/g00199/impl.recForms", "loop.example/g00199/impl.errNoFit"], ifaces := true, apart := false, laid := [("loop.example/g00199/impl.recForms", laid_loop_example_g00199_impl_recForms), ("loop.example/g00199/impl.errNoFit", laid_loop_example_g00199_impl_errNoFit)], narrowed := true }
def FnExactSyncAllUptoSaid : Prop := fnExactSyncAllUptoRow.holds Tryz.pinned (OpenSpec.upto fnExactSyncAllSpec)

/-- 'laws.FnExactCrashServer', WHERE WHAT IT READS IS OF BULK AT MOST 1048576: true; the input reads as it did. -/
def fnExactCrashServerUptoRow : OpenClaim := { program := "ytpjldfpipchmjavgreatdoor", sum := "3521de6a0caa598a2a89a1507c0d3b9e7ec1876feb19cf3f72b53cad879af221", func := "loop.example/g00199/laws.FnExactCrashServer", spec := "fnExactCrashServer", inPlace := ["slices.overlaps[loop.example/g00199/impl.Up]"], unfollowed := true, recurses := true, named := ["loop.example/g00199/impl.recForms", "loop.example/g00199/impl.errNoFit"], ifaces := true, apart := false, laid := [("loop.example/g00199/impl.recForms", laid_loop_example_g00199_impl_recForms), ("loop.example/g00199/impl.errNoFit", laid_loop_example_g00199_impl_errNoFit)], narrowed := true }
def FnExactCrashServerUptoSaid : Prop := fnExactCrashServerUptoRow.holds Tryz.pinned (OpenSpec.upto fnExactCrashServerSpec)

end Rows
end Go.Proofs.YtpjldfpipchmjavGreatDoor
