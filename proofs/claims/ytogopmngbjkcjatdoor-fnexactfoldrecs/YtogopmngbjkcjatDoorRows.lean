/-
  NARROWER THAN 'FOR EVERY INPUT', by the rows' own cells (each row's printed sentence says how): FnExactTopEpoch: laid · FnExactFoldRecs: ifaces, laid · FnExactStoreOk: ifaces, laid.
  DERIVED. THE GIVEN ROWS OF THIS SEAT. 3 by the template 'for every input the law returns true; each argument reads behind the call as it read before'; 0 by the template 'total and deterministic' (their statements: YtogopmngbjkcjatDoorTotals.lean).
  GIVEN WITH THE SEED: the statements are not yours to turn. If you find one false, say at which input.
  Laid BY PROGRAM, IN A SANDBOX (cutbox-rows.mjs): the forced cells as the released guide's own fill.sh prints them over the translation 88b048c86155796c… (all of the seat's roots in one cut). By AI agents, Wed Nov 11 2026. No macro, syntax, notation, axiom, sorry.
-/
import Derived.Test.YtogopmngbjkcjatDoorChecked
import GoSem.Claim
import GoSem.ClaimJoined
import GoSem.ClaimMapViews
import Derived.JoinedTies
import Derived.KernelRfl
namespace Go.Proofs.YtogopmngbjkcjatDoor
/- THE CELL 'sum', in the pinned program and in every row, IS THE sha256 OF THE DUMP (.gsa) THAT YtogopmngbjkcjatDoorProg.lean LOADS. Nothing in Lean hashes anything: it is a label: what it is worth is what the hold of that sum in a sandbox is worth. -/
noncomputable def Tryd.pinned : Pinned := { name := "ytogopmngbjkcjatdoor", sum := "88b048c86155796cea87783e940fba94d3e341b28ede72dee45eb9a80bdcb72b", checked := Tryd.checked }
namespace Rows
def none {H : Type} : Left H := { results := [], args := [] }

/- WHAT THE LISTED PACKAGE-LEVEL VARIABLES READ AS WHEN THE CALL BEGINS. Each datum BY PROGRAM (the guide's laid-datum.mjs) off the statement by which the dump's own 'gosem.cut.vars' lays the variable. In a bare row this is a premise. The card (YtogopmngbjkcjatDoorCards.lean) ties it to the program's text. -/
def laid_loop_example_g00199_impl_recForms {H : Type} : DataW H := .agg [.agg [.lit (.int .i64 0), .lit (.int .i64 0), .lit (.int .i64 0)], .agg [.lit (.int .i64 1000000000), .lit (.int .i64 0), .lit (.int .i64 0)], .agg [.lit (.int .i64 1000000000), .lit (.int .i64 1), .lit (.int .i64 24)], .agg [.lit (.int .i64 0), .lit (.int .i64 0), .lit (.int .i64 0)], .agg [.lit (.int .i64 0), .lit (.int .i64 0), .lit (.int .i64 0)]]
def laid_loop_example_g00199_impl_errNoFit {H : Type} : DataW H := .iface "*errors.errorString" (.ptr (.agg [.lit (.string [97, 32, 114, 101, 99, 111, 114, 100, 32, 100, 111, 101, 115, 32, 110, 111, 116, 32, 102, 105, 116, 32, 98, 101, 104, 105, 110, 100, 32, 116, 104, 111, 115, 101, 32, 97, 104, 101, 97, 100, 32, 111, 102, 32, 105, 116])]))

/-- 'laws.FnExactTopEpoch': WHATEVER THE INPUT: true; the input reads as it did. -/
def fnExactTopEpochSpec : ChangeSpec := { name := "fnExactTopEpoch", vars := ["loop.example/g00199/impl.recForms"], fn := fun _ => fun
  | [d, g1] => { results := [.lit (.bool true)], args := [d], vars := [g1] }
  | _ => none }
def fnExactTopEpochRow : OpenClaim := { program := "ytogopmngbjkcjatdoor", sum := "88b048c86155796cea87783e940fba94d3e341b28ede72dee45eb9a80bdcb72b", func := "loop.example/g00199/laws.FnExactTopEpoch", spec := "fnExactTopEpoch", named := ["loop.example/g00199/impl.recForms"], apart := false, laid := [("loop.example/g00199/impl.recForms", laid_loop_example_g00199_impl_recForms)] }
def FnExactTopEpochSaid : Prop := fnExactTopEpochRow.holds Tryd.pinned (OpenSpec.ofChange fnExactTopEpochSpec)

/-- ITS FALSE NEIGHBOUR: 'it returns false'. Refute it at one input. -/
def fnExactTopEpochWrong : ChangeSpec := { name := "fnExactTopEpoch", vars := ["loop.example/g00199/impl.recForms"], fn := fun _ => fun
  | [d, g1] => { results := [.lit (.bool false)], args := [d], vars := [g1] }
  | _ => none }
def FnExactTopEpochWrongFalsely : Prop := fnExactTopEpochRow.holds Tryd.pinned (OpenSpec.ofChange fnExactTopEpochWrong)

/-- 'laws.FnExactFoldRecs': WHATEVER THE INPUT: true; the input reads as it did. -/
def fnExactFoldRecsSpec : ChangeSpec := { name := "fnExactFoldRecs", vars := ["loop.example/g00199/impl.errNoFit"], fn := fun _ => fun
  | [d, g1] => { results := [.lit (.bool true)], args := [d], vars := [g1] }
  | _ => none }
def fnExactFoldRecsRow : OpenClaim := { program := "ytogopmngbjkcjatdoor", sum := "88b048c86155796cea87783e940fba94d3e341b28ede72dee45eb9a80bdcb72b", func := "loop.example/g00199/laws.FnExactFoldRecs", spec := "fnExactFoldRecs", inPlace := ["slices.overlaps[loop.example/g00199/impl.Up]"], unfollowed := true, recurses := true, named := ["loop.example/g00199/impl.errNoFit"], ifaces := true, apart := false, laid := [("loop.example/g00199/impl.errNoFit", laid_loop_example_g00199_impl_errNoFit)] }
def FnExactFoldRecsSaid : Prop := fnExactFoldRecsRow.holds Tryd.pinned (OpenSpec.ofChange fnExactFoldRecsSpec)

/-- ITS FALSE NEIGHBOUR: 'it returns false'. Refute it at one input. -/
def fnExactFoldRecsWrong : ChangeSpec := { name := "fnExactFoldRecs", vars := ["loop.example/g00199/impl.errNoFit"], fn := fun _ => fun
  | [d, g1] => { results := [.lit (.bool false)], args := [d], vars := [g1] }
  | _ => none }
def FnExactFoldRecsWrongFalsely : Prop := fnExactFoldRecsRow.holds Tryd.pinned (OpenSpec.ofChange fnExactFoldRecsWrong)

/-- 'laws.FnExactStoreOk': WHATEVER THE INPUT: true; the input reads as it did. -/
def fnExactStoreOkSpec : ChangeSpec := { name := "fnExactStoreOk", vars := ["loop.example/g00199/impl.recForms", "loop.example/g00199/impl.errNoFit"], fn := fun _ => fun
  | [d, g1, g2] => { results := [.lit (.bool true)], args := [d], vars := [g1, g2] }
  | _ => none }
def fnExactStoreOkRow : OpenClaim := { program := "ytogopmngbjkcjatdoor", sum := "88b048c86155796cea87783e940fba94d3e341b28ede72dee45eb9a80bdcb72b", func := "loop.example/g00199/laws.FnExactStoreOk", spec := "fnExactStoreOk", inPlace := ["slices.overlaps[loop.example/g00199/impl.Up]"], unfollowed := true, recurses := true, named := ["loop.example/g00199/impl.recForms", "loop.example/g00199/impl.errNoFit"], ifaces := true, apart := false, laid := [("loop.example/g00199/impl.recForms", laid_loop_example_g00199_impl_recForms), ("loop.example/g00199/impl.errNoFit", laid_loop_example_g00199_impl_errNoFit)] }
def FnExactStoreOkSaid : Prop := fnExactStoreOkRow.holds Tryd.pinned (OpenSpec.ofChange fnExactStoreOkSpec)

/-- ITS FALSE NEIGHBOUR: 'it returns false'. Refute it at one input. -/
def fnExactStoreOkWrong : ChangeSpec := { name := "fnExactStoreOk", vars := ["loop.example/g00199/impl.recForms", "loop.example/g00199/impl.errNoFit"], fn := fun _ => fun
  | [d, g1, g2] => { results := [.lit (.bool false)], args := [d], vars := [g1, g2] }
  | _ => none }
def FnExactStoreOkWrongFalsely : Prop := fnExactStoreOkRow.holds Tryd.pinned (OpenSpec.ofChange fnExactStoreOkWrong)

/- THE SECOND FORM. 'bulk': how many values and letters a reading holds, each counted each time it is reached (what is shared counts as often as it is met; a slice's spare places count too). A statement '..UptoSaid' is the law's where the arguments, and the package variables that the reading takes, are together of bulk at most 1048576: NARROWER than '..Said'. Prove '..Said' where nothing that the law and all that it calls make is longer than what came in: it says more and counts as full. Else prove '..UptoSaid'. A law counts once. -/
mutual
def uptoBulk {H : Type} : DataW H → Nat
  | .lit (.string bytes) => bytes.length + 1
  | .lit _ => 1
  | .nil => 1
  | .ptr d => uptoBulk d + 1
  | .slice elems spare => uptoBulkAll elems + uptoBulkAll spare + 1
  | .agg parts => uptoBulkAll parts + 1
  | .iface _ d => uptoBulk d + 1
  | .map entries => uptoBulkEntries entries + 1
  | .held _ => 1
def uptoBulkAll {H : Type} : List (DataW H) → Nat
  | [] => 0
  | d :: r => uptoBulk d + uptoBulkAll r
def uptoBulkEntries {H : Type} : List (Lit × DataW H) → Nat
  | [] => 0
  | x :: r => uptoBulkEntry x + uptoBulkEntries r
def uptoBulkEntry {H : Type} : Lit × DataW H → Nat
  | (.string bytes, d) => bytes.length + uptoBulk d + 1
  | (_, d) => uptoBulk d + 1
 end
def uptoSmall : (H : Type) → List (DataW H) → Bool := fun _ ds => decide (uptoBulkAll ds ≤ 1048576)
def OpenSpec.upto (s : _root_.Go.ChangeSpec) : _root_.Go.OpenSpec := { _root_.Go.OpenSpec.ofChange s with cond := some uptoSmall }

/-- 'laws.FnExactTopEpoch', WHERE WHAT IT READS IS OF BULK AT MOST 1048576: true; the input reads as it did. -/
def fnExactTopEpochUptoRow : OpenClaim := { program := "ytogopmngbjkcjatdoor", sum := "88b048c86155796cea87783e940fba94d3e341b28ede72dee45eb9a80bdcb72b", func := "loop.example/g00199/laws.FnExactTopEpoch", spec := "fnExactTopEpoch", named := ["loop.example/g00199/impl.recForms"], apart := false, laid := [("loop.example/g00199/impl.recForms", laid_loop_example_g00199_impl_recForms)], narrowed := true }
def FnExactTopEpochUptoSaid : Prop := fnExactTopEpochUptoRow.holds Tryd.pinned (OpenSpec.upto fnExactTopEpochSpec)

/-- 'laws.FnExactFoldRecs', WHERE WHAT IT READS IS OF BULK AT MOST 1048576: true; the input reads as it did. -/
def fnExactFoldRecsUptoRow : OpenClaim := { program := "ytogopmngbjkcjatdoor", sum := "88b048c86155796cea87783e940fba94d3e341b28ede72dee45eb9a80bdcb72b", func := "loop.example/g00199/laws.FnExactFoldRecs", spec := "fnExactFoldRecs", inPlace := ["slices.overlaps[loop.example/g00199/impl.Up]"], unfollowed := true, recurses := true, named := ["loop.example/g00199/impl.errNoFit"], ifaces := true, apart := false, laid := [("loop.example/g00199/impl.errNoFit", laid_loop_example_g00199_impl_errNoFit)], narrowed := true }
def FnExactFoldRecsUptoSaid : Prop := fnExactFoldRecsUptoRow.holds Tryd.pinned (OpenSpec.upto fnExactFoldRecsSpec)

/-- 'laws.FnExactStoreOk', WHERE WHAT IT READS IS OF BULK AT MOST 1048576: true; the input reads as it did. -/
def fnExactStoreOkUptoRow : OpenClaim := { program := "ytogopmngbjkcjatdoor", sum := "88b048c86155796cea87783e940fba94d3e341b28ede72dee45eb9a80bdcb72b", func := "loop.example/g00199/laws.FnExactStoreOk", spec := "fnExactStoreOk", inPlace := ["slices.overlaps[loop.example/g00199/impl.Up]"], unfollowed := true, recurses := true, named := ["loop.example/g00199/impl.recForms", "loop.example/g00199/impl.errNoFit"], ifaces := true, apart := false, laid := [("loop.example/g00199/impl.recForms", laid_loop_example_g00199_impl_recForms), ("loop.example/g00199/impl.errNoFit", laid_loop_example_g00199_impl_errNoFit)], narrowed := true }
def FnExactStoreOkUptoSaid : Prop := fnExactStoreOkUptoRow.holds Tryd.pinned (OpenSpec.upto fnExactStoreOkSpec)

end Rows
end Go.Proofs.YtogopmngbjkcjatDoor
