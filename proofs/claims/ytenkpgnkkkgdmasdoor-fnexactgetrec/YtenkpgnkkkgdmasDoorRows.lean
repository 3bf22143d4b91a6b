/-
  NARROWER THAN 'FOR EVERY INPUT', by the rows' own cells (each row's printed sentence says how): FnExactRecOk: laid · FnExactPutRec: laid · FnExactGetRec: laid · FnExactScanRecs: laid.
  DERIVED. THE GIVEN ROWS OF THIS SEAT. 4 by the template 'for every input the law returns true; each argument reads behind the call as it read before'; 0 by the template 'total and deterministic' (their statements: YtenkpgnkkkgdmasDoorTotals.lean).
  GIVEN WITH THE SEED: the statements are not yours to turn. If you find one false, say at which input.
  Laid BY PROGRAM, IN A SANDBOX (cutbox-rows.mjs): the forced cells as the released guide's own fill.sh prints them over the translation 4478bfe0e47a6752… (all of the seat's roots in one cut). By AI agents, Wed Nov 11 2026. No macro, syntax, notation, axiom, sorry.
-/
import Derived.Test.YtenkpgnkkkgdmasDoorChecked
import GoSem.Claim
import GoSem.ClaimJoined
import GoSem.ClaimMapViews
import Derived.JoinedTies
import Derived.KernelRfl
namespace Go.Proofs.YtenkpgnkkkgdmasDoor
/- THE CELL 'sum', in the pinned program and in every row, IS THE sha256 OF THE DUMP (.gsa) THAT YtenkpgnkkkgdmasDoorProg.lean LOADS. Nothing in Lean hashes anything: it is a label: what it is worth is what the hold of that sum in a sandbox is worth. -/
noncomputable def Tryd.pinned : Pinned := { name := "ytenkpgnkkkgdmasdoor", sum := "4478bfe0e47a67521d81dd8f956602a97e3ffd6b53054f41a96bb1dfbafca26e", checked := Tryd.checked }
namespace Rows
def none {H : Type} : Left H := { results := [], args := [] }

/- WHAT THE LISTED PACKAGE-LEVEL VARIABLES READ AS WHEN THE CALL BEGINS. Each datum BY PROGRAM (the guide's laid-datum.mjs) off the statement by which the dump's own 'gosem.cut.vars' lays the variable. In a bare row this is a premise. The card (YtenkpgnkkkgdmasDoorCards.lean) ties it to the program's text. -/
def laid_loop_example_g00199_impl_recForms {H : Type} : DataW H := .agg [.agg [.lit (.int .i64 0), .lit (.int .i64 0), .lit (.int .i64 0)], .agg [.lit (.int .i64 1000000000), .lit (.int .i64 0), .lit (.int .i64 0)], .agg [.lit (.int .i64 1000000000), .lit (.int .i64 1), .lit (.int .i64 24)], .agg [.lit (.int .i64 0), .lit (.int .i64 0), .lit (.int .i64 0)], .agg [.lit (.int .i64 0), .lit (.int .i64 0), .lit (.int .i64 0)]]

/-- 'laws.FnExactRecOk': WHATEVER THE INPUT: true; the input reads as it did. -/
def fnExactRecOkSpec : ChangeSpec := { name := "fnExactRecOk", vars := ["loop.example/g00199/impl.recForms"], fn := fun _ => fun
  | [d, g1] => { results := [.lit (.bool true)], args := [d], vars := [g1] }
  | _ => none }
def fnExactRecOkRow : OpenClaim := { program := "ytenkpgnkkkgdmasdoor", sum := "4478bfe0e47a67521d81dd8f956602a97e3ffd6b53054f41a96bb1dfbafca26e", func := "loop.example/g00199/laws.FnExactRecOk", spec := "fnExactRecOk", named := ["loop.example/g00199/impl.recForms"], apart := false, laid := [("loop.example/g00199/impl.recForms", laid_loop_example_g00199_impl_recForms)] }
def FnExactRecOkSaid : Prop := fnExactRecOkRow.holds Tryd.pinned (OpenSpec.ofChange fnExactRecOkSpec)

/-- ITS FALSE NEIGHBOUR: 'it returns false'. Refute it at one input. -/
def fnExactRecOkWrong : ChangeSpec := { name := "fnExactRecOk", vars := ["loop.example/g00199/impl.recForms"], fn := fun _ => fun
  | [d, g1] => { results := [.lit (.bool false)], args := [d], vars := [g1] }
  | _ => none }
def FnExactRecOkWrongFalsely : Prop := fnExactRecOkRow.holds Tryd.pinned (OpenSpec.ofChange fnExactRecOkWrong)

/-- 'laws.FnExactPutRec': WHATEVER THE INPUT: true; the input reads as it did. -/
def fnExactPutRecSpec : ChangeSpec := { name := "fnExactPutRec", vars := ["loop.example/g00199/impl.recForms"], fn := fun _ => fun
  | [d, g1] => { results := [.lit (.bool true)], args := [d], vars := [g1] }
  | _ => none }
def fnExactPutRecRow : OpenClaim := { program := "ytenkpgnkkkgdmasdoor", sum := "4478bfe0e47a67521d81dd8f956602a97e3ffd6b53054f41a96bb1dfbafca26e", func := "loop.example/g00199/laws.FnExactPutRec", spec := "fnExactPutRec", named := ["loop.example/g00199/impl.recForms"], apart := false, laid := [("loop.example/g00199/impl.recForms", laid_loop_example_g00199_impl_recForms)] }
def FnExactPutRecSaid : Prop := fnExactPutRecRow.holds Tryd.pinned (OpenSpec.ofChange fnExactPutRecSpec)

/-- ITS FALSE NEIGHBOUR: 'it returns false'. Refute it at one input. -/
def fnExactPutRecWrong : ChangeSpec := { name := "fnExactPutRec", vars := ["loop.example/g00199/impl.recForms"], fn := fun _ => fun
  | [d, g1] => { results := [.lit (.bool false)], args := [d], vars := [g1] }
  | _ => none }
def FnExactPutRecWrongFalsely : Prop := fnExactPutRecRow.holds Tryd.pinned (OpenSpec.ofChange fnExactPutRecWrong)

/-- 'laws.FnExactGetRec': WHATEVER THE INPUT: true; the input reads as it did. -/
def fnExactGetRecSpec : ChangeSpec := { name := "fnExactGetRec", vars := ["loop.example/g00199/impl.recForms"], fn := fun _ => fun
  | [d, g1] => { results := [.lit (.bool true)], args := [d], vars := [g1] }
  | _ => none }
def fnExactGetRecRow : OpenClaim := { program := "ytenkpgnkkkgdmasdoor", sum := "4478bfe0e47a67521d81dd8f956602a97e3ffd6b53054f41a96bb1dfbafca26e", func := "loop.example/g00199/laws.FnExactGetRec", spec := "fnExactGetRec", named := ["loop.example/g00199/impl.recForms"], apart := false, laid := [("loop.example/g00199/impl.recForms", laid_loop_example_g00199_impl_recForms)] }
def FnExactGetRecSaid : Prop := fnExactGetRecRow.holds Tryd.pinned (OpenSpec.ofChange fnExactGetRecSpec)

/-- ITS FALSE NEIGHBOUR: 'it returns false'. Refute it at one input. -/
def fnExactGetRecWrong : ChangeSpec := { name := "fnExactGetRec", vars := ["loop.example/g00199/impl.recForms"], fn := fun _ => fun
  | [d, g1] => { results := [.lit (.bool false)], args := [d], vars := [g1] }
  | _ => none }
def FnExactGetRecWrongFalsely : Prop := fnExactGetRecRow.holds Tryd.pinned (OpenSpec.ofChange fnExactGetRecWrong)

/-- 'laws.FnExactScanRecs': WHATEVER THE INPUT: true; the input reads as it did. -/
def fnExactScanRecsSpec : ChangeSpec := { name := "fnExactScanRecs", vars := ["loop.example/g00199/impl.recForms"], fn := fun _ => fun
  | [d, g1] => { results := [.lit (.bool true)], args := [d], vars := [g1] }
  | _ => none }
def fnExactScanRecsRow : OpenClaim := { program := "ytenkpgnkkkgdmasdoor", sum := "4478bfe0e47a67521d81dd8f956602a97e3ffd6b53054f41a96bb1dfbafca26e", func := "loop.example/g00199/laws.FnExactScanRecs", spec := "fnExactScanRecs", named := ["loop.example/g00199/impl.recForms"], apart := false, laid := [("loop.example/g00199/impl.recForms", laid_loop_example_g00199_impl_recForms)] }
def FnExactScanRecsSaid : Prop := fnExactScanRecsRow.holds Tryd.pinned (OpenSpec.ofChange fnExactScanRecsSpec)

/-- ITS FALSE NEIGHBOUR: 'it returns false'. Refute it at one input. -/
def fnExactScanRecsWrong : ChangeSpec := { name := "fnExactScanRecs", vars := ["loop.example/g00199/impl.recForms"], fn := fun _ => fun
  | [d, g1] => { results := [.lit (.bool false)], args := [d], vars := [g1] }
  | _ => none }
def FnExactScanRecsWrongFalsely : Prop := fnExactScanRecsRow.holds Tryd.pinned (OpenSpec.ofChange fnExactScanRecsWrong)

/- THE SECOND FORM. 'bulk': how many values and letters a reading holds, each counted each time it is reached (what is shared counts as often as it is met; a slice's spare places count too). A statement '..UptoSaid' is the law's where the arguments, and the package variables that the reading takes, are together of bulk at most 1048576: NARROWER than '..Said'. Prove '..Said' where nothing that the law and all that it calls make is longer than what came in: it says more and counts as full. Else prove '..UptoSaid'. A law counts once. -/
mutual
def uptoBulk {H : Type} : DataW H → Nat
  | .lit (.string bytes) => bytes.length + 1
  | .lit _ => 1
  | .nil => 1
  | .ptr d => uptoBulk d + 1
  | .slice elems spare => uptoBulkAll elems + uptoBulkAll spare + 1
  | .agg parts => uptoBulkAll parts + 1
  | .iface _ d => uptoBulk d + 1
  | .map entries => uptoBulkEntries entries + 1
  | .held _ => 1
def uptoBulkAll {H : Type} : List (DataW H) → Nat
  | [] => 0
  | d :: r => uptoBulk d + uptoBulkAll r
def uptoBulkEntries {H : Type} : List (Lit × DataW H) → Nat
  | [] => 0
  | x :: r => uptoBulkEntry x + uptoBulkEntries r
def uptoBulkEntry {H : Type} : Lit × DataW H → Nat
  | (.string bytes, d) => bytes.length + uptoBulk d + 1
  | (_, d) => uptoBulk d + 1
 end
def uptoSmall : (H : Type) → List (DataW H) → Bool := fun _ ds => decide (uptoBulkAll ds ≤ 1048576)
def OpenSpec.upto (s : _root_.Go.ChangeSpec) : _root_.Go.OpenSpec := { _root_.Go.OpenSpec.ofChange s with cond := some uptoSmall }

/-- 'laws.FnExactRecOk', WHERE WHAT IT READS IS OF BULK AT MOST 1048576: true; the input reads as it did. -/
def fnExactRecOkUptoRow : OpenClaim := { program := "ytenkpgnkkkgdmasdoor", sum := "4478bfe0e47a67521d81dd8f956602a97e3ffd6b53054f41a96bb1dfbafca26e", func := "loop.example/g00199/laws.FnExactRecOk", spec := "fnExactRecOk", named := ["loop.example/g00199/impl.recForms"], apart := false, laid := [("loop.example/g00199/impl.recForms", laid_loop_example_g00199_impl_recForms)], narrowed := true }
def FnExactRecOkUptoSaid : Prop := fnExactRecOkUptoRow.holds Tryd.pinned (OpenSpec.upto fnExactRecOkSpec)

/-- 'laws.FnExactPutRec', WHERE WHAT IT READS IS OF BULK AT MOST 1048576: true; the input reads as it did. -/
def fnExactPutRecUptoRow : OpenClaim := { program := "ytenkpgnkkkgdmasdoor", sum := "4478bfe0e47a67521d81dd8f956602a97e3ffd6b53054f41a96bb1dfbafca26e", func := "loop.example/g00199/laws.FnExactPutRec", spec := "fnExactPutRec", named := ["loop.example/g00199/impl.recForms"], apart := false, laid := [("loop.example/g00199/impl.recForms", laid_loop_example_g00199_impl_recForms)], narrowed := true }
def FnExactPutRecUptoSaid : Prop := fnExactPutRecUptoRow.holds Tryd.pinned (OpenSpec.upto fnExactPutRecSpec)

/-- 'laws.FnExactGetRec', WHERE WHAT IT READS IS OF BULK AT MOST 1048576: true; the input reads as it did. -/
def fnExactGetRecUptoRow : OpenClaim := { program := "ytenkpgnkkkgdmasdoor", sum := "4478bfe0e47a67521d81dd8f956602a97e3ffd6b53054f41a96bb1dfbafca26e", func := "loop.example/g00199/laws.FnExactGetRec", spec := "fnExactGetRec", named := ["loop.example/g00199/impl.recForms"], apart := false, laid := [("loop.example/g00199/impl.recForms", laid_loop_example_g00199_impl_recForms)], narrowed := true }
def FnExactGetRecUptoSaid : Prop := fnExactGetRecUptoRow.holds Tryd.pinned (OpenSpec.upto fnExactGetRecSpec)

/-- 'laws.FnExactScanRecs', WHERE WHAT IT READS IS OF BULK AT MOST 1048576: true; the input reads as it did. -/
def fnExactScanRecsUptoRow : OpenClaim := { program := "ytenkpgnkkkgdmasdoor", sum := "4478bfe0e47a67521d81dd8f956602a97e3ffd6b53054f41a96bb1dfbafca26e", func := "loop.example/g00199/laws.FnExactScanRecs", spec := "fnExactScanRecs", named := ["loop.example/g00199/impl.recForms"], apart := false, laid := [("loop.example/g00199/impl.recForms", laid_loop_example_g00199_impl_recForms)], narrowed := true }
def FnExactScanRecsUptoSaid : Prop := fnExactScanRecsUptoRow.holds Tryd.pinned (OpenSpec.upto fnExactScanRecsSpec)

end Rows
end Go.Proofs.YtenkpgnkkkgdmasDoor
