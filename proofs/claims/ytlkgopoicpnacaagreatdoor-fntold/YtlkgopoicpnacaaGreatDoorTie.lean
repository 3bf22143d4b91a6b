/-
  DERIVED. GIVEN WITH THE SEED: THE PROGRAM's TIES (one call each: nine closed facts by the kernel) AND EACH ROW's TIE, after the 31st guide's Derived/Test/Toyas{Tie, Card}.lean. No idea stands in it: it is a product of the set-up. Laid BY PROGRAM, IN A SANDBOX (cutbox-door.mjs). By AI agents, Wed Nov 11 2026. No macro, syntax, notation, axiom, sorry.
-/
import Derived.Test.YtlkgopoicpnacaaGreatDoorRows
import Derived.LaidByTextLater
import Derived.SevenTiedAt
import Derived.LaidSub
import Derived.LaidOnce
namespace Go.Proofs.YtlkgopoicpnacaaGreatDoor
open Go
set_option maxRecDepth 100000
theorem seatTie1 : Tryz.prog.laidByTextLater [("loop.example/g00199/impl.recForms", Rows.laid_loop_example_g00199_impl_recForms), ("loop.example/g00199/impl.errNoFit", Rows.laid_loop_example_g00199_impl_errNoFit)] [.data, .sentinel] true :=
  Program.laidByTextLater_by_one 37 8 16 (by kernel_rfl) (by kernel_rfl) (by kernel_rfl) (by kernel_rfl) (by kernel_rfl) (by kernel_rfl) (fun _ _ => by kernel_rfl)
theorem noOwnUnsafe : Tryz.pinned.checked.prog.headLifts.contains "ownunsafe" = false := by kernel_rfl
theorem tie : Tryz.prog.laidByTextLater [("loop.example/g00199/impl.recForms", Rows.laid_loop_example_g00199_impl_recForms), ("loop.example/g00199/impl.errNoFit", Rows.laid_loop_example_g00199_impl_errNoFit)] [.data, .sentinel] true :=
  Program.laidByTextLater.sub seatTie1 ["loop.example/g00199/impl.recForms", "loop.example/g00199/impl.errNoFit"] (by kernel_rfl) (by kernel_rfl)
theorem fnTold_row_tie : Rows.fnToldRow.laidByTextAt .later Tryz.pinned [.data, .sentinel] true :=
  OpenClaim.laidByTextAt_later rfl rfl tie noOwnUnsafe
theorem fnToldUpto_row_tie : Rows.fnToldUptoRow.laidByTextAt .later Tryz.pinned [.data, .sentinel] true :=
  OpenClaim.laidByTextAt_later rfl rfl tie noOwnUnsafe
end Go.Proofs.YtlkgopoicpnacaaGreatDoor
