/-
  DERIVED. GIVEN WITH THE SEED: THE PROGRAM's TIES (one call each: nine closed facts by the kernel) AND EACH ROW's TIE, after the 31st guide's Derived/Test/Toyas{Tie, Card}.lean. No idea stands in it: it is a product of the set-up. Laid BY PROGRAM, IN A SANDBOX (cutbox-door.mjs). By AI agents, Wed Nov 11 2026. No macro, syntax, notation, axiom, sorry.
-/
import Derived.Test.YtogopmngbjkcjatDoorRows
import Derived.LaidByTextLater
import Derived.SevenTiedAt
import Derived.LaidSub
import Derived.LaidOnce
namespace Go.Proofs.YtogopmngbjkcjatDoor
open Go
set_option maxRecDepth 100000
theorem seatTie1 : Tryd.prog.laidByTextLater [("loop.example/g00199/impl.recForms", Rows.laid_loop_example_g00199_impl_recForms), ("loop.example/g00199/impl.errNoFit", Rows.laid_loop_example_g00199_impl_errNoFit)] [.data, .sentinel] true :=
  Program.laidByTextLater_by_one 37 8 16 (by kernel_rfl) (by kernel_rfl) (by kernel_rfl) (by kernel_rfl) (by kernel_rfl) (by kernel_rfl) (fun _ _ => by kernel_rfl)
theorem noOwnUnsafe : Tryd.pinned.checked.prog.headLifts.contains "ownunsafe" = false := by kernel_rfl
theorem tie : Tryd.prog.laidByTextLater [("loop.example/g00199/impl.recForms", Rows.laid_loop_example_g00199_impl_recForms)] [.data] true :=
  Program.laidByTextLater.sub seatTie1 ["loop.example/g00199/impl.recForms"] (by kernel_rfl) (by kernel_rfl)
theorem fnExactTopEpoch_row_tie : Rows.fnExactTopEpochRow.laidByTextAt .later Tryd.pinned [.data] true :=
  OpenClaim.laidByTextAt_later rfl rfl tie noOwnUnsafe
theorem tie2 : Tryd.prog.laidByTextLater [("loop.example/g00199/impl.errNoFit", Rows.laid_loop_example_g00199_impl_errNoFit)] [.sentinel] true :=
  Program.laidByTextLater.sub seatTie1 ["loop.example/g00199/impl.errNoFit"] (by kernel_rfl) (by kernel_rfl)
theorem fnExactFoldRecs_row_tie : Rows.fnExactFoldRecsRow.laidByTextAt .later Tryd.pinned [.sentinel] true :=
  OpenClaim.laidByTextAt_later rfl rfl tie2 noOwnUnsafe
theorem tie3 : Tryd.prog.laidByTextLater [("loop.example/g00199/impl.recForms", Rows.laid_loop_example_g00199_impl_recForms), ("loop.example/g00199/impl.errNoFit", Rows.laid_loop_example_g00199_impl_errNoFit)] [.data, .sentinel] true :=
  Program.laidByTextLater.sub seatTie1 ["loop.example/g00199/impl.recForms", "loop.example/g00199/impl.errNoFit"] (by kernel_rfl) (by kernel_rfl)
theorem fnExactStoreOk_row_tie : Rows.fnExactStoreOkRow.laidByTextAt .later Tryd.pinned [.data, .sentinel] true :=
  OpenClaim.laidByTextAt_later rfl rfl tie3 noOwnUnsafe
theorem fnExactTopEpochUpto_row_tie : Rows.fnExactTopEpochUptoRow.laidByTextAt .later Tryd.pinned [.data] true :=
  OpenClaim.laidByTextAt_later rfl rfl tie noOwnUnsafe
theorem fnExactFoldRecsUpto_row_tie : Rows.fnExactFoldRecsUptoRow.laidByTextAt .later Tryd.pinned [.sentinel] true :=
  OpenClaim.laidByTextAt_later rfl rfl tie2 noOwnUnsafe
theorem fnExactStoreOkUpto_row_tie : Rows.fnExactStoreOkUptoRow.laidByTextAt .later Tryd.pinned [.data, .sentinel] true :=
  OpenClaim.laidByTextAt_later rfl rfl tie3 noOwnUnsafe
end Go.Proofs.YtogopmngbjkcjatDoor
