/- The walk of RespOk's law. -/
import Derived.Test.YthojijhafhnclaqRespTo
import Derived.Test.YthojijhafhnclaqRespOkS
import Derived.Test.YthojijhafhnclaqRespOkI
namespace Go.Proofs.Ythojijhafhnclaq
open Go.RowKit
set_option linter.unusedVariables false

set_option maxRecDepth 10000 in
set_option maxHeartbeats 800000 in
theorem respOkLaw (st off : Int) (w : World) :
    Calls Try.prog 5 #[.agg #[.int .i64 st, .int .i64 off]] w fun e w' => e = .returned (.bool true) ∧ Below w.heap.size w w' := by
  have HB0 : Hid (Below w.heap.size w (w.alloc (.cells #[.int .i64 st, .int .i64 off] 38))) := (Below.refl _ _).alloc (Nat.le_refl _) _
  have HX0 : Hid (Box2R (w.alloc (.cells #[.int .i64 st, .int .i64 off] 38)) w.heap.size 38 (.int .i64 st) (.int .i64 off)) := Box2R.new _ _ _ _
  go_enter Try.func5, Try.ntmps5
  go_wp2_with fail
  obtain ⟨x0, hx0⟩ : ∃ x0, w.alloc (.cells #[.int .i64 st, .int .i64 off] 38) = x0 := ⟨_, rfl⟩
  rw [hx0] at HB0 HX0 ⊢
  clear hx0
  refine (toResp_any st off x0).mono ?_
  rintro e x1 ⟨rfl, hb1⟩
  have HX1 := (show Hid (Box2R x1 w.heap.size 38 (.int .i64 st) (.int .i64 off)) from HX0.out.stays hb1)
  have HB1 : Hid (Below w.heap.size w x1) := HB0.out.trans (hb1.mono HB0.out.size)
  clear hb1 HX0 HB0
  go_wp2_with fail
  refine (specRespOk_any st off x1).mono ?_
  rintro e x2 ⟨rfl, hb2⟩
  have HX2 := (show Hid (Box2R x2 w.heap.size 38 (.int .i64 st) (.int .i64 off)) from HX1.out.stays hb2)
  have HB2 : Hid (Below w.heap.size w x2) := HB1.out.trans (hb2.mono HB1.out.size)
  clear hb2 HX1 HB1
  obtain ⟨c0, c1⟩ := HX2.out.cells
  go_wp2_with fail
  refine (toResp_any st off x2).mono ?_
  rintro e x3 ⟨rfl, hb3⟩
  have HB3 : Hid (Below w.heap.size w x3) := HB2.out.trans (hb3.mono HB2.out.size)
  clear hb3 HX2 HB2 c0 c1
  go_wp2_with fail
  refine (implRespOk_any st off x3).mono ?_
  rintro e x4 ⟨rfl, hb4⟩
  have HB4 : Hid (Below w.heap.size w x4) := HB3.out.trans (hb4.mono HB3.out.size)
  clear hb4 HB3
  generalize respB st off = b at *
  have hbb : (b != b) = false := by simp
  go_wp2_with fail
  go_ret
  exact ⟨rfl, HB4.out⟩

end Go.Proofs.Ythojijhafhnclaq
