/- What the program's RespOk answers. -/
import Derived.Test.YtlalebaaabdihaxDoorReqNum
import Derived.Test.YtlalebaaabdihaxDoorBox2R
import Derived.WalkKit
namespace Go.Proofs.YtlalebaaabdihaxDoor
open Go.RowKit
set_option linter.unusedVariables false

theorem ret_bR {a b : Bool} (h : a = b) : Ending.returned (.bool a) = .returned (.bool b) := by rw [h]

set_option maxRecDepth 10000 in
set_option maxHeartbeats 800000 in
theorem implRespOk_any (st off : Int) (w : World) :
    Calls Tryd.prog 21 #[.agg #[.int .i64 st, .int .i64 off]] w fun e w' => e = .returned (.bool (respB st off)) ∧ Below w.heap.size w w' := by
  have HB0 : Hid (Below w.heap.size w (w.alloc (.cells #[.int .i64 st, .int .i64 off] 31))) := (Below.refl _ _).alloc (Nat.le_refl _) _
  have HR : Hid (respB st off = (decide (100 ≤ st ∧ st ≤ 599) && decide (-1 ≤ off ∧ off ≤ 1000000000))) := rfl
  by_cases h1 : 100 ≤ st
  · by_cases h2 : st ≤ 599
    · by_cases h3 : -1 ≤ off
      · have HF : Hid (respB st off = decide (off ≤ 1000000000)) := by
          show _ = _
          rw [HR.out, decide_eq_true ⟨h1, h2⟩, Bool.true_and, Bool.eq_iff_iff, decide_eq_true_eq, decide_eq_true_eq]
          omega
        go_enter Tryd.func21, Tryd.ntmps21
        go_wp2_with fail
        go_ret
        exact ⟨ret_bR HF.out.symm, HB0.out⟩
      · have HF : Hid (respB st off = false) := by show _ = _; rw [HR.out, decide_eq_false (p := -1 ≤ off ∧ _) (by omega), Bool.and_false]
        go_enter Tryd.func21, Tryd.ntmps21
        go_wp2_with fail
        go_ret
        exact ⟨ret_bR HF.out.symm, HB0.out⟩
    · have HF : Hid (respB st off = false) := by show _ = _; rw [HR.out, decide_eq_false (p := 100 ≤ st ∧ _) (by omega), Bool.false_and]
      go_enter Tryd.func21, Tryd.ntmps21
      go_wp2_with fail
      go_ret
      exact ⟨ret_bR HF.out.symm, HB0.out⟩
  · have HF : Hid (respB st off = false) := by show _ = _; rw [HR.out, decide_eq_false (p := 100 ≤ st ∧ _) (by omega), Bool.false_and]
    go_enter Tryd.func21, Tryd.ntmps21
    go_wp2_with fail
    go_ret
    exact ⟨ret_bR HF.out.symm, HB0.out⟩

end Go.Proofs.YtlalebaaabdihaxDoor
