/- What the specification's RespOk answers. -/
import Derived.Test.YtlalebaaabdihaxDoorReqNum
import Derived.Test.YtlalebaaabdihaxDoorL1In
namespace Go.Proofs.YtlalebaaabdihaxDoor
open Go.RowKit
set_option linter.unusedVariables false

set_option maxRecDepth 10000 in
set_option maxHeartbeats 800000 in
theorem specRespOk_any (st off : Int) (w : World) :
    Calls Tryd.prog 15 #[.agg #[.int .i64 st, .int .i64 off]] w fun e w' => e = .returned (.bool (respB st off)) ∧ Below w.heap.size w w' := by
  have HR : Hid (respB st off = (decide (100 ≤ st ∧ st ≤ 599) && decide (-1 ≤ off ∧ off ≤ 1000000000))) := rfl
  have HB0 : Hid (Below w.heap.size w (w.alloc (.cells #[.int .i64 st, .int .i64 off] 31))) := (Below.refl _ _).alloc (Nat.le_refl _) _
  have hx : (w.alloc (.cells #[.int .i64 st, .int .i64 off] 31)).heap[w.heap.size]? = some (.cells #[.int .i64 st, .int .i64 off] 31 (0, 0)) := heap_alloc_new w _
  go_enter Tryd.func15, Tryd.ntmps15
  go_wp2_with fail
  obtain ⟨w1, hw1⟩ : ∃ w1, w.alloc (.cells #[.int .i64 st, .int .i64 off] 31) = w1 := ⟨_, rfl⟩
  rw [hw1] at HB0 hx ⊢
  clear hw1
  have c0 : w1.cell? ⟨w.heap.size, 0, none⟩ = some (.int .i64 st) := by rw [cell_of_row _ _ _ _ _ _ hx]; rfl
  have c1 : w1.cell? ⟨w.heap.size, 1, none⟩ = some (.int .i64 off) := by rw [cell_of_row _ _ _ _ _ _ hx]; rfl
  clear hx
  refine (l1In_any st 100 599 _).mono ?_
  rintro e w2 ⟨rfl, hw2⟩
  subst hw2
  generalize decide (100 ≤ st ∧ st ≤ 599) = b1 at *
  cases b1
  · go_wp2_with fail
    go_ret
    exact ⟨ret_bool (by rw [HR.out]; rfl), HB0.out⟩
  go_wp2_with fail
  refine (l1In_any off (-1) 1000000000 _).mono ?_
  rintro e w3 ⟨rfl, hw3⟩
  subst hw3
  generalize decide (-1 ≤ off ∧ off ≤ 1000000000) = b2 at *
  go_wp2_with fail
  go_ret
  exact ⟨ret_bool (by rw [HR.out]; rfl), HB0.out⟩

end Go.Proofs.YtlalebaaabdihaxDoor
