/- What the program's ofHead answers: whether a field's name begins with a colon. -/
import Derived.Test.YthojijhafhnclaqDoorReqFormN
import Derived.WalkKit
namespace Go.Proofs.YthojijhafhnclaqDoor
open Go.RowKit
set_option linter.unusedVariables false

theorem ret_b {a b : Bool} (h : a = b) : Ending.returned (.bool a) = .returned (.bool b) := by rw [h]

theorem first_byte {x : ByteArray} (h : 0 < x.size) : (x.extract 0 1).toList = [x[0]'h] := by
  rw [Lib.extract_toList, Nat.sub_zero, List.drop_zero, List.take_one]
  have := list_head h
  rw [bytes_list] at this
  rw [this]
  rfl

set_option maxRecDepth 10000 in
theorem implLitePre_any (x : ByteArray) (w : World) (hm : x.size ≤ 9223372036854775807) :
    Calls Tryd.prog 58 #[.string x, .string ⟨#[58]⟩] w fun e w' => e = .returned (.bool (colB x.toList)) ∧ w' = w := by
  by_cases h0 : x.size = 0
  · have HF : Hid (colB x.toList = false) := by show _ = _; rw [list_empty h0]; rfl
    have hi : ¬ (1 : Int) ≤ (x.size : Int) := by omega
    have hn : ¬ 1 ≤ x.size := by omega
    clear h0
    go_enter Tryd.func58, Tryd.ntmps58
    go_wp2_with fail
    go_ret
    exact ⟨ret_b HF.out.symm, rfl⟩
  · have hx0 : 0 < x.size := by omega
    have hi : (1 : Int) ≤ (x.size : Int) := by omega
    have hn : 1 ≤ x.size := by omega
    have HF : Hid (colB x.toList = ((x.extract 0 1).toList == [58])) := by
      show _ = _
      rw [first_byte hx0, colB, list_head hx0, Bool.eq_iff_iff, beq_iff_eq, beq_iff_eq]
      simp
    clear h0
    go_enter Tryd.func58, Tryd.ntmps58
    go_wp2_with fail
    go_ret
    exact ⟨ret_b HF.out.symm, rfl⟩

theorem implHasPre_any (x : ByteArray) (w : World) (hm : x.size ≤ 9223372036854775807) :
    Calls Tryd.prog 57 #[.string x, .string ⟨#[58]⟩] w fun e w' => e = .returned (.bool (colB x.toList)) ∧ w' = w := by
  go_enter Tryd.func57, Tryd.ntmps57
  go_wp2_with fail
  refine (implLitePre_any x _ hm).mono ?_
  rintro e w1 ⟨rfl, hw1⟩
  subst hw1
  go_wp2_with fail
  go_ret
  exact ⟨rfl, rfl⟩

set_option maxRecDepth 10000 in
theorem implOfHead_any (x y : ByteArray) (w : World) (hm : x.size ≤ 9223372036854775807) :
    Calls Tryd.prog 50 #[.agg #[.string x, .string y]] w fun e w' => e = .returned (.bool (colB x.toList)) ∧ Below w.heap.size w w' := by
  have HB0 : Hid (Below w.heap.size w (w.alloc (.cells #[.string x, .string y] 48))) := (Below.refl _ _).alloc (Nat.le_refl _) _
  go_enter Tryd.func50, Tryd.ntmps50
  go_wp2_with fail
  refine (implHasPre_any x _ hm).mono ?_
  rintro e w1 ⟨rfl, hw1⟩
  subst hw1
  go_wp2_with fail
  go_ret
  exact ⟨rfl, HB0.out⟩

end Go.Proofs.YthojijhafhnclaqDoor
