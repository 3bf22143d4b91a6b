/- What the calls on a flow answer, said as the program goes: no statement of the program; no condition. -/
import Derived.Test.YtkicfiacnpifkadFlowLaws
import Derived.Test.YtkicfiacnpifkadFlowGrantN
import Derived.Test.YtkicfiacnpifkadFlowOpenN
namespace Go.Proofs.Ytkicfiacnpifkad
open Go.RowKit
set_option linter.unusedVariables false

theorem endsF_no {c i c' i' : Int} {l l' : List Lane} {ok : Bool} (h : okB c i l = false) : endsF c i l c' i' l' ok = ((c, i, l), false) := by
  rw [endsF, h, Bool.and_false, Bool.false_and]
  rfl

theorem endsF_not {c i c' i' : Int} {l l' : List Lane} {ok : Bool} (h : ¬ okF c' i' l') : endsF c i l c' i' l' ok = ((c, i, l), false) := by
  rw [endsF, okB_no h, Bool.and_false]
  rfl

theorem spendR_no {c i : Int} {l : List Lane} {id n : Int} (h : okB c i l = false ∨ atL id l < 0 ∨ n < 0 ∨ roomN c l id < n) : spendR c i l id n = ((c, i, l), false) := by
  unfold spendR
  split
  · rfl
  · rename_i hh
    rcases h with h | h
    · exact endsF_no h
    · omega

theorem spendR_yes {c i : Int} {l : List Lane} {id n : Int} {K : Nat} (ho : okB c i l = true) (hK : atL id l = K) (h0 : 0 ≤ n) (h1 : n ≤ roomN c l id) :
    spendR c i l id n = ((c - n, i, leftTo l K ((laneAt l K).2 - n)), true) := by
  obtain ⟨g1, g2, g3⟩ := atL_iff hK
  have hr := roomN_le (c := c) (l := l) (id := id)
  rw [hK, Int.toNat_natCast] at hr
  have h := okB_iff.1 ho
  have hb := h.1 K g1
  unfold badAt at hb
  have hc := h.2.1
  unfold spendR
  rw [if_neg (by omega), hK, Int.toNat_natCast]
  exact endsF_yes h (okF_left h g1 (by omega) (by omega))

/-- What is granted to all. -/
theorem grantR_no {c i : Int} {l : List Lane} {id n : Int} (h : okB c i l = false ∨ n < 1 ∨ 2147483647 < n ∨ (id ≠ 0 ∧ atL id l < 0)) : grantR c i l id n = ((c, i, l), false) := by
  unfold grantR
  split
  · rfl
  · rename_i hh
    rcases h with h | h
    · split <;> exact endsF_no h
    · exfalso
      apply hh
      rcases h with h | h | h
      · exact .inl (by omega)
      · exact .inl (by omega)
      · exact .inr h

theorem wrap_in' {x : Int} (h : -9223372036854775808 ≤ x ∧ x ≤ 9223372036854775807) : IntKind.i64.wrap x = x := IntWalk.i64_in x h

theorem grantR_all {c i : Int} {l : List Lane} {n : Int} (ho : okB c i l = true) (h0 : 1 ≤ n) (h1 : n ≤ 2147483647) : grantR c i l 0 n = if 2147483647 - n < c then ((c, i, l), false) else ((c + n, i, l), true) := by
  have h := okB_iff.1 ho
  have hc := h.2.1
  unfold grantR
  rw [if_neg (by simp; omega), if_pos rfl, wrap_in' (by omega)]
  split
  · exact endsF_not fun g => by have := g.2.1; omega
  · exact endsF_yes h ⟨h.1, by omega, h.2.2.1, h.2.2.2⟩

theorem grantR_lane {c i : Int} {l : List Lane} {id n : Int} {K : Nat} (ho : okB c i l = true) (hid : id ≠ 0) (hK : atL id l = K) (h0 : 1 ≤ n) (h1 : n ≤ 2147483647) :
    grantR c i l id n = if 2147483647 - n < (laneAt l K).2 then ((c, i, l), false) else ((c, i, leftTo l K ((laneAt l K).2 + n)), true) := by
  obtain ⟨g1, g2, g3⟩ := atL_iff hK
  have h := okB_iff.1 ho
  have hb := h.1 K g1
  unfold badAt at hb
  unfold grantR
  rw [if_neg (by simp [hid]; omega), if_neg hid, hK, Int.toNat_natCast, wrap_in' (by omega)]
  split
  · refine endsF_not fun g => ?_
    have := g.1 K (by simpa [leftTo] using g1)
    apply this
    refine .inr (.inl ?_)
    rw [leftTo_at g1]
    dsimp only
    omega
  · exact endsF_yes h (okF_left h g1 (by omega) h.2.1)

end Go.Proofs.Ytkicfiacnpifkad
