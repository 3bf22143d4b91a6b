/- What is spent and granted again: no statement of the program; no condition. -/
import Derived.Test.YtkicfiacnpifkaqFlowGrantN
import Derived.Test.YtkicfiacnpifkaqFlowOpenN
import Derived.Test.YtkicfiacnpifkaqFlowInitN
namespace Go.Proofs.Ytkicfiacnpifkaq
open Go.RowKit
set_option linter.unusedVariables false

/-- A call that ends well ends with what it made, and both flows are right. -/
theorem endsF_ok {c i c' i' : Int} {l l' : List Lane} {ok : Bool} (h : (endsF c i l c' i' l' ok).2 = true) : endsF c i l c' i' l' ok = ((c', i', l'), true) ∧ ok = true ∧ okF c i l ∧ okF c' i' l' := by
  unfold endsF at h ⊢
  split at h
  · rename_i hh
    rw [if_pos hh]
    simp only [Bool.and_eq_true, okB_iff] at hh
    exact ⟨rfl, hh.1.1, hh.1.2, hh.2⟩
  · cases h

/-- One that ends badly leaves the flow. -/
theorem endsF_bad {c i c' i' : Int} {l l' : List Lane} {ok : Bool} (h : (endsF c i l c' i' l' ok).2 = false) : endsF c i l c' i' l' ok = ((c, i, l), false) := by
  unfold endsF at h ⊢
  split at h
  · cases h
  · rename_i hh
    rw [if_neg hh]

theorem endsF_yes {c i c' i' : Int} {l l' : List Lane} (h : okF c i l) (h' : okF c' i' l') : endsF c i l c' i' l' true = ((c', i', l'), true) := by
  unfold endsF
  rw [okB_yes h, okB_yes h']
  rfl

theorem spendR_bad {c i : Int} {l : List Lane} {id n : Int} (h : (spendR c i l id n).2 = false) : spendR c i l id n = ((c, i, l), false) := by
  unfold spendR at h ⊢
  split at h
  · rename_i hh; rw [if_pos hh]
  · rename_i hh; rw [if_neg hh]; exact endsF_bad h

theorem laneAt_set {l : List Lane} {k j : Nat} {x : Lane} (hk : k < l.length) : laneAt (l.set k x) j = if j = k then x else laneAt l j := by
  unfold laneAt
  rw [List.getD_eq_getElem?_getD, List.getElem?_set, List.getD_eq_getElem?_getD]
  by_cases h : j = k
  · subst h
    simp [hk]
  · rw [if_neg (fun e => h e.symm), if_neg h]

theorem atL_iff {id : Int} {l : List Lane} {K : Nat} (h : atL id l = K) : K < l.length ∧ (laneAt l K).1 = id ∧ ∀ j, j < K → (laneAt l j).1 ≠ id := by
  induction l generalizing K with
  | nil => unfold atL at h; omega
  | cons x r ih =>
    unfold atL at h
    split at h
    · rename_i hx
      obtain rfl : K = 0 := by omega
      exact ⟨by simp, by simpa [laneAt] using hx, fun j hj => by omega⟩
    · rename_i hx
      split at h
      · omega
      · obtain ⟨K', rfl⟩ : ∃ K', K = K' + 1 := ⟨K - 1, by omega⟩
        obtain ⟨h1, h2, h3⟩ := ih (K := K') (by omega)
        refine ⟨by simp; omega, by simpa [laneAt] using h2, fun j hj => ?_⟩
        cases j with
        | zero => simpa [laneAt] using hx
        | succ j => simpa [laneAt] using h3 j (by omega)

/-- The place of a number stays where only what is left changes. -/
theorem atL_left {id : Int} {l : List Lane} {K : Nat} (h : atL id l = K) (y : Int) : atL id (leftTo l K y) = K := by
  obtain ⟨h1, h2, h3⟩ := atL_iff h
  refine atL_some (by simp [leftTo]; exact h1) ?_ (fun j hj => ?_)
  · unfold leftTo
    rw [laneAt_set h1, if_pos rfl]
    exact h2
  · unfold leftTo
    rw [laneAt_set h1, if_neg (by omega)]
    exact h3 j hj

theorem leftTo_at {l : List Lane} {K : Nat} (hK : K < l.length) (y : Int) : laneAt (leftTo l K y) K = ((laneAt l K).1, y) := by
  unfold leftTo
  rw [laneAt_set hK, if_pos rfl]

theorem leftTo_back {l : List Lane} {K : Nat} (hK : K < l.length) (y : Int) : leftTo (leftTo l K y) K (laneAt l K).2 = l := by
  have h : leftTo (leftTo l K y) K (laneAt l K).2 = (l.set K ((laneAt l K).1, y)).set K ((laneAt (leftTo l K y) K).1, (laneAt l K).2) := rfl
  rw [h, leftTo_at hK, List.set_set]
  apply List.ext_getElem?
  intro j
  rw [List.getElem?_set]
  by_cases e : K = j
  · subst e
    simp [hK, laneAt]
  · rw [if_neg e]

/-- A right flow stays right where what is left stays within its bounds. -/
theorem okF_left {c i c' : Int} {l : List Lane} {K : Nat} {y : Int} (h : okF c i l) (hK : K < l.length) (hy : -2147483647 ≤ y ∧ y ≤ 2147483647) (hc : 0 ≤ c' ∧ c' ≤ 2147483647) : okF c' i (leftTo l K y) := by
  obtain ⟨h1, h2, h3, h4⟩ := h
  refine ⟨fun j hj => ?_, hc, h3, by simpa [leftTo] using h4⟩
  have hjl : j < l.length := by simpa [leftTo] using hj
  have hb := h1 j hjl
  unfold badAt at hb ⊢
  unfold leftTo
  rw [laneAt_set hK, laneAt_set hK]
  by_cases e : j = K
  · subst e
    rw [if_pos rfl]
    by_cases e0 : j - 1 = j
    · rw [if_pos e0]
      dsimp only
      omega
    · rw [if_neg e0]
      dsimp only
      omega
  · rw [if_neg e]
    by_cases e0 : j - 1 = K
    · rw [if_pos e0]
      subst e0
      dsimp only
      omega
    · rw [if_neg e0]
      exact hb

/-- What a spending that ends well has done. -/
theorem spendR_ok {c i : Int} {l : List Lane} {id n : Int} (h : (spendR c i l id n).2 = true) : ∃ K : Nat, atL id l = K ∧ K < l.length ∧ 0 ≤ n ∧ n ≤ c ∧ (0 < n → n ≤ (laneAt l K).2) ∧ okF c i l ∧ okF (c - n) i (leftTo l K ((laneAt l K).2 - n)) ∧ spendR c i l id n = ((c - n, i, leftTo l K ((laneAt l K).2 - n)), true) ∧ roomN (c - n) (leftTo l K ((laneAt l K).2 - n)) id = roomN c l id - n := by
  unfold spendR at h ⊢
  split at h
  · cases h
  · rename_i hh
    rw [if_neg hh]
    obtain ⟨K, hK⟩ := Int.eq_ofNat_of_zero_le (show 0 ≤ atL id l by omega)
    obtain ⟨h1, h2, h3⟩ := atL_iff hK
    rw [hK, Int.toNat_natCast] at h ⊢
    obtain ⟨e1, _, e3, e4⟩ := endsF_ok h
    have hr := roomN_le (c := c) (l := l) (id := id)
    rw [hK, Int.toNat_natCast] at hr
    have hc := e3.2.1
    refine ⟨K, rfl, h1, by omega, by omega, by omega, e3, e4, e1, ?_⟩
    rw [roomN_some (c := c - n) (atL_left hK _) (leftTo_at h1 _), roomN_some (c := c) (p := (laneAt l K).1) (q := (laneAt l K).2) hK rfl]
    rw [roomN_some (c := c) (p := (laneAt l K).1) (q := (laneAt l K).2) hK rfl] at hr hh
    generalize (laneAt l K).2 = q at *
    split at hr <;> split at hr <;> split <;> split <;> simp_all <;> omega

end Go.Proofs.Ytkicfiacnpifkaq
