/- What is granted again is as it was; a lane that is opened and closed is gone; another first size moves all as much: no statement of the program; no condition. -/
import Derived.Test.YtkicfiacnpifkadFlowGrantN
import Derived.Test.YtkicfiacnpifkadFlowOpenN
import Derived.Test.YtkicfiacnpifkadFlowInitN
namespace Go.Proofs.Ytkicfiacnpifkad
open Go.RowKit
set_option linter.unusedVariables false

/-- A call that ends well ends with what it made, and both flows are right. -/
theorem endsF_ok {c i c' i' : Int} {l l' : List Lane} {ok : Bool} (h : (endsF c i l c' i' l' ok).2 = true) : endsF c i l c' i' l' ok = ((c', i', l'), true) ∧ ok = true ∧ okF c i l ∧ okF c' i' l' := by
  unfold endsF at h ⊢
  split at h
  · rename_i hh
    rw [if_pos hh]
    simp only [Bool.and_eq_true, okB_iff] at hh
    exact ⟨rfl, hh.1.1, hh.1.2, hh.2⟩
  · cases h

/-- One that ends badly leaves the flow. -/
theorem endsF_bad {c i c' i' : Int} {l l' : List Lane} {ok : Bool} (h : (endsF c i l c' i' l' ok).2 = false) : endsF c i l c' i' l' ok = ((c, i, l), false) := by
  unfold endsF at h ⊢
  split at h
  · cases h
  · rename_i hh
    rw [if_neg hh]

theorem endsF_yes {c i c' i' : Int} {l l' : List Lane} (h : okF c i l) (h' : okF c' i' l') : endsF c i l c' i' l' true = ((c', i', l'), true) := by
  unfold endsF
  rw [okB_yes h, okB_yes h']
  rfl

theorem spendR_bad {c i : Int} {l : List Lane} {id n : Int} (h : (spendR c i l id n).2 = false) : spendR c i l id n = ((c, i, l), false) := by
  unfold spendR at h ⊢
  split at h
  · rename_i hh; rw [if_pos hh]
  · rename_i hh; rw [if_neg hh]; exact endsF_bad h

theorem laneAt_set {l : List Lane} {k j : Nat} {x : Lane} (hk : k < l.length) : laneAt (l.set k x) j = if j = k then x else laneAt l j := by
  unfold laneAt
  rw [List.getD_eq_getElem?_getD, List.getElem?_set, List.getD_eq_getElem?_getD]
  by_cases h : j = k
  · subst h
    simp [hk]
  · rw [if_neg (fun e => h e.symm), if_neg h]

theorem atL_iff {id : Int} {l : List Lane} {K : Nat} (h : atL id l = K) : K < l.length ∧ (laneAt l K).1 = id ∧ ∀ j, j < K → (laneAt l j).1 ≠ id := by
  induction l generalizing K with
  | nil => unfold atL at h; omega
  | cons x r ih =>
    unfold atL at h
    split at h
    · rename_i hx
      obtain rfl : K = 0 := by omega
      exact ⟨by simp, by simpa [laneAt] using hx, fun j hj => by omega⟩
    · rename_i hx
      split at h
      · omega
      · obtain ⟨K', rfl⟩ : ∃ K', K = K' + 1 := ⟨K - 1, by omega⟩
        obtain ⟨h1, h2, h3⟩ := ih (K := K') (by omega)
        refine ⟨by simp; omega, by simpa [laneAt] using h2, fun j hj => ?_⟩
        cases j with
        | zero => simpa [laneAt] using hx
        | succ j => simpa [laneAt] using h3 j (by omega)

/-- The place of a number stays where only what is left changes. -/
theorem atL_left {id : Int} {l : List Lane} {K : Nat} (h : atL id l = K) (y : Int) : atL id (leftTo l K y) = K := by
  obtain ⟨h1, h2, h3⟩ := atL_iff h
  refine atL_some (by simp [leftTo]; exact h1) ?_ (fun j hj => ?_)
  · unfold leftTo
    rw [laneAt_set h1, if_pos rfl]
    exact h2
  · unfold leftTo
    rw [laneAt_set h1, if_neg (by omega)]
    exact h3 j hj

theorem leftTo_at {l : List Lane} {K : Nat} (hK : K < l.length) (y : Int) : laneAt (leftTo l K y) K = ((laneAt l K).1, y) := by
  unfold leftTo
  rw [laneAt_set hK, if_pos rfl]

theorem leftTo_back {l : List Lane} {K : Nat} (hK : K < l.length) (y : Int) : leftTo (leftTo l K y) K (laneAt l K).2 = l := by
  have h : leftTo (leftTo l K y) K (laneAt l K).2 = (l.set K ((laneAt l K).1, y)).set K ((laneAt (leftTo l K y) K).1, (laneAt l K).2) := rfl
  rw [h, leftTo_at hK, List.set_set]
  apply List.ext_getElem?
  intro j
  rw [List.getElem?_set]
  by_cases e : K = j
  · subst e
    simp [hK, laneAt]
  · rw [if_neg e]

/-- A right flow stays right where what is left stays within its bounds. -/
theorem okF_left {c i c' : Int} {l : List Lane} {K : Nat} {y : Int} (h : okF c i l) (hK : K < l.length) (hy : -2147483647 ≤ y ∧ y ≤ 2147483647) (hc : 0 ≤ c' ∧ c' ≤ 2147483647) : okF c' i (leftTo l K y) := by
  obtain ⟨h1, h2, h3, h4⟩ := h
  refine ⟨fun j hj => ?_, hc, h3, by simpa [leftTo] using h4⟩
  have hjl : j < l.length := by simpa [leftTo] using hj
  have hb := h1 j hjl
  unfold badAt at hb ⊢
  unfold leftTo
  rw [laneAt_set hK, laneAt_set hK]
  by_cases e : j = K
  · subst e
    rw [if_pos rfl]
    by_cases e0 : j - 1 = j
    · rw [if_pos e0]
      dsimp only
      omega
    · rw [if_neg e0]
      dsimp only
      omega
  · rw [if_neg e]
    by_cases e0 : j - 1 = K
    · rw [if_pos e0]
      subst e0
      dsimp only
      omega
    · rw [if_neg e0]
      exact hb

/-- What a spending that ends well has done. -/
theorem spendR_ok {c i : Int} {l : List Lane} {id n : Int} (h : (spendR c i l id n).2 = true) : ∃ K : Nat, atL id l = K ∧ K < l.length ∧ 0 ≤ n ∧ n ≤ c ∧ (0 < n → n ≤ (laneAt l K).2) ∧ okF c i l ∧ okF (c - n) i (leftTo l K ((laneAt l K).2 - n)) ∧ spendR c i l id n = ((c - n, i, leftTo l K ((laneAt l K).2 - n)), true) ∧ roomN (c - n) (leftTo l K ((laneAt l K).2 - n)) id = roomN c l id - n := by
  unfold spendR at h ⊢
  split at h
  · cases h
  · rename_i hh
    rw [if_neg hh]
    obtain ⟨K, hK⟩ := Int.eq_ofNat_of_zero_le (show 0 ≤ atL id l by omega)
    obtain ⟨h1, h2, h3⟩ := atL_iff hK
    rw [hK, Int.toNat_natCast] at h ⊢
    obtain ⟨e1, _, e3, e4⟩ := endsF_ok h
    have hr := roomN_le (c := c) (l := l) (id := id)
    rw [hK, Int.toNat_natCast] at hr
    have hc := e3.2.1
    refine ⟨K, rfl, h1, by omega, by omega, by omega, e3, e4, e1, ?_⟩
    rw [roomN_some (c := c - n) (atL_left hK _) (leftTo_at h1 _), roomN_some (c := c) (p := (laneAt l K).1) (q := (laneAt l K).2) hK rfl]
    rw [roomN_some (c := c) (p := (laneAt l K).1) (q := (laneAt l K).2) hK rfl] at hr hh
    generalize (laneAt l K).2 = q at *
    split at hr <;> split at hr <;> split <;> split <;> simp_all <;> omega

end Go.Proofs.Ytkicfiacnpifkad

namespace Go.Proofs.Ytkicfiacnpifkad
open Go.RowKit
set_option linter.unusedVariables false

theorem wrap_in {x : Int} (h : -9223372036854775808 ≤ x ∧ x ≤ 9223372036854775807) : IntKind.i64.wrap x = x := IntWalk.i64_in x h

/-- What was spent of a lane, granted to it again. -/
theorem grant_lane {c i : Int} {l : List Lane} {id n : Int} {K : Nat} (hid : id ≠ 0) (hK : atL id l = K) (hn : 0 < n) (hnc : n ≤ c) (hq : n ≤ (laneAt l K).2) (ho : okF c i l) (ho' : okF (c - n) i (leftTo l K ((laneAt l K).2 - n))) :
    grantR (c - n) i (leftTo l K ((laneAt l K).2 - n)) id n = ((c - n, i, l), true) := by
  obtain ⟨h1, h2, h3⟩ := atL_iff hK
  have hc := ho.2.1
  have hb := ho.1 K h1
  unfold badAt at hb
  unfold grantR
  rw [if_neg (by rw [atL_left hK]; omega), if_neg hid, atL_left hK, Int.toNat_natCast, leftTo_at h1]
  dsimp only
  rw [wrap_in (by omega), show (laneAt l K).2 - n + n = (laneAt l K).2 by omega, leftTo_back h1]
  exact endsF_yes ho' ⟨ho.1, by omega, ho.2.2⟩

/-- What was spent of all, granted again. -/
theorem grant_all {c i : Int} {l : List Lane} {n : Int} (hn : 0 < n) (hnc : n ≤ c) (ho : okF c i l) : grantR (c - n) i l 0 n = ((c, i, l), true) := by
  have hc := ho.2.1
  unfold grantR
  rw [if_neg (by omega), if_pos rfl, wrap_in (by omega), show c - n + n = c by omega]
  exact endsF_yes ⟨ho.1, by omega, ho.2.2⟩ ho

theorem laneAt_app {l m : List Lane} {k : Nat} : laneAt (l ++ m) k = if k < l.length then laneAt l k else laneAt m (k - l.length) := by
  unfold laneAt
  by_cases h : k < l.length
  · rw [if_pos h, List.getD_eq_getElem?_getD, List.getElem?_append_left h, List.getD_eq_getElem?_getD]
  · rw [if_neg h, List.getD_eq_getElem?_getD, List.getElem?_append_right (by omega), List.getD_eq_getElem?_getD]

theorem lessL_lt {id : Int} : ∀ {l : List Lane} {j : Nat}, j < lessL id l → (laneAt l j).1 < id
  | [], j, h => by simp [lessL] at h
  | x :: r, j, h => by
    unfold lessL at h
    split at h
    · rename_i hx
      cases j with
      | zero => simpa [laneAt] using hx
      | succ j => simpa [laneAt] using lessL_lt (l := r) (j := j) (by omega)
    · omega

/-- A lane that is opened, closed again. -/
theorem open_close {c i : Int} {l : List Lane} {id : Int} (h : (openR c i l id).2 = true) : ∃ l', openR c i l id = ((c, i, l'), true) ∧ l'.length = l.length + 1 ∧ okF c i l' ∧ okF c i l ∧ closeR c i l' id = ((c, i, l), true) := by
  unfold openR at h ⊢
  obtain ⟨e1, _, e3, e4⟩ := endsF_ok h
  have hl := lessL_le id l
  obtain ⟨K, hK⟩ : ∃ K, lessL id l = K := ⟨_, rfl⟩
  rw [hK] at e1 e4 hl
  refine ⟨_, by rw [hK]; exact e1, by simp; omega, e4, e3, ?_⟩
  have hat : atL id (l.take K ++ [(id, i)] ++ l.drop K) = K := by
    refine atL_some (by simp; omega) ?_ (fun j hj => ?_)
    · rw [List.append_assoc, laneAt_app, if_neg (by simp; omega)]
      simp [laneAt, Nat.min_eq_left hl]
    · rw [List.append_assoc, laneAt_app, if_pos (by simp; omega)]
      have h1 := lessL_lt (id := id) (l := l) (j := j) (by omega)
      have h2 : laneAt (l.take K) j = laneAt l j := by
        unfold laneAt
        rw [List.getD_eq_getElem?_getD, List.getElem?_take, if_pos hj, List.getD_eq_getElem?_getD]
      rw [h2]
      omega
  unfold closeR
  rw [if_neg (by omega), hat, Int.toNat_natCast]
  have hlt : (l.take K).length = K := by simp; omega
  have hx : (l.take K ++ [(id, i)] ++ l.drop K).take K ++ (l.take K ++ [(id, i)] ++ l.drop K).drop (K + 1) = l := by
    rw [List.append_assoc, List.take_append_of_le_length (by omega), List.take_of_length_le (by omega), List.drop_append, hlt, List.drop_of_length_le (by omega)]
    simp
  rw [hx]
  exact endsF_yes e4 e3

/-- Another first size that is taken. -/
theorem init_ok {c i : Int} {l : List Lane} {n : Int} (h : (initR c i l n).2 = true) : ∃ l', initR c i l n = ((c, n, l'), true) ∧ l'.length = l.length ∧ okF c i l ∧ okF c n l' ∧ (0 ≤ n ∧ n ≤ 2147483647) ∧ ∀ k, k < l.length → (laneAt l' k).1 = (laneAt l k).1 ∧ (laneAt l' k).2 = (laneAt l k).2 + n - i := by
  unfold initR at h ⊢
  obtain ⟨e1, _, e3, e4⟩ := endsF_ok h
  have hn : 0 ≤ n ∧ n ≤ 2147483647 := e4.2.2.1
  rw [if_pos hn] at e1 e4 ⊢
  refine ⟨_, e1, by simp, e3, e4, hn, fun k hk => ?_⟩
  have hi := e3.2.2.1
  have hb := e3.1 k hk
  unfold badAt at hb
  have hm : laneAt (l.map (mvL i n)) k = mvL i n (laneAt l k) := by
    unfold laneAt
    rw [List.getD_eq_getElem?_getD, List.getElem?_map, List.getD_eq_getElem?_getD, List.getElem?_eq_getElem hk]
    rfl
  rw [hm]
  unfold mvL
  refine ⟨rfl, ?_⟩
  dsimp only
  rw [wrap_in (x := (laneAt l k).2 + n) (by omega), wrap_in (by omega)]

theorem init_bad {c i : Int} {l : List Lane} {n : Int} (h : (initR c i l n).2 = false) : initR c i l n = ((c, i, l), false) := endsF_bad h

end Go.Proofs.Ytkicfiacnpifkad
