/- Uploads that rise: where one is put, which one is gone, said as the program goes; no program in it. What lasts of a store that was made sure, with records written since, behind any crash. No program in it. An upload that is made is there, empty; made again it is refused; dropped it is gone. No program in it. What the program's fold does: what must fit; the upload that must be there. -/
import Derived.Test.YtjaihnmhojabfaaGreatDoorM06
import Derived.Lib.Strings
import Derived.Test.YtjaihnmhojabfaaGreatDoorM09
import Derived.Test.YtjaihnmhojabfaaGreatDoorM23
import Derived.Test.YtjaihnmhojabfaaGreatDoorM08
import Derived.Test.YtjaihnmhojabfaaGreatDoorM04
namespace Go.Proofs.YtjaihnmhojabfaaGreatDoor
open Go.RowKit
set_option linter.unusedVariables false

theorem bl_irrefl : ∀ l : List UInt8, Op.bytesLess l l = false
  | [] => by simp [Op.bytesLess]
  | x :: l => by simp [Op.bytesLess, bl_irrefl l]

theorem bl_trans : ∀ {a b c : List UInt8}, Op.bytesLess a b = true → Op.bytesLess b c = true → Op.bytesLess a c = true
  | [], [], c, h, _ => by simp [Op.bytesLess] at h
  | [], y :: b, [], _, h => by simp [Op.bytesLess] at h
  | [], y :: b, z :: c, _, _ => by simp [Op.bytesLess]
  | x :: a, [], c, h, _ => by simp [Op.bytesLess] at h
  | x :: a, y :: b, [], _, h => by simp [Op.bytesLess] at h
  | x :: a, y :: b, z :: c, h1, h2 => by
    simp only [Op.bytesLess, Bool.or_eq_true, Bool.and_eq_true, decide_eq_true_eq, beq_iff_eq] at h1 h2 ⊢
    rcases h1 with h1 | ⟨rfl, h1⟩
    · rcases h2 with h2 | ⟨rfl, h2⟩
      · exact .inl (UInt8.lt_trans h1 h2)
      · exact .inl h1
    · rcases h2 with h2 | ⟨rfl, h2⟩
      · exact .inl h2
      · exact .inr ⟨rfl, bl_trans h1 h2⟩

theorem bl_tri : ∀ a b : List UInt8, Op.bytesLess a b = true ∨ a = b ∨ Op.bytesLess b a = true
  | [], [] => .inr (.inl rfl)
  | [], y :: b => .inl (by simp [Op.bytesLess])
  | x :: a, [] => .inr (.inr (by simp [Op.bytesLess]))
  | x :: a, y :: b => by
    simp only [Op.bytesLess, Bool.or_eq_true, Bool.and_eq_true, decide_eq_true_eq, beq_iff_eq, List.cons.injEq]
    by_cases h1 : x < y
    · exact .inl (.inl h1)
    · by_cases h2 : y < x
      · exact .inr (.inr (.inl h2))
      · have e : x = y := UInt8.le_antisymm (UInt8.not_lt.1 h2) (UInt8.not_lt.1 h1)
        subst e
        rcases bl_tri a b with h | h | h
        · exact .inl (.inr ⟨rfl, h⟩)
        · exact .inr (.inl ⟨rfl, h⟩)
        · exact .inr (.inr (.inr ⟨rfl, h⟩))

/-- A name ahead of another. -/
def ltS (x y : ByteArray) : Bool := Op.bytesLess x.toList y.toList

theorem toList_inj {s t : ByteArray} (h : s.toList = t.toList) : s = t := by
  rw [Lib.toList_data, Lib.toList_data] at h
  cases s
  cases t
  exact congrArg ByteArray.mk (Array.toList_inj.1 h)

theorem ltS_irrefl (x : ByteArray) : ltS x x = false := bl_irrefl _
theorem ltS_trans {x y z : ByteArray} (h1 : ltS x y = true) (h2 : ltS y z = true) : ltS x z = true := bl_trans h1 h2
theorem ltS_tri (x y : ByteArray) : ltS x y = true ∨ x = y ∨ ltS y x = true := by
  rcases bl_tri x.toList y.toList with h | h | h
  · exact .inl h
  · exact .inr (.inl (toList_inj h))
  · exact .inr (.inr h)
theorem ltS_asym {x y : ByteArray} (h : ltS x y = true) : ltS y x = false := by
  cases h2 : ltS y x with
  | false => rfl
  | true => have := ltS_trans h h2; rw [ltS_irrefl] at this; cases this

theorem gtS_iff {x y : ByteArray} : gtS x y = true ↔ ltS y x = true := by
  constructor
  · intro h
    rcases ltS_tri x y with h1 | rfl | h1
    · simp [gtS, show Op.bytesLess x.toList y.toList = true from h1] at h
    · simp [gtS] at h
    · exact h1
  · intro h
    have h1 : Op.bytesLess x.toList y.toList = false := ltS_asym h
    have h2 : x ≠ y := fun e => by subst e; rw [ltS_irrefl] at h; cases h
    have h3 : (x.toList == y.toList) = false := by
      rw [beq_eq_false_iff_ne]
      exact fun e => h2 (toList_inj e)
    simp [gtS, h1, h3]

/-- Uploads rise by their names. -/
def Asc (l : List U) : Prop := l.Pairwise fun u v => ltS u.id v.id = true

theorem asc_ne {l : List U} (h : Asc l) {i j : Nat} (hi : i < l.length) (hj : j < l.length) (hij : i < j) : (l[i]).id ≠ (l[j]).id := fun e => by
  have := (List.pairwise_iff_getElem.1 h) i j hi hj hij
  rw [e, ltS_irrefl] at this
  cases this

/-- How many of the first ones are ahead of a name. -/
def lessU (l : List U) (id : ByteArray) : Nat := match l with
  | [] => 0
  | u :: l => if ltS u.id id = true then lessU l id + 1 else 0

theorem lessU_le (id : ByteArray) : ∀ l : List U, lessU l id ≤ l.length
  | [] => Nat.le_refl _
  | u :: l => by
    rw [lessU]
    split
    · have := lessU_le id l; simp only [List.length_cons]; omega
    · exact Nat.zero_le _

theorem lessU_at {id : ByteArray} : ∀ {l : List U} {k : Nat}, k ≤ l.length → (∀ j (hj : j < l.length), j < k → ltS (l[j]).id id = true) → (∀ (hk : k < l.length), ltS (l[k]).id id = false) → lessU l id = k
  | [], k, hk, _, _ => by simp at hk; rw [hk]; rfl
  | u :: l, 0, _, _, h => by rw [lessU, if_neg (by rw [show ltS u.id id = false from h (by simp)]; simp)]
  | u :: l, k + 1, hk, h1, h2 => by
    rw [lessU, if_pos (show ltS u.id id = true from h1 0 (by simp) (by omega))]
    rw [lessU_at (k := k) (by simpa using hk) (fun j hj hjk => h1 (j + 1) (by simpa using hj) (by omega)) (fun hk2 => h2 (by simpa using hk2))]

/-- In uploads that rise one is put where the program puts it. -/
theorem ins_less {l : List U} {id : ByteArray} (ha : Asc l) (hn : atU l id = none) : insK l id l.length = lessU l id := by
  have hne : ∀ k (hk : k < l.length), (l[k]).id ≠ id := by
    intro k hk
    rw [atU, List.findIdx?_eq_none_iff] at hn
    simpa using hn (l[k]) (List.getElem_mem hk)
  have key : ∀ k, k ≤ l.length → (∀ j (hj : j < l.length), k ≤ j → ltS id (l[j]).id = true) → lessU l id = insK l id k := by
    intro k
    induction k with
    | zero =>
      intro _ h
      exact lessU_at (Nat.zero_le _) (fun j _ hj => absurd hj (Nat.not_lt_zero _)) (fun hk => ltS_asym (h 0 hk (Nat.le_refl _)))
    | succ k ih =>
      intro hk h
      have hkl : k < l.length := hk
      by_cases hg : gtS (l[k]).id id = true
      · rw [insK_down (List.getElem?_eq_getElem hkl) hg]
        refine ih (by omega) (fun j hj hkj => ?_)
        by_cases e : j = k
        · subst e; exact gtS_iff.1 hg
        · exact h j hj (by omega)
      · rw [insK_stop (List.getElem?_eq_getElem hkl) hg]
        have hlt : ltS (l[k]).id id = true := by
          rcases ltS_tri (l[k]).id id with h1 | h1 | h1
          · exact h1
          · exact absurd h1 (hne k hkl)
          · exact absurd (gtS_iff.2 h1) hg
        refine lessU_at hk (fun j hj hjk => ?_) (fun hk2 => ltS_asym (h (k + 1) hk2 (Nat.le_refl _)))
        by_cases e : j = k
        · subst e; exact hlt
        · exact ltS_trans ((List.pairwise_iff_getElem.1 ha) j k hj hkl (by omega)) hlt
  exact (key l.length (Nat.le_refl _) (fun j hj hlj => by omega)).symm

theorem less_take {l : List U} {id : ByteArray} : ∀ j (hj : j < l.length), j < lessU l id → ltS (l[j]).id id = true := by
  induction l with
  | nil => intro j hj; simp at hj
  | cons u l ih =>
    intro j hj hlt
    rw [lessU] at hlt
    split at hlt
    · rename_i h
      cases j with
      | zero => exact h
      | succ j => exact ih j (by simpa using hj) (by omega)
    · omega

theorem less_drop {l : List U} {id : ByteArray} (ha : Asc l) (hn : atU l id = none) : ∀ j (hj : j < l.length), lessU l id ≤ j → ltS id (l[j]).id = true := by
  have hne : ∀ k (hk : k < l.length), (l[k]).id ≠ id := by
    intro k hk
    rw [atU, List.findIdx?_eq_none_iff] at hn
    simpa using hn (l[k]) (List.getElem_mem hk)
  clear hn
  induction l with
  | nil => intro j hj; simp at hj
  | cons u l ih =>
    intro j hj hlt
    rw [lessU] at hlt
    have hal : Asc l := (List.pairwise_cons.1 ha).2
    split at hlt
    · cases j with
      | zero => omega
      | succ j => exact ih hal (fun k hk => hne (k + 1) (by simpa using hk)) j (by simpa using hj) (by omega)
    · rename_i h
      have h0 : ltS id u.id = true := by
        rcases ltS_tri u.id id with h1 | h1 | h1
        · exact absurd h1 h
        · exact absurd h1 (hne 0 (by simp))
        · exact h1
      cases j with
      | zero => exact h0
      | succ j =>
        have := (List.pairwise_cons.1 ha).1 (l[j]'(by simpa using hj)) (List.getElem_mem _)
        exact ltS_trans h0 this

/-- What is kept where all of a name go. -/
def keptU (l : List U) (id : ByteArray) : List U := l.filter fun u => !decide (u.id = id)

theorem erase_kept {l : List U} {id : ByteArray} {k : Nat} (ha : Asc l) (hk : atU l id = some k) : keptU l id = l.eraseIdx k := by
  obtain ⟨hkl, hid⟩ := atU_is hk
  have h1 : l = l.take k ++ l[k] :: l.drop (k + 1) := by rw [← List.drop_eq_getElem_cons hkl, List.take_append_drop]
  have ht : (l.take k).filter (fun u => !decide (u.id = id)) = l.take k := by
    rw [List.filter_eq_self]
    intro u hu
    obtain ⟨j, hj, rfl⟩ := List.mem_iff_getElem.1 hu
    have hjk : j < k := by simp at hj; omega
    have := asc_ne ha (show j < l.length by omega) hkl hjk
    rw [hid] at this
    simpa using this
  have hd : (l.drop (k + 1)).filter (fun u => !decide (u.id = id)) = l.drop (k + 1) := by
    rw [List.filter_eq_self]
    intro u hu
    obtain ⟨j, hj, rfl⟩ := List.mem_iff_getElem.1 hu
    have hjl : k + 1 + j < l.length := by simp at hj; omega
    have := asc_ne ha hkl hjl (by omega)
    rw [hid] at this
    simpa using Ne.symm this
  rw [List.eraseIdx_eq_take_drop_succ, keptU]
  conv => lhs; rw [h1]
  rw [List.filter_append, List.filter_cons, ht, hd]
  simp [hid]

theorem makeU_less {l : List U} {u : U} (ha : Asc l) (hn : atU l u.id = none) : makeU l u = l.take (lessU l u.id) ++ u :: l.drop (lessU l u.id) := by rw [makeU, ins_less ha hn]

theorem asc_set {l : List U} {k : Nat} {u v : U} (ha : Asc l) (hu : l[k]? = some u) (he : v.id = u.id) : Asc (l.set k v) := by
  obtain ⟨hkl, hke⟩ := List.getElem?_eq_some_iff.1 hu
  rw [Asc, List.pairwise_iff_getElem]
  intro i j hi hj hij
  have hil : i < l.length := by simpa using hi
  have hjl : j < l.length := by simpa using hj
  have hid : ∀ m (hm : m < l.length), ((l.set k v)[m]'(by simpa using hm)).id = (l[m]).id := by
    intro m hm
    rw [List.getElem_set]
    split
    · rename_i e; subst e; rw [he, hke]
    · rfl
  rw [hid i hil, hid j hjl]
  exact (List.pairwise_iff_getElem.1 ha) i j hil hjl hij

theorem oneU_asc {l l' : List U} {r : R} (ha : Asc l) (h : oneU l r = some l') : Asc l' := by
  rw [oneU] at h
  split at h
  · split at h
    · rename_i hc
      injection h with h
      subst h
      have ha2 := ha
      rw [Asc, List.pairwise_iff_getElem] at ha2
      rw [makeU_less ha hc.1, Asc, List.pairwise_append]
      dsimp only
      have hle := lessU_le r.id l
      refine ⟨List.Pairwise.sublist (List.take_sublist _ _) ha, List.pairwise_cons.2 ⟨?_, List.Pairwise.sublist (List.drop_sublist _ _) ha⟩, ?_⟩
      · intro v hv
        obtain ⟨j, hj, rfl⟩ := List.mem_iff_getElem.1 hv
        rw [List.getElem_drop]
        rw [List.length_drop] at hj
        exact less_drop ha hc.1 _ (by omega) (by omega)
      · intro v hv x hx
        obtain ⟨j, hj, rfl⟩ := List.mem_iff_getElem.1 hv
        rw [List.getElem_take]
        rw [List.length_take] at hj
        have hjl : j < lessU l r.id := by omega
        have hjn : j < l.length := by omega
        rcases List.mem_cons.1 hx with rfl | hx
        · exact less_take j hjn hjl
        · obtain ⟨i, hi, rfl⟩ := List.mem_iff_getElem.1 hx
          rw [List.getElem_drop]
          rw [List.length_drop] at hi
          exact ha2 _ _ hjn (by omega) (by omega)
    · cases h
  · split at h
    · cases h
    · split at h
      · cases h
      · rename_i k _ x hx
        split at h
        · split at h
          · cases h
          · injection h with h
            subst h
            exact asc_set ha hx rfl
        · split at h
          · split at h
            · cases h
            · injection h with h
              subst h
              exact asc_set ha hx rfl
          · split at h
            · injection h with h
              subst h
              exact List.Pairwise.sublist (List.eraseIdx_sublist ..) ha
            · cases h

theorem foldU_asc {rs : List R} {l : List U} (h : foldU rs = some l) : Asc l := by
  have key : ∀ (rs : List R) (a b : List U), Asc a → rs.foldlM oneU a = some b → Asc b := by
    intro rs
    induction rs with
    | nil => intro a b ha h; simp at h; subst h; exact ha
    | cons r rs ih =>
      intro a b ha h
      rw [List.foldlM_cons] at h
      cases ho : oneU a r with
      | none => rw [ho] at h; cases h
      | some c => rw [ho] at h; exact ih c b (oneU_asc ha ho) h
  exact key rs [] l List.Pairwise.nil h

end Go.Proofs.YtjaihnmhojabfaaGreatDoor

namespace Go.Proofs.YtjaihnmhojabfaaGreatDoor
open Go.RowKit
set_option linter.unusedVariables false

/-- A scan looks no farther than the first sector that does not follow. -/
theorem scan_prefix : ∀ (Z F : List ByteArray) (i : Nat) (last : Int), F.length = Z.length → (∀ k, k ≤ (scanFrom i last Z).length → F[k]? = Z[k]?) → scanFrom i last F = scanFrom i last Z
  | [], F, i, last, hl, _ => by
    have : F = [] := List.length_eq_zero_iff.1 hl
    rw [this]
  | z :: Z, [], i, last, hl, _ => by simp at hl
  | z :: Z, f :: F, i, last, hl, h => by
    have h0 : f = z := by have := h 0 (Nat.zero_le _); simpa using this
    subst h0
    rw [scanFrom, scanFrom]
    cases hn : nextR i last f with
    | none => rfl
    | some r =>
      dsimp only
      congr 1
      refine scan_prefix Z F (i + 1) r.e (by simpa using hl) (fun k hk => ?_)
      have := h (k + 1) (by rw [scanFrom, hn]; simpa using hk)
      simpa using this

theorem wroteX_low {ep : Int} : ∀ (rs : List R) (X : List ByteArray) (nx i : Nat), i < nx → (wroteX X ep nx rs)[i]? = X[i]?
  | [], X, nx, i, _ => rfl
  | r :: rs, X, nx, i, h => by rw [wroteX, wroteX_low rs _ (nx + 1) i (by omega), List.getElem?_set_ne (by omega)]

theorem wroteX_high {ep : Int} : ∀ (rs : List R) (X : List ByteArray) (nx i : Nat), nx + rs.length ≤ i → (wroteX X ep nx rs)[i]? = X[i]?
  | [], X, nx, i, _ => rfl
  | r :: rs, X, nx, i, h => by rw [List.length_cons] at h; rw [wroteX, wroteX_high rs _ (nx + 1) i (by omega), List.getElem?_set_ne (by omega)]

theorem wroteX_mid {ep : Int} : ∀ (rs : List R) (X : List ByteArray) (nx j : Nat) (r : R), rs[j]? = some r → nx + j < X.length → (wroteX X ep nx rs)[nx + j]? = some (txU (r.at ep (nx + j)).put)
  | [], X, nx, j, r, h, _ => by simp at h
  | x :: rs, X, nx, 0, r, h, hl => by
    obtain rfl : x = r := by simpa using h
    rw [wroteX, wroteX_low rs _ (nx + 1) (nx + 0) (by omega)]
    rw [Nat.add_zero] at hl ⊢
    rw [List.getElem?_set_self hl]
  | x :: rs, X, nx, j + 1, r, h, hl => by
    have := wroteX_mid (ep := ep) rs (X.set nx (txU (x.at ep nx).put)) (nx + 1) j r (by simpa using h) (by rw [List.length_set]; omega)
    rw [show nx + 1 + j = nx + (j + 1) by omega] at this
    rw [wroteX]
    exact this

theorem first_diff (P : Nat → Prop) : ∀ m, ∃ j, j ≤ m ∧ (∀ i, i < j → P i) ∧ (j = m ∨ ¬ P j)
  | 0 => ⟨0, Nat.le_refl _, fun i h => by omega, .inl rfl⟩
  | m + 1 => by
    obtain ⟨j, h1, h2, h3⟩ := first_diff P m
    rcases h3 with rfl | h3
    · by_cases h : P j
      · exact ⟨j + 1, Nat.le_refl _, fun i hi => (Nat.lt_succ_iff_lt_or_eq.1 hi).elim (h2 i) (fun e => e ▸ h), .inl rfl⟩
      · exact ⟨j, by omega, h2, .inr h⟩
    · exact ⟨j, by omega, h2, .inr h3⟩

theorem fall_or {xs ys : List ByteArray} (ks : List Bool) (hl : xs.length = ys.length) (k : Nat) : (fallL xs ys ks)[k]? = xs[k]? ∨ (fallL xs ys ks)[k]? = ys[k]? := by
  by_cases hk : k < xs.length
  · have h := fallL_at (ks := ks) (List.getElem?_eq_getElem hk) (List.getElem?_eq_getElem (show k < ys.length by omega))
    rw [h]
    split
    · left; rw [List.getElem?_eq_getElem hk]
    · right; rw [List.getElem?_eq_getElem (show k < ys.length by omega)]
  · left
    rw [List.getElem?_eq_none (by rw [fallL_len]; omega), List.getElem?_eq_none (by omega)]

theorem foldlM_take {rs : List R} {us us' : List U} (h : rs.foldlM oneU us = some us') (j : Nat) : ∃ u1, (rs.take j).foldlM oneU us = some u1 := by
  have e : rs = rs.take j ++ rs.drop j := (List.take_append_drop j rs).symm
  rw [e, List.foldlM_append] at h
  cases h1 : (rs.take j).foldlM oneU us with
  | none => rw [h1] at h; cases h
  | some u1 => exact ⟨u1, rfl⟩

/-- Behind a crash there is what was sure, and a beginning of what was written since. -/
theorem dur {k : Int} {X : List ByteArray} {ep nx : Int} {us us2 : List U} {rs : List R} (h : SG k X X ep nx us) (hk : k < 10000) (hr : ∀ r ∈ rs, idB r.id.data.toList = true ∧ kindB r.k r.n r.zs.length = true ∧ ∀ x ∈ r.zs, 0 ≤ x ∧ x ≤ 255) (hl : nx + (rs.length : Int) ≤ (X.length : Int)) (hf : rs.foldlM oneU us = some us2) (ks : List Bool) :
    ∃ j, j ≤ rs.length ∧ ∃ usj, (rs.take j).foldlM oneU us = some usj ∧ ∃ e n, openO (fallX (wroteX X ep nx.toNat rs) X ks) (fallY (wroteX X ep nx.toNat rs) X ks) = some (e, n, usj) := by
  obtain ⟨he, h0, hnX, h200⟩ := h.ok.nums
  obtain ⟨X2, hX2⟩ : ∃ X2, wroteX X ep nx.toNat rs = X2 := ⟨_, rfl⟩
  have hlen : X2.length = X.length := by rw [← hX2, wroteX_len]
  have hok2 : SOk X2 X ep (nx + (rs.length : Int)) us2 := by rw [← hX2]; exact wrote_ok h.ok hr hl hf
  rw [hX2]
  obtain ⟨e1, e2⟩ := fall_same ks hok2.1
  rw [e1, e2]
  obtain ⟨F, hF⟩ : ∃ F, fallL X2 X ks = F := ⟨_, rfl⟩
  have hFl : F.length = X.length := by rw [← hF, fallL_len, hlen]
  have hor : ∀ i, F[i]? = X2[i]? ∨ F[i]? = X[i]? := fun i => by rw [← hF]; exact fall_or ks hlen i
  obtain ⟨N, hN⟩ : ∃ N, nx.toNat = N := ⟨_, rfl⟩
  rw [hN] at hX2
  obtain ⟨j, hj, hsame, hstop⟩ := first_diff (fun i => F[N + i]? = X2[N + i]?) rs.length
  obtain ⟨usj, huj⟩ := foldlM_take hf j
  refine ⟨j, hj, usj, huj, ?_⟩
  have htl : (rs.take j).length = j := by rw [List.length_take]; omega
  have hokZ : SOk (wroteX X ep nx.toNat (rs.take j)) X ep (nx + ((rs.take j).length : Int)) usj := wrote_ok h.ok (fun r hr' => hr r (List.mem_of_mem_take hr')) (by omega) huj
  rw [hN, htl] at hokZ
  obtain ⟨Z, hZ⟩ : ∃ Z, wroteX X ep N (rs.take j) = Z := ⟨_, rfl⟩
  rw [hZ] at hokZ
  have hZl : Z.length = X.length := by rw [← hZ, wroteX_len]
  have hsc : (scanR Z).length = N + j := by have := hokZ.2.2.2.1; omega
  have hscan : scanR F = scanR Z := by
    refine scan_prefix Z F 0 0 (by omega) (fun i hi => ?_)
    have hi2 : i ≤ N + j := by rw [← hsc]; exact hi
    by_cases h1 : i < N
    · have a1 : Z[i]? = X[i]? := by rw [← hZ]; exact wroteX_low _ _ _ _ h1
      have a2 : X2[i]? = X[i]? := by rw [← hX2]; exact wroteX_low _ _ _ _ h1
      rcases hor i with h2 | h2
      · rw [h2, a1, a2]
      · rw [h2, a1]
    · obtain ⟨p, rfl⟩ : ∃ p, i = N + p := ⟨i - N, by omega⟩
      by_cases h2 : p < j
      · rw [hsame p h2]
        have hp : p < rs.length := by omega
        have a1 : X2[N + p]? = some (txU (rs[p].at ep (N + p)).put) := by rw [← hX2]; exact wroteX_mid rs X N p _ (List.getElem?_eq_getElem hp) (by omega)
        have a2 : Z[N + p]? = some (txU (rs[p].at ep (N + p)).put) := by rw [← hZ]; exact wroteX_mid (rs.take j) X N p _ (by rw [List.getElem?_take, if_pos h2, List.getElem?_eq_getElem hp]) (by omega)
        rw [a1, a2]
      · obtain rfl : p = j := by omega
        have a1 : Z[N + p]? = X[N + p]? := by rw [← hZ]; exact wroteX_high _ _ _ _ (by rw [htl]; omega)
        rw [a1]
        rcases hstop with h3 | h3
        · have a2 : X2[N + p]? = X[N + p]? := by rw [← hX2]; exact wroteX_high _ _ _ _ (by omega)
          rcases hor (N + p) with h4 | h4
          · rw [h4, a2]
          · exact h4
        · rcases hor (N + p) with h4 | h4
          · exact absurd h4 h3
          · exact h4
  have hmem : ∀ x ∈ F, x ∈ X2 ∨ x ∈ X := fun x hx => by rw [← hF] at hx; exact fallL_mem hlen hx
  have hd2 := okD_iff.1 hok2.1
  have hokF : okD F F = true := okD_iff.2 ⟨rfl, by omega, fun x hx => (hmem x hx).elim (hd2.2.2.1 x) (hd2.2.2.2 x), fun x hx => (hmem x hx).elim (hd2.2.2.1 x) (hd2.2.2.2 x)⟩
  have hfo : foldU (scanR F) = some usj := by rw [hscan]; exact hokZ.2.2.1
  have hX2e : ∀ x ∈ X2, ∀ r, recOf x = some r → r.e ≤ ep := fun x hx r hrx => by
    rw [← hX2] at hx
    rcases wroteX_memq hx with hx | ⟨r', hr', q, hq, rfl⟩
    · exact (h.recs x (.inl hx) r hrx).1
    · have h3 := hr r' hr'
      rw [recOf_put hrx h3.2.2 (at_ok h3.1 h3.2.1 he (by omega))]
      exact Int.le_refl _
  have htop : topE F ≤ ep := topE_le (by omega) (fun x hx r hrx => (hmem x hx).elim (fun h5 => hX2e x h5 r hrx) (fun h5 => (h.recs x (.inl h5) r hrx).1))
  have hfew := h.few
  exact ⟨_, _, by rw [hF, openO, hokF, hfo]; dsimp only; rw [if_neg (by omega)]⟩

/-- In rising order each is found by its name. -/
theorem asc_at {l : List U} (h : Asc l) {p : Nat} {u : U} (hu : l[p]? = some u) : atU l u.id = some p := by
  obtain ⟨hp, rfl⟩ := List.getElem?_eq_some_iff.1 hu
  exact atU_some hp rfl (fun j hj hlt => asc_ne h hj hp hlt)

/-- Names of what records made are names of records. -/
theorem fold_ids {P : ByteArray → Prop} {rs : List R} : ∀ {us us' : List U}, (∀ u ∈ us, P u.id) → (∀ r ∈ rs, P r.id) → rs.foldlM oneU us = some us' → ∀ u ∈ us', P u.id := by
  induction rs with
  | nil => intro us us' h1 _ h; obtain rfl : us = us' := by simpa using h
           exact h1
  | cons r rs ih =>
    intro us us' h1 hr h
    rw [List.foldlM_cons] at h
    cases ho : oneU us r with
    | none => rw [ho] at h; cases h
    | some u1 =>
      rw [ho] at h
      exact ih (oneU_each (P := fun u => P u.id) ho h1 (fun _ => hr r (List.mem_cons_self ..)) (fun u hu _ _ _ => hu) (fun u hu _ _ => hu)) (fun x hx => hr x (List.mem_cons_of_mem _ hx)) h

theorem SG.ids {k : Int} {X Y : List ByteArray} {ep nx : Int} {us : List U} (h : SG k X Y ep nx us) : ∀ u ∈ us, u.id ≠ newId := by
  refine fold_ids (P := fun i => i ≠ newId) (us := []) (by simp) (fun r hr => ?_) h.ok.2.2.1
  obtain ⟨i, hi, rfl⟩ := List.getElem_of_mem hr
  obtain ⟨⟨x, hx, hrx⟩, _⟩ := scan_one (X := X) (k := i) (List.getElem?_eq_getElem hi)
  exact (h.recs x (.inl (List.mem_of_getElem? hx)) _ hrx).2

/-- What stands in a row of uploads stands there when one is put in. -/
theorem makeU_mem {l : List U} {v u : U} (h : u ∈ l) : u ∈ makeU l v := by
  rw [makeU]
  rw [← List.take_append_drop (insK l v.id l.length) l] at h
  rcases List.mem_append.1 h with h | h
  · exact List.mem_append.2 (.inl h)
  · exact List.mem_append.2 (.inr (List.mem_cons_of_mem _ h))

theorem makeU_new {l : List U} {v : U} : v ∈ makeU l v := List.mem_append.2 (.inr (List.mem_cons_self ..))

/-- The upload that is made. -/
def newU : U := ⟨newId, 30, [], false⟩

theorem SOk.asc {X Y : List ByteArray} {ep nx : Int} {us : List U} (h : SOk X Y ep nx us) : Asc us := foldU_asc h.2.2.1

/-- What lasts of the uploads. -/
structure Lasts (us usj us2 : List U) : Prop where
  least : us.length ≤ usj.length
  most : usj.length ≤ us2.length
  same : ∀ u ∈ us, ∃ p, atU usj u.id = some p ∧ usj[p]? = some u
  news : ∀ p v, atU usj newId = some p → usj[p]? = some v → v.zs.length = 0 ∨ v.zs.length = 24 ∨ v.zs.length = 30

theorem lasts_nothing {us us2 : List U} (ha : Asc us) (hi : ∀ u ∈ us, u.id ≠ newId) (hl : us.length ≤ us2.length) : Lasts us us us2 := by
  refine ⟨Nat.le_refl _, hl, fun u hu => ?_, fun p v hp hv => ?_⟩
  · obtain ⟨p, hp, rfl⟩ := List.getElem_of_mem hu
    exact ⟨p, asc_at ha (List.getElem?_eq_getElem hp), List.getElem?_eq_getElem hp⟩
  · obtain ⟨hpl, h⟩ := atU_is hp
    exact absurd h (hi _ (List.getElem_mem hpl))

theorem lasts_some {us us2 : List U} {zs : List Int} (hz : zs.length = 30) (ha : Asc us) (ha1 : Asc (makeU us newU)) (hi : ∀ u ∈ us, u.id ≠ newId) {kk : Nat} (hk : (makeU us newU)[kk]? = some newU) (i : Nat) (hi2 : i ≤ 2) (hl : us2.length = us.length + 1) : Lasts us (putU (makeU us newU) kk newU zs i) us2 := by
  have hkk : atU (makeU us newU) newId = some kk := asc_at (u := newU) ha1 hk
  have hv : ({ newU with zs := newU.zs ++ zs.take (24 * i) } : U).id = newU.id := rfl
  have hlen : (putU (makeU us newU) kk newU zs i).length = us.length + 1 := by rw [putU, List.length_set, makeU_len]
  have ha2 : Asc (putU (makeU us newU) kk newU zs i) := asc_set ha1 hk hv
  refine ⟨by omega, by omega, fun u hu => ?_, fun p v hp hv2 => ?_⟩
  · obtain ⟨p, hp, he⟩ := List.getElem_of_mem (makeU_mem (v := newU) hu)
    have hp' : (makeU us newU)[p]? = some u := by rw [List.getElem?_eq_getElem hp, he]
    have hne : kk ≠ p := fun e => by
      subst e
      rw [hk] at hp'
      injection hp' with hp'
      exact hi u hu (by rw [← hp']; rfl)
    have h3 : (putU (makeU us newU) kk newU zs i)[p]? = some u := by rw [putU, List.getElem?_set_ne hne, hp']
    exact ⟨p, asc_at ha2 h3, h3⟩
  · have h4 : atU (putU (makeU us newU) kk newU zs i) newId = some kk := atU_set hkk hk hv
    rw [h4] at hp
    injection hp with hp
    subst hp
    have hkl : kk < (makeU us newU).length := (List.getElem?_eq_some_iff.1 hk).1
    rw [putU, List.getElem?_set_self hkl] at hv2
    injection hv2 with hv2
    subst hv2
    have hl9 : ({ newU with zs := newU.zs ++ zs.take (24 * i) } : U).zs.length = min (24 * i) 30 := by
      show (([] : List Int) ++ zs.take (24 * i)).length = _
      rw [List.nil_append, List.length_take, hz]
    rw [hl9]
    have : i = 0 ∨ i = 1 ∨ i = 2 := by omega
    rcases this with rfl | rfl | rfl
    · left; rfl
    · right; left; rfl
    · right; right; rfl

/-- Of a store made sure, with an upload made since and something put into it: what is there behind any crash. -/
theorem durable {k : Int} {X : List ByteArray} {ep nx : Int} {us : List U} (h : SG k X X ep nx us) (hk : k < 10000) (ks : List Bool) {zs : List Int} (hz : zs.length = 30) (hb : ∀ x ∈ zs, 0 ≤ x ∧ x ≤ 255) {A1 A2 : WA} (h1 : makeA X X ep nx us newId 30 = A1) (h2 : putA A1.X X ep A1.nx A1.us newId 0 zs = A2) :
    okD A2.X X = true ∧ ∃ e n usj, openO (fallX A2.X X ks) (fallY A2.X X ks) = some (e, n, usj) ∧ Lasts us usj A2.us := by
  have ha := h.ok.asc
  have hids := h.ids
  by_cases hc : A1.c = 0
  · have hc' : (makeA X X ep nx us newId 30).c = 0 := by rw [h1]; exact hc
    obtain ⟨_, hkd, hl, us', hf, he⟩ := makeA_yes hc'
    have hat : atU us newId = none := atU_none (fun p hp => hids _ (List.getElem_mem hp))
    have hone : oneU us (makeR newId 30) = some us' := by
      rw [List.foldlM_cons] at hf
      cases ho : oneU us (makeR newId 30) with
      | none => rw [ho] at hf; cases hf
      | some u1 => rw [ho] at hf; simpa using hf
    have hus' : us' = makeU us newU := by
      rw [oneU, if_pos (show (makeR newId 30).k = 1 from rfl)] at hone
      split at hone
      · injection hone with hone; exact hone.symm
      · cases hone
    have ha1 : Asc us' := oneU_asc ha hone
    subst hus'
    obtain ⟨kk, hkl, hke⟩ := List.getElem_of_mem (makeU_new (l := us) (v := newU))
    have hkk : (makeU us newU)[kk]? = some newU := by rw [List.getElem?_eq_getElem hkl, hke]
    have hA1 : A1 = ⟨wroteX X ep nx.toNat [makeR newId 30], nx + 1, makeU us newU, 0⟩ := by rw [← h1, he]
    have hgm : idB newId.data.toList = true ∧ kindB 1 30 0 = true ∧ ∀ x ∈ ([] : List Int), 0 ≤ x ∧ x ≤ 255 := ⟨hkd.1, hkd.2, by simp⟩
    by_cases hc2 : A2.c = 0
    · have hc2' : (putA A1.X X ep A1.nx A1.us newId 0 zs).c = 0 := by rw [h2]; exact hc2
      obtain ⟨hso1, hid, hzl, k2, u2, h4, h5, h6, h7, h8, h9, hf2, he2⟩ := putA_yes hc2'
      rw [hA1] at hso1 h4 h5 h9 hf2 he2
      dsimp only at hso1 h4 h5 h9 hf2 he2
      have e1 : atU (makeU us newU) newId = some kk := asc_at (u := newU) ha1 hkk
      rw [e1] at h4
      injection h4 with h4
      subst h4
      rw [hkk] at h5
      injection h5 with h5
      subst h5
      have hA2 : A2 = ⟨wroteX X ep nx.toNat (makeR newId 30 :: dataRs newId 0 zs), nx + 1 + (pcs zs.length : Int), putU (makeU us newU) kk newU zs (pcs zs.length), 0⟩ := by
        rw [← h2, hA1]
        dsimp only
        rw [he2]
        have e9 : (nx + 1).toNat = nx.toNat + 1 := by have := h.ok.nums; omega
        rw [e9]
        rfl
      have hgood : ∀ r ∈ makeR newId 30 :: dataRs newId 0 zs, idB r.id.data.toList = true ∧ kindB r.k r.n r.zs.length = true ∧ ∀ x ∈ r.zs, 0 ≤ x ∧ x ≤ 255 := by
        intro r hr
        rcases List.mem_cons.1 hr with rfl | hr
        · exact hgm
        · exact dataRs_ok hid (by omega) (by omega) hb r hr
      have hfold : (makeR newId 30 :: dataRs newId 0 zs).foldlM oneU us = some (putU (makeU us newU) kk newU zs (pcs zs.length)) := by rw [List.foldlM_cons, hone]; exact hf2
      have hll : nx + ((makeR newId 30 :: dataRs newId 0 zs).length : Int) ≤ (X.length : Int) := by
        rw [List.length_cons, dataRs_len]
        rw [wroteX_len] at h9
        omega
      rw [hA2]
      refine ⟨(wrote_ok h.ok hgood hll hfold).1, ?_⟩
      obtain ⟨j, hj, usj, huj, e, n, ho⟩ := dur h hk hgood hll hfold ks
      refine ⟨e, n, usj, ho, ?_⟩
      have hfin : (putU (makeU us newU) kk newU zs (pcs zs.length)).length = us.length + 1 := by rw [putU, List.length_set, makeU_len]
      cases j with
      | zero =>
        obtain rfl : us = usj := by simpa using huj
        exact lasts_nothing ha hids (by dsimp only; omega)
      | succ i =>
        rw [List.take_succ_cons, List.foldlM_cons, hone] at huj
        have hi2 : i ≤ pcs zs.length := by rw [List.length_cons, dataRs_len] at hj; omega
        have huj2 : ((dataRs newId 0 zs).take i).foldlM oneU (makeU us newU) = some usj := huj
        rw [dataRs_take _ _ _ hi2, put_fold (off := 0) e1 hkk rfl rfl h8 i hi2] at huj2
        injection huj2 with huj2
        rw [← huj2]
        refine lasts_some hz ha ha1 hids hkk i ?_ (by dsimp only; omega)
        rw [hz] at hi2
        exact hi2
    · have hA2 : A2 = ⟨A1.X, A1.nx, A1.us, A2.c⟩ := by
        have := putA_no (X := A1.X) (Y := X) (ep := ep) (nx := A1.nx) (us := A1.us) (id := newId) (off := 0) (zs := zs) (by rw [h2]; exact hc2)
        rw [h2] at this
        exact this
      have hgood : ∀ r ∈ [makeR newId 30], idB r.id.data.toList = true ∧ kindB r.k r.n r.zs.length = true ∧ ∀ x ∈ r.zs, 0 ≤ x ∧ x ≤ 255 := fun r hr => by rw [List.mem_singleton.1 hr]; exact hgm
      have eX : A2.X = wroteX X ep nx.toNat [makeR newId 30] := by rw [hA2, hA1]
      have eU : A2.us = makeU us newU := by rw [hA2, hA1]
      rw [eX, eU]
      refine ⟨(wrote_ok h.ok hgood hl hf).1, ?_⟩
      obtain ⟨j, hj, usj, huj, e, n, ho⟩ := dur h hk hgood hl hf ks
      refine ⟨e, n, usj, ho, ?_⟩
      have hfin : (makeU us newU).length = us.length + 1 := makeU_len _ _
      cases j with
      | zero =>
        obtain rfl : us = usj := by simpa using huj
        exact lasts_nothing ha hids (by omega)
      | succ i =>
        have hi0 : i = 0 := by simp at hj; omega
        subst hi0
        rw [List.take_succ_cons, List.foldlM_cons, hone] at huj
        obtain rfl : makeU us newU = usj := by simpa using huj
        have := lasts_some (us2 := makeU us newU) hz ha ha1 hids hkk 0 (by omega) hfin
        rw [putU_zero hkk] at this
        exact this
  · have hA1 : A1 = ⟨X, nx, us, A1.c⟩ := by
      have := makeA_no (X := X) (Y := X) (ep := ep) (nx := nx) (us := us) (id := newId) (want := 30) (by rw [h1]; exact hc)
      rw [h1] at this
      exact this
    have hat : atU us newId = none := atU_none (fun p hp => hids _ (List.getElem_mem hp))
    have hc2 : A2.c ≠ 0 := fun hc2 => by
      have hc2' : (putA A1.X X ep A1.nx A1.us newId 0 zs).c = 0 := by rw [h2]; exact hc2
      obtain ⟨_, _, _, k2, u2, h4, _⟩ := putA_yes hc2'
      rw [hA1] at h4
      dsimp only at h4
      rw [hat] at h4
      cases h4
    have hA2 : A2 = ⟨A1.X, A1.nx, A1.us, A2.c⟩ := by
      have := putA_no (X := A1.X) (Y := X) (ep := ep) (nx := A1.nx) (us := A1.us) (id := newId) (off := 0) (zs := zs) (by rw [h2]; exact hc2)
      rw [h2] at this
      exact this
    have eX : A2.X = wroteX X ep nx.toNat [] := by rw [hA2, hA1]; rfl
    have eU : A2.us = us := by rw [hA2, hA1]
    rw [eX, eU]
    refine ⟨h.ok.1, ?_⟩
    obtain ⟨j, hj, usj, huj, e, n, ho⟩ := dur (rs := []) h hk (by simp) (by have := h.ok.nums; simp; omega) rfl ks
    refine ⟨e, n, usj, ho, ?_⟩
    obtain rfl : us = usj := by simpa using huj
    exact lasts_nothing ha hids (Nat.le_refl _)

end Go.Proofs.YtjaihnmhojabfaaGreatDoor

namespace Go.Proofs.YtjaihnmhojabfaaGreatDoor
open Go.RowKit
set_option linter.unusedVariables false

theorem makeA_in {X Y : List ByteArray} {ep nx : Int} {us : List U} {id : ByteArray} {want : Int} (h : (makeA X Y ep nx us id want).c = 0) : SOk X Y ep nx us ∧ idB id.data.toList = true ∧ (0 ≤ want ∧ want ≤ 1000000) ∧ atU us id = none ∧ nx < (X.length : Int) ∧ us.length ≠ 10 := by
  rw [makeA] at h
  split at h
  · rename_i h1
    split at h
    · rename_i h2
      split at h
      · rename_i h3
        exact ⟨decB_of h1.1, h1.2.1, h1.2.2, h2, h3.1, h3.2⟩
      · cases h
    · cases h
  · cases h

/-- The uploads with one more, and that one taken away. -/
theorem makeU_erase {us : List U} {v : U} (hn : atU us v.id = none) (ha : Asc (makeU us v)) : ∃ k, atU (makeU us v) v.id = some k ∧ (makeU us v)[k]? = some v ∧ (makeU us v).eraseIdx k = us := by
  have hk : insK us v.id us.length ≤ us.length := insK_le us v.id us.length
  have hl : (us.take (insK us v.id us.length)).length = insK us v.id us.length := by rw [List.length_take]; omega
  have hat : (makeU us v)[insK us v.id us.length]? = some v := by
    rw [makeU, List.getElem?_append_right (by omega), hl, Nat.sub_self]
    rfl
  refine ⟨_, asc_at ha hat, hat, ?_⟩
  rw [makeU, List.eraseIdx_append_of_length_le (by omega), hl, Nat.sub_self, List.eraseIdx_cons_zero, List.take_append_drop]

theorem dropA_at {X Y : List ByteArray} {ep nx : Int} {us : List U} {id : ByteArray} {k : Nat} (h : SOk X Y ep nx us) (hi : idB id.data.toList = true) (hk : atU us id = some k) : ((dropA X Y ep nx us id).c = 0 ∧ (dropA X Y ep nx us id).us = us.eraseIdx k) ∨ (dropA X Y ep nx us id).c = 5 := by
  rw [dropA, if_pos ⟨decB_true h, hi⟩, if_neg (by rw [hk]; simp)]
  split
  · left
    obtain ⟨hkl, _⟩ := atU_is hk
    have ho : oneU us (dropR id) = some (us.eraseIdx k) := by
      unfold oneU dropR
      dsimp only
      rw [if_neg (by decide), hk]
      dsimp only
      rw [List.getElem?_eq_getElem hkl]
      rfl
    have hf : [dropR id].foldlM oneU us = some (us.eraseIdx k) := by rw [List.foldlM_cons, ho]; rfl
    rw [wroteA, hf]
    exact ⟨rfl, rfl⟩
  · right; rfl

/-- What is known of an upload that is made. -/
theorem made_all {X Y : List ByteArray} {ep nx : Int} {us : List U} {id : ByteArray} {want : Int} {A : WA} (hA : makeA X Y ep nx us id want = A) (h : A.c = 0) :
    SOk A.X Y ep A.nx A.us ∧ (atU A.us id).isSome = true ∧ gotU A.us id = ⟨id, want, [], false⟩ ∧ (makeA A.X Y ep A.nx A.us id want).c = 3 ∧ ((dropA A.X Y ep A.nx A.us id).c = 0 ∧ (dropA A.X Y ep A.nx A.us id).us = us ∨ (dropA A.X Y ep A.nx A.us id).c = 5) := by
  have h0 : (makeA X Y ep nx us id want).c = 0 := by rw [hA]; exact h
  obtain ⟨hso, hid, hw, hn, hlt, h10⟩ := makeA_in h0
  obtain ⟨_, hk, hl, us', hf, he⟩ := makeA_yes h0
  have ho := make_fits (want := want) hn hso.few h10
  have hus : us' = makeU us ⟨id, want, [], false⟩ := by
    rw [List.foldlM_cons, ho] at hf
    have : some (makeU us ⟨id, want, [], false⟩) = some us' := hf
    injection this with this
    exact this.symm
  have hsA : SOk A.X Y ep A.nx A.us := by
    rw [← hA, he]
    exact wrote_ok (rs := [makeR id want]) hso (fun r hr => by rw [List.mem_singleton.1 hr]; exact ⟨hk.1, hk.2, by simp [makeR]⟩) hl hf
  have hAu : A.us = makeU us ⟨id, want, [], false⟩ := by rw [← hA, he, ← hus]
  have ha := hsA.asc
  rw [hAu] at ha
  obtain ⟨k, k1, k2, k3⟩ := makeU_erase (v := ⟨id, want, [], false⟩) hn ha
  rw [← hAu] at k1 k2 k3
  have k1' : atU A.us id = some k := k1
  refine ⟨hsA, by rw [k1']; rfl, ?_, ?_, ?_⟩
  · rw [gotU, k1']
    simp [List.getD_eq_getElem?_getD, k2]
  · rw [makeA, if_pos ⟨decB_true hsA, hid, hw⟩, if_neg (by rw [k1']; simp)]
  · rcases dropA_at hsA hid k1' with ⟨d1, d2⟩ | d
    · left
      exact ⟨d1, by rw [d2, k3]⟩
    · right; exact d

end Go.Proofs.YtjaihnmhojabfaaGreatDoor

namespace Go.Proofs.YtjaihnmhojabfaaGreatDoor
open Go.RowKit
set_option linter.unusedVariables false

/-- The variable holds an error. -/
def ErrN (w : World) : Prop := 1 < w.heap.size ∧ ∃ t v, w.cell? ⟨1, 0, none⟩ = some (.iface t v)

theorem ErrN.below {w W : World} (h : ErrN w) (hb : Below w.heap.size w W) : ErrN W := by
  obtain ⟨h1, t, v, h2⟩ := h
  exact ⟨Nat.lt_of_lt_of_le h1 hb.size, t, v, (hb.cell (p := ⟨1, 0, none⟩) h1).trans h2⟩

/-- A call gave up by a panic. -/
def Pan (e : Ending) : Prop := ∃ t v, e = .panicked [{ v := .iface t v, recovered := false }]

theorem mustFit_yes (w : World) : Calls Tryz.prog 115 #[.bool true] w fun e w' => e = .returned (.tuple #[]) ∧ w' = w := by
  go_enter Tryz.func115, Tryz.ntmps115
  go_wp2_with fail
  go_end0
  exact ⟨rfl, rfl⟩

theorem mustFit_no (w : World) (h : ErrN w) : Calls Tryz.prog 115 #[.bool false] w fun e w' => Pan e ∧ w' = w := by
  obtain ⟨_, t, v, hc⟩ := h
  go_enter Tryz.func115, Tryz.ntmps115
  go_wp2_with fail
  exact ⟨rfl, ⟨t, v, rfl⟩, rfl⟩

/-- What must fit does, or it gives up. -/
theorem mustFit_any (b : Bool) (w : World) (h : ErrN w) : Calls Tryz.prog 115 #[.bool b] w fun e w' => ((b = true ∧ e = .returned (.tuple #[])) ∨ (b = false ∧ Pan e)) ∧ w' = w := by
  cases b with
  | true => exact (mustFit_yes w).mono (fun e w' h => ⟨.inl ⟨rfl, h.1⟩, h.2⟩)
  | false => exact (mustFit_no w h).mono (fun e w' h => ⟨.inr ⟨rfl, h.1⟩, h.2⟩)

/-- The upload that must be there is told, or it gave up. -/
def ThereAns (o : Option Nat) (a : Option Addr) (e : Ending) : Prop := (∃ k g, o = some k ∧ a = some ⟨g, 0, none⟩ ∧ e = .returned (.pointer (some ⟨g, k * 4, none⟩))) ∨ (o = none ∧ Pan e)

set_option maxRecDepth 10000 in
set_option maxHeartbeats 800000 in
theorem implThere_any (fb : Nat) (a : Option Addr) (n c lo : Nat) (id : ByteArray) (l : List UE) (w : World) (hf : BoxN w fb 114 [.slice a n c]) (h : UpRow w lo (.slice a n c) l) (hn : n = l.length) (hl : n ≤ 1099511627776) (he : ErrN w) :
    Calls Tryz.prog 127 #[.pointer (some ⟨fb, 0, none⟩), .string id] w fun e w' => ThereAns (atU (l.map UE.u) id) a e ∧ Below w.heap.size w w' := by
  have HE : Hid (ErrN w) := he
  have HR : Hid (Calls Tryz.prog 85 #[.slice a n c, .string id] w fun e w' => e = .returned (.pointer (reachUO a (atU (l.map UE.u) id))) ∧ Below w.heap.size w w') := implReachU_any a n c lo id l w h hn hl
  have f0 := hf.cell 0 rfl
  cases hk : atU (l.map UE.u) id with
  | none =>
    rw [hk, reachUO_none] at HR
    clear hf h hk hn
    go_enter Tryz.func127, Tryz.ntmps127
    go_wp2_with fail
    refine HR.out.mono ?_
    rintro e w1 ⟨rfl, hb1⟩
    have HB1 : Hid (Below w.heap.size w w1) := hb1
    clear hb1
    go_wp2_with fail
    refine (mustFit_no w1 (HE.out.below HB1.out)).mono ?_
    rintro e w2 ⟨⟨t, v, rfl⟩, rfl⟩
    go_wp2_with fail
    exact ⟨rfl, .inr ⟨rfl, t, v, rfl⟩, HB1.out⟩
  | some k =>
    have hkl : k < (l.map UE.u).length := (atU_is hk).1
    obtain ⟨g, hg⟩ : ∃ g, a = some ⟨g, 0, none⟩ := by
      obtain ⟨g, hg, _⟩ := h.at hn (by simpa using hkl)
      exact ⟨g, hg⟩
    rw [hk, hg] at HR
    clear hf h hk hkl hn
    have HR2 : Hid (Calls Tryz.prog 85 #[.slice (some ⟨g, 0, none⟩) n c, .string id] w fun e w' => e = .returned (.pointer (some ⟨g, k * 4, none⟩)) ∧ Below w.heap.size w w') := HR.out
    subst hg
    clear HR
    go_enter Tryz.func127, Tryz.ntmps127
    go_wp2_with fail
    refine HR2.out.mono ?_
    rintro e w1 ⟨rfl, hb1⟩
    have HB1 : Hid (Below w.heap.size w w1) := hb1
    clear hb1
    go_wp2_with fail
    refine (mustFit_yes w1).mono ?_
    rintro e w2 ⟨rfl, rfl⟩
    go_wp2_with fail
    go_ret
    exact ⟨.inl ⟨k, g, rfl, rfl, rfl⟩, HB1.out⟩

end Go.Proofs.YtjaihnmhojabfaaGreatDoor
