/- Uploads that rise: where one is put, which one is gone, said as the program goes; no program in it. -/
import Derived.Test.YtclkfjlnhcccdaaGreatDoorM14
import Derived.Lib.Strings
namespace Go.Proofs.YtclkfjlnhcccdaaGreatDoor
open Go.RowKit
set_option linter.unusedVariables false

theorem bl_irrefl : ∀ l : List UInt8, Op.bytesLess l l = false
  | [] => by simp [Op.bytesLess]
  | x :: l => by simp [Op.bytesLess, bl_irrefl l]

theorem bl_trans : ∀ {a b c : List UInt8}, Op.bytesLess a b = true → Op.bytesLess b c = true → Op.bytesLess a c = true
  | [], [], c, h, _ => by simp [Op.bytesLess] at h
  | [], y :: b, [], _, h => by simp [Op.bytesLess] at h
  | [], y :: b, z :: c, _, _ => by simp [Op.bytesLess]
  | x :: a, [], c, h, _ => by simp [Op.bytesLess] at h
  | x :: a, y :: b, [], _, h => by simp [Op.bytesLess] at h
  | x :: a, y :: b, z :: c, h1, h2 => by
    simp only [Op.bytesLess, Bool.or_eq_true, Bool.and_eq_true, decide_eq_true_eq, beq_iff_eq] at h1 h2 ⊢
    rcases h1 with h1 | ⟨rfl, h1⟩
    · rcases h2 with h2 | ⟨rfl, h2⟩
      · exact .inl (UInt8.lt_trans h1 h2)
      · exact .inl h1
    · rcases h2 with h2 | ⟨rfl, h2⟩
      · exact .inl h2
      · exact .inr ⟨rfl, bl_trans h1 h2⟩

theorem bl_tri : ∀ a b : List UInt8, Op.bytesLess a b = true ∨ a = b ∨ Op.bytesLess b a = true
  | [], [] => .inr (.inl rfl)
  | [], y :: b => .inl (by simp [Op.bytesLess])
  | x :: a, [] => .inr (.inr (by simp [Op.bytesLess]))
  | x :: a, y :: b => by
    simp only [Op.bytesLess, Bool.or_eq_true, Bool.and_eq_true, decide_eq_true_eq, beq_iff_eq, List.cons.injEq]
    by_cases h1 : x < y
    · exact .inl (.inl h1)
    · by_cases h2 : y < x
      · exact .inr (.inr (.inl h2))
      · have e : x = y := UInt8.le_antisymm (UInt8.not_lt.1 h2) (UInt8.not_lt.1 h1)
        subst e
        rcases bl_tri a b with h | h | h
        · exact .inl (.inr ⟨rfl, h⟩)
        · exact .inr (.inl ⟨rfl, h⟩)
        · exact .inr (.inr (.inr ⟨rfl, h⟩))

/-- A name ahead of another. -/
def ltS (x y : ByteArray) : Bool := Op.bytesLess x.toList y.toList

theorem toList_inj {s t : ByteArray} (h : s.toList = t.toList) : s = t := by
  rw [Lib.toList_data, Lib.toList_data] at h
  cases s
  cases t
  exact congrArg ByteArray.mk (Array.toList_inj.1 h)

theorem ltS_irrefl (x : ByteArray) : ltS x x = false := bl_irrefl _
theorem ltS_trans {x y z : ByteArray} (h1 : ltS x y = true) (h2 : ltS y z = true) : ltS x z = true := bl_trans h1 h2
theorem ltS_tri (x y : ByteArray) : ltS x y = true ∨ x = y ∨ ltS y x = true := by
  rcases bl_tri x.toList y.toList with h | h | h
  · exact .inl h
  · exact .inr (.inl (toList_inj h))
  · exact .inr (.inr h)
theorem ltS_asym {x y : ByteArray} (h : ltS x y = true) : ltS y x = false := by
  cases h2 : ltS y x with
  | false => rfl
  | true => have := ltS_trans h h2; rw [ltS_irrefl] at this; cases this

theorem gtS_iff {x y : ByteArray} : gtS x y = true ↔ ltS y x = true := by
  constructor
  · intro h
    rcases ltS_tri x y with h1 | rfl | h1
    · simp [gtS, show Op.bytesLess x.toList y.toList = true from h1] at h
    · simp [gtS] at h
    · exact h1
  · intro h
    have h1 : Op.bytesLess x.toList y.toList = false := ltS_asym h
    have h2 : x ≠ y := fun e => by subst e; rw [ltS_irrefl] at h; cases h
    have h3 : (x.toList == y.toList) = false := by
      rw [beq_eq_false_iff_ne]
      exact fun e => h2 (toList_inj e)
    simp [gtS, h1, h3]

/-- Uploads rise by their names. -/
def Asc (l : List U) : Prop := l.Pairwise fun u v => ltS u.id v.id = true

theorem asc_ne {l : List U} (h : Asc l) {i j : Nat} (hi : i < l.length) (hj : j < l.length) (hij : i < j) : (l[i]).id ≠ (l[j]).id := fun e => by
  have := (List.pairwise_iff_getElem.1 h) i j hi hj hij
  rw [e, ltS_irrefl] at this
  cases this

/-- How many of the first ones are ahead of a name. -/
def lessU (l : List U) (id : ByteArray) : Nat := match l with
  | [] => 0
  | u :: l => if ltS u.id id = true then lessU l id + 1 else 0

theorem lessU_le (id : ByteArray) : ∀ l : List U, lessU l id ≤ l.length
  | [] => Nat.le_refl _
  | u :: l => by
    rw [lessU]
    split
    · have := lessU_le id l; simp only [List.length_cons]; omega
    · exact Nat.zero_le _

theorem lessU_at {id : ByteArray} : ∀ {l : List U} {k : Nat}, k ≤ l.length → (∀ j (hj : j < l.length), j < k → ltS (l[j]).id id = true) → (∀ (hk : k < l.length), ltS (l[k]).id id = false) → lessU l id = k
  | [], k, hk, _, _ => by simp at hk; rw [hk]; rfl
  | u :: l, 0, _, _, h => by rw [lessU, if_neg (by rw [show ltS u.id id = false from h (by simp)]; simp)]
  | u :: l, k + 1, hk, h1, h2 => by
    rw [lessU, if_pos (show ltS u.id id = true from h1 0 (by simp) (by omega))]
    rw [lessU_at (k := k) (by simpa using hk) (fun j hj hjk => h1 (j + 1) (by simpa using hj) (by omega)) (fun hk2 => h2 (by simpa using hk2))]

/-- In uploads that rise one is put where the program puts it. -/
theorem ins_less {l : List U} {id : ByteArray} (ha : Asc l) (hn : atU l id = none) : insK l id l.length = lessU l id := by
  have hne : ∀ k (hk : k < l.length), (l[k]).id ≠ id := by
    intro k hk
    rw [atU, List.findIdx?_eq_none_iff] at hn
    simpa using hn (l[k]) (List.getElem_mem hk)
  have key : ∀ k, k ≤ l.length → (∀ j (hj : j < l.length), k ≤ j → ltS id (l[j]).id = true) → lessU l id = insK l id k := by
    intro k
    induction k with
    | zero =>
      intro _ h
      exact lessU_at (Nat.zero_le _) (fun j _ hj => absurd hj (Nat.not_lt_zero _)) (fun hk => ltS_asym (h 0 hk (Nat.le_refl _)))
    | succ k ih =>
      intro hk h
      have hkl : k < l.length := hk
      by_cases hg : gtS (l[k]).id id = true
      · rw [insK_down (List.getElem?_eq_getElem hkl) hg]
        refine ih (by omega) (fun j hj hkj => ?_)
        by_cases e : j = k
        · subst e; exact gtS_iff.1 hg
        · exact h j hj (by omega)
      · rw [insK_stop (List.getElem?_eq_getElem hkl) hg]
        have hlt : ltS (l[k]).id id = true := by
          rcases ltS_tri (l[k]).id id with h1 | h1 | h1
          · exact h1
          · exact absurd h1 (hne k hkl)
          · exact absurd (gtS_iff.2 h1) hg
        refine lessU_at hk (fun j hj hjk => ?_) (fun hk2 => ltS_asym (h (k + 1) hk2 (Nat.le_refl _)))
        by_cases e : j = k
        · subst e; exact hlt
        · exact ltS_trans ((List.pairwise_iff_getElem.1 ha) j k hj hkl (by omega)) hlt
  exact (key l.length (Nat.le_refl _) (fun j hj hlj => by omega)).symm

theorem less_take {l : List U} {id : ByteArray} : ∀ j (hj : j < l.length), j < lessU l id → ltS (l[j]).id id = true := by
  induction l with
  | nil => intro j hj; simp at hj
  | cons u l ih =>
    intro j hj hlt
    rw [lessU] at hlt
    split at hlt
    · rename_i h
      cases j with
      | zero => exact h
      | succ j => exact ih j (by simpa using hj) (by omega)
    · omega

theorem less_drop {l : List U} {id : ByteArray} (ha : Asc l) (hn : atU l id = none) : ∀ j (hj : j < l.length), lessU l id ≤ j → ltS id (l[j]).id = true := by
  have hne : ∀ k (hk : k < l.length), (l[k]).id ≠ id := by
    intro k hk
    rw [atU, List.findIdx?_eq_none_iff] at hn
    simpa using hn (l[k]) (List.getElem_mem hk)
  clear hn
  induction l with
  | nil => intro j hj; simp at hj
  | cons u l ih =>
    intro j hj hlt
    rw [lessU] at hlt
    have hal : Asc l := (List.pairwise_cons.1 ha).2
    split at hlt
    · cases j with
      | zero => omega
      | succ j => exact ih hal (fun k hk => hne (k + 1) (by simpa using hk)) j (by simpa using hj) (by omega)
    · rename_i h
      have h0 : ltS id u.id = true := by
        rcases ltS_tri u.id id with h1 | h1 | h1
        · exact absurd h1 h
        · exact absurd h1 (hne 0 (by simp))
        · exact h1
      cases j with
      | zero => exact h0
      | succ j =>
        have := (List.pairwise_cons.1 ha).1 (l[j]'(by simpa using hj)) (List.getElem_mem _)
        exact ltS_trans h0 this

/-- What is kept where all of a name go. -/
def keptU (l : List U) (id : ByteArray) : List U := l.filter fun u => !decide (u.id = id)

theorem erase_kept {l : List U} {id : ByteArray} {k : Nat} (ha : Asc l) (hk : atU l id = some k) : keptU l id = l.eraseIdx k := by
  obtain ⟨hkl, hid⟩ := atU_is hk
  have h1 : l = l.take k ++ l[k] :: l.drop (k + 1) := by rw [← List.drop_eq_getElem_cons hkl, List.take_append_drop]
  have ht : (l.take k).filter (fun u => !decide (u.id = id)) = l.take k := by
    rw [List.filter_eq_self]
    intro u hu
    obtain ⟨j, hj, rfl⟩ := List.mem_iff_getElem.1 hu
    have hjk : j < k := by simp at hj; omega
    have := asc_ne ha (show j < l.length by omega) hkl hjk
    rw [hid] at this
    simpa using this
  have hd : (l.drop (k + 1)).filter (fun u => !decide (u.id = id)) = l.drop (k + 1) := by
    rw [List.filter_eq_self]
    intro u hu
    obtain ⟨j, hj, rfl⟩ := List.mem_iff_getElem.1 hu
    have hjl : k + 1 + j < l.length := by simp at hj; omega
    have := asc_ne ha hkl hjl (by omega)
    rw [hid] at this
    simpa using Ne.symm this
  rw [List.eraseIdx_eq_take_drop_succ, keptU]
  conv => lhs; rw [h1]
  rw [List.filter_append, List.filter_cons, ht, hd]
  simp [hid]

theorem makeU_less {l : List U} {u : U} (ha : Asc l) (hn : atU l u.id = none) : makeU l u = l.take (lessU l u.id) ++ u :: l.drop (lessU l u.id) := by rw [makeU, ins_less ha hn]

theorem asc_set {l : List U} {k : Nat} {u v : U} (ha : Asc l) (hu : l[k]? = some u) (he : v.id = u.id) : Asc (l.set k v) := by
  obtain ⟨hkl, hke⟩ := List.getElem?_eq_some_iff.1 hu
  rw [Asc, List.pairwise_iff_getElem]
  intro i j hi hj hij
  have hil : i < l.length := by simpa using hi
  have hjl : j < l.length := by simpa using hj
  have hid : ∀ m (hm : m < l.length), ((l.set k v)[m]'(by simpa using hm)).id = (l[m]).id := by
    intro m hm
    rw [List.getElem_set]
    split
    · rename_i e; subst e; rw [he, hke]
    · rfl
  rw [hid i hil, hid j hjl]
  exact (List.pairwise_iff_getElem.1 ha) i j hil hjl hij

theorem oneU_asc {l l' : List U} {r : R} (ha : Asc l) (h : oneU l r = some l') : Asc l' := by
  rw [oneU] at h
  split at h
  · split at h
    · rename_i hc
      injection h with h
      subst h
      have ha2 := ha
      rw [Asc, List.pairwise_iff_getElem] at ha2
      rw [makeU_less ha hc.1, Asc, List.pairwise_append]
      dsimp only
      have hle := lessU_le r.id l
      refine ⟨List.Pairwise.sublist (List.take_sublist _ _) ha, List.pairwise_cons.2 ⟨?_, List.Pairwise.sublist (List.drop_sublist _ _) ha⟩, ?_⟩
      · intro v hv
        obtain ⟨j, hj, rfl⟩ := List.mem_iff_getElem.1 hv
        rw [List.getElem_drop]
        rw [List.length_drop] at hj
        exact less_drop ha hc.1 _ (by omega) (by omega)
      · intro v hv x hx
        obtain ⟨j, hj, rfl⟩ := List.mem_iff_getElem.1 hv
        rw [List.getElem_take]
        rw [List.length_take] at hj
        have hjl : j < lessU l r.id := by omega
        have hjn : j < l.length := by omega
        rcases List.mem_cons.1 hx with rfl | hx
        · exact less_take j hjn hjl
        · obtain ⟨i, hi, rfl⟩ := List.mem_iff_getElem.1 hx
          rw [List.getElem_drop]
          rw [List.length_drop] at hi
          exact ha2 _ _ hjn (by omega) (by omega)
    · cases h
  · split at h
    · cases h
    · split at h
      · cases h
      · rename_i k _ x hx
        split at h
        · split at h
          · cases h
          · injection h with h
            subst h
            exact asc_set ha hx rfl
        · split at h
          · split at h
            · cases h
            · injection h with h
              subst h
              exact asc_set ha hx rfl
          · split at h
            · injection h with h
              subst h
              exact List.Pairwise.sublist (List.eraseIdx_sublist ..) ha
            · cases h

theorem foldU_asc {rs : List R} {l : List U} (h : foldU rs = some l) : Asc l := by
  have key : ∀ (rs : List R) (a b : List U), Asc a → rs.foldlM oneU a = some b → Asc b := by
    intro rs
    induction rs with
    | nil => intro a b ha h; simp at h; subst h; exact ha
    | cons r rs ih =>
      intro a b ha h
      rw [List.foldlM_cons] at h
      cases ho : oneU a r with
      | none => rw [ho] at h; cases h
      | some c => rw [ho] at h; exact ih c b (oneU_asc ha ho) h
  exact key rs [] l List.Pairwise.nil h

end Go.Proofs.YtclkfjlnhcccdaaGreatDoor
