/- Uploads that rise: where one is put, which one is gone, said as the program goes; no program in it. What the program's with answers: an upload more, at its place. -/
import Derived.Test.YtenkpgnkkkgdmatGreatDoorM11
import Derived.Lib.Strings
import Derived.Test.YtenkpgnkkkgdmatGreatDoorM12
import Derived.Test.YtenkpgnkkkgdmatGreatDoorM05
import Derived.Test.YtenkpgnkkkgdmatGreatDoorM03
namespace Go.Proofs.YtenkpgnkkkgdmatGreatDoor
open Go.RowKit
set_option linter.unusedVariables false

theorem bl_irrefl : ∀ l : List UInt8, Op.bytesLess l l = false
  | [] => by simp [Op.bytesLess]
  | x :: l => by simp [Op.bytesLess, bl_irrefl l]

theorem bl_trans : ∀ {a b c : List UInt8}, Op.bytesLess a b = true → Op.bytesLess b c = true → Op.bytesLess a c = true
  | [], [], c, h, _ => by simp [Op.bytesLess] at h
  | [], y :: b, [], _, h => by simp [Op.bytesLess] at h
  | [], y :: b, z :: c, _, _ => by simp [Op.bytesLess]
  | x :: a, [], c, h, _ => by simp [Op.bytesLess] at h
  | x :: a, y :: b, [], _, h => by simp [Op.bytesLess] at h
  | x :: a, y :: b, z :: c, h1, h2 => by
    simp only [Op.bytesLess, Bool.or_eq_true, Bool.and_eq_true, decide_eq_true_eq, beq_iff_eq] at h1 h2 ⊢
    rcases h1 with h1 | ⟨rfl, h1⟩
    · rcases h2 with h2 | ⟨rfl, h2⟩
      · exact .inl (UInt8.lt_trans h1 h2)
      · exact .inl h1
    · rcases h2 with h2 | ⟨rfl, h2⟩
      · exact .inl h2
      · exact .inr ⟨rfl, bl_trans h1 h2⟩

theorem bl_tri : ∀ a b : List UInt8, Op.bytesLess a b = true ∨ a = b ∨ Op.bytesLess b a = true
  | [], [] => .inr (.inl rfl)
  | [], y :: b => .inl (by simp [Op.bytesLess])
  | x :: a, [] => .inr (.inr (by simp [Op.bytesLess]))
  | x :: a, y :: b => by
    simp only [Op.bytesLess, Bool.or_eq_true, Bool.and_eq_true, decide_eq_true_eq, beq_iff_eq, List.cons.injEq]
    by_cases h1 : x < y
    · exact .inl (.inl h1)
    · by_cases h2 : y < x
      · exact .inr (.inr (.inl h2))
      · have e : x = y := UInt8.le_antisymm (UInt8.not_lt.1 h2) (UInt8.not_lt.1 h1)
        subst e
        rcases bl_tri a b with h | h | h
        · exact .inl (.inr ⟨rfl, h⟩)
        · exact .inr (.inl ⟨rfl, h⟩)
        · exact .inr (.inr (.inr ⟨rfl, h⟩))

/-- A name ahead of another. -/
def ltS (x y : ByteArray) : Bool := Op.bytesLess x.toList y.toList

theorem toList_inj {s t : ByteArray} (h : s.toList = t.toList) : s = t := by
  rw [Lib.toList_data, Lib.toList_data] at h
  cases s
  cases t
  exact congrArg ByteArray.mk (Array.toList_inj.1 h)

theorem ltS_irrefl (x : ByteArray) : ltS x x = false := bl_irrefl _
theorem ltS_trans {x y z : ByteArray} (h1 : ltS x y = true) (h2 : ltS y z = true) : ltS x z = true := bl_trans h1 h2
theorem ltS_tri (x y : ByteArray) : ltS x y = true ∨ x = y ∨ ltS y x = true := by
  rcases bl_tri x.toList y.toList with h | h | h
  · exact .inl h
  · exact .inr (.inl (toList_inj h))
  · exact .inr (.inr h)
theorem ltS_asym {x y : ByteArray} (h : ltS x y = true) : ltS y x = false := by
  cases h2 : ltS y x with
  | false => rfl
  | true => have := ltS_trans h h2; rw [ltS_irrefl] at this; cases this

theorem gtS_iff {x y : ByteArray} : gtS x y = true ↔ ltS y x = true := by
  constructor
  · intro h
    rcases ltS_tri x y with h1 | rfl | h1
    · simp [gtS, show Op.bytesLess x.toList y.toList = true from h1] at h
    · simp [gtS] at h
    · exact h1
  · intro h
    have h1 : Op.bytesLess x.toList y.toList = false := ltS_asym h
    have h2 : x ≠ y := fun e => by subst e; rw [ltS_irrefl] at h; cases h
    have h3 : (x.toList == y.toList) = false := by
      rw [beq_eq_false_iff_ne]
      exact fun e => h2 (toList_inj e)
    simp [gtS, h1, h3]

/-- Uploads rise by their names. -/
def Asc (l : List U) : Prop := l.Pairwise fun u v => ltS u.id v.id = true

theorem asc_ne {l : List U} (h : Asc l) {i j : Nat} (hi : i < l.length) (hj : j < l.length) (hij : i < j) : (l[i]).id ≠ (l[j]).id := fun e => by
  have := (List.pairwise_iff_getElem.1 h) i j hi hj hij
  rw [e, ltS_irrefl] at this
  cases this

/-- How many of the first ones are ahead of a name. -/
def lessU (l : List U) (id : ByteArray) : Nat := match l with
  | [] => 0
  | u :: l => if ltS u.id id = true then lessU l id + 1 else 0

theorem lessU_le (id : ByteArray) : ∀ l : List U, lessU l id ≤ l.length
  | [] => Nat.le_refl _
  | u :: l => by
    rw [lessU]
    split
    · have := lessU_le id l; simp only [List.length_cons]; omega
    · exact Nat.zero_le _

theorem lessU_at {id : ByteArray} : ∀ {l : List U} {k : Nat}, k ≤ l.length → (∀ j (hj : j < l.length), j < k → ltS (l[j]).id id = true) → (∀ (hk : k < l.length), ltS (l[k]).id id = false) → lessU l id = k
  | [], k, hk, _, _ => by simp at hk; rw [hk]; rfl
  | u :: l, 0, _, _, h => by rw [lessU, if_neg (by rw [show ltS u.id id = false from h (by simp)]; simp)]
  | u :: l, k + 1, hk, h1, h2 => by
    rw [lessU, if_pos (show ltS u.id id = true from h1 0 (by simp) (by omega))]
    rw [lessU_at (k := k) (by simpa using hk) (fun j hj hjk => h1 (j + 1) (by simpa using hj) (by omega)) (fun hk2 => h2 (by simpa using hk2))]

/-- In uploads that rise one is put where the program puts it. -/
theorem ins_less {l : List U} {id : ByteArray} (ha : Asc l) (hn : atU l id = none) : insK l id l.length = lessU l id := by
  have hne : ∀ k (hk : k < l.length), (l[k]).id ≠ id := by
    intro k hk
    rw [atU, List.findIdx?_eq_none_iff] at hn
    simpa using hn (l[k]) (List.getElem_mem hk)
  have key : ∀ k, k ≤ l.length → (∀ j (hj : j < l.length), k ≤ j → ltS id (l[j]).id = true) → lessU l id = insK l id k := by
    intro k
    induction k with
    | zero =>
      intro _ h
      exact lessU_at (Nat.zero_le _) (fun j _ hj => absurd hj (Nat.not_lt_zero _)) (fun hk => ltS_asym (h 0 hk (Nat.le_refl _)))
    | succ k ih =>
      intro hk h
      have hkl : k < l.length := hk
      by_cases hg : gtS (l[k]).id id = true
      · rw [insK_down (List.getElem?_eq_getElem hkl) hg]
        refine ih (by omega) (fun j hj hkj => ?_)
        by_cases e : j = k
        · subst e; exact gtS_iff.1 hg
        · exact h j hj (by omega)
      · rw [insK_stop (List.getElem?_eq_getElem hkl) hg]
        have hlt : ltS (l[k]).id id = true := by
          rcases ltS_tri (l[k]).id id with h1 | h1 | h1
          · exact h1
          · exact absurd h1 (hne k hkl)
          · exact absurd (gtS_iff.2 h1) hg
        refine lessU_at hk (fun j hj hjk => ?_) (fun hk2 => ltS_asym (h (k + 1) hk2 (Nat.le_refl _)))
        by_cases e : j = k
        · subst e; exact hlt
        · exact ltS_trans ((List.pairwise_iff_getElem.1 ha) j k hj hkl (by omega)) hlt
  exact (key l.length (Nat.le_refl _) (fun j hj hlj => by omega)).symm

theorem less_take {l : List U} {id : ByteArray} : ∀ j (hj : j < l.length), j < lessU l id → ltS (l[j]).id id = true := by
  induction l with
  | nil => intro j hj; simp at hj
  | cons u l ih =>
    intro j hj hlt
    rw [lessU] at hlt
    split at hlt
    · rename_i h
      cases j with
      | zero => exact h
      | succ j => exact ih j (by simpa using hj) (by omega)
    · omega

theorem less_drop {l : List U} {id : ByteArray} (ha : Asc l) (hn : atU l id = none) : ∀ j (hj : j < l.length), lessU l id ≤ j → ltS id (l[j]).id = true := by
  have hne : ∀ k (hk : k < l.length), (l[k]).id ≠ id := by
    intro k hk
    rw [atU, List.findIdx?_eq_none_iff] at hn
    simpa using hn (l[k]) (List.getElem_mem hk)
  clear hn
  induction l with
  | nil => intro j hj; simp at hj
  | cons u l ih =>
    intro j hj hlt
    rw [lessU] at hlt
    have hal : Asc l := (List.pairwise_cons.1 ha).2
    split at hlt
    · cases j with
      | zero => omega
      | succ j => exact ih hal (fun k hk => hne (k + 1) (by simpa using hk)) j (by simpa using hj) (by omega)
    · rename_i h
      have h0 : ltS id u.id = true := by
        rcases ltS_tri u.id id with h1 | h1 | h1
        · exact absurd h1 h
        · exact absurd h1 (hne 0 (by simp))
        · exact h1
      cases j with
      | zero => exact h0
      | succ j =>
        have := (List.pairwise_cons.1 ha).1 (l[j]'(by simpa using hj)) (List.getElem_mem _)
        exact ltS_trans h0 this

/-- What is kept where all of a name go. -/
def keptU (l : List U) (id : ByteArray) : List U := l.filter fun u => !decide (u.id = id)

theorem erase_kept {l : List U} {id : ByteArray} {k : Nat} (ha : Asc l) (hk : atU l id = some k) : keptU l id = l.eraseIdx k := by
  obtain ⟨hkl, hid⟩ := atU_is hk
  have h1 : l = l.take k ++ l[k] :: l.drop (k + 1) := by rw [← List.drop_eq_getElem_cons hkl, List.take_append_drop]
  have ht : (l.take k).filter (fun u => !decide (u.id = id)) = l.take k := by
    rw [List.filter_eq_self]
    intro u hu
    obtain ⟨j, hj, rfl⟩ := List.mem_iff_getElem.1 hu
    have hjk : j < k := by simp at hj; omega
    have := asc_ne ha (show j < l.length by omega) hkl hjk
    rw [hid] at this
    simpa using this
  have hd : (l.drop (k + 1)).filter (fun u => !decide (u.id = id)) = l.drop (k + 1) := by
    rw [List.filter_eq_self]
    intro u hu
    obtain ⟨j, hj, rfl⟩ := List.mem_iff_getElem.1 hu
    have hjl : k + 1 + j < l.length := by simp at hj; omega
    have := asc_ne ha hkl hjl (by omega)
    rw [hid] at this
    simpa using Ne.symm this
  rw [List.eraseIdx_eq_take_drop_succ, keptU]
  conv => lhs; rw [h1]
  rw [List.filter_append, List.filter_cons, ht, hd]
  simp [hid]

theorem makeU_less {l : List U} {u : U} (ha : Asc l) (hn : atU l u.id = none) : makeU l u = l.take (lessU l u.id) ++ u :: l.drop (lessU l u.id) := by rw [makeU, ins_less ha hn]

theorem asc_set {l : List U} {k : Nat} {u v : U} (ha : Asc l) (hu : l[k]? = some u) (he : v.id = u.id) : Asc (l.set k v) := by
  obtain ⟨hkl, hke⟩ := List.getElem?_eq_some_iff.1 hu
  rw [Asc, List.pairwise_iff_getElem]
  intro i j hi hj hij
  have hil : i < l.length := by simpa using hi
  have hjl : j < l.length := by simpa using hj
  have hid : ∀ m (hm : m < l.length), ((l.set k v)[m]'(by simpa using hm)).id = (l[m]).id := by
    intro m hm
    rw [List.getElem_set]
    split
    · rename_i e; subst e; rw [he, hke]
    · rfl
  rw [hid i hil, hid j hjl]
  exact (List.pairwise_iff_getElem.1 ha) i j hil hjl hij

theorem oneU_asc {l l' : List U} {r : R} (ha : Asc l) (h : oneU l r = some l') : Asc l' := by
  rw [oneU] at h
  split at h
  · split at h
    · rename_i hc
      injection h with h
      subst h
      have ha2 := ha
      rw [Asc, List.pairwise_iff_getElem] at ha2
      rw [makeU_less ha hc.1, Asc, List.pairwise_append]
      dsimp only
      have hle := lessU_le r.id l
      refine ⟨List.Pairwise.sublist (List.take_sublist _ _) ha, List.pairwise_cons.2 ⟨?_, List.Pairwise.sublist (List.drop_sublist _ _) ha⟩, ?_⟩
      · intro v hv
        obtain ⟨j, hj, rfl⟩ := List.mem_iff_getElem.1 hv
        rw [List.getElem_drop]
        rw [List.length_drop] at hj
        exact less_drop ha hc.1 _ (by omega) (by omega)
      · intro v hv x hx
        obtain ⟨j, hj, rfl⟩ := List.mem_iff_getElem.1 hv
        rw [List.getElem_take]
        rw [List.length_take] at hj
        have hjl : j < lessU l r.id := by omega
        have hjn : j < l.length := by omega
        rcases List.mem_cons.1 hx with rfl | hx
        · exact less_take j hjn hjl
        · obtain ⟨i, hi, rfl⟩ := List.mem_iff_getElem.1 hx
          rw [List.getElem_drop]
          rw [List.length_drop] at hi
          exact ha2 _ _ hjn (by omega) (by omega)
    · cases h
  · split at h
    · cases h
    · split at h
      · cases h
      · rename_i k _ x hx
        split at h
        · split at h
          · cases h
          · injection h with h
            subst h
            exact asc_set ha hx rfl
        · split at h
          · split at h
            · cases h
            · injection h with h
              subst h
              exact asc_set ha hx rfl
          · split at h
            · injection h with h
              subst h
              exact List.Pairwise.sublist (List.eraseIdx_sublist ..) ha
            · cases h

theorem foldU_asc {rs : List R} {l : List U} (h : foldU rs = some l) : Asc l := by
  have key : ∀ (rs : List R) (a b : List U), Asc a → rs.foldlM oneU a = some b → Asc b := by
    intro rs
    induction rs with
    | nil => intro a b ha h; simp at h; subst h; exact ha
    | cons r rs ih =>
      intro a b ha h
      rw [List.foldlM_cons] at h
      cases ho : oneU a r with
      | none => rw [ho] at h; cases h
      | some c => rw [ho] at h; exact ih c b (oneU_asc ha ho) h
  exact key rs [] l List.Pairwise.nil h

end Go.Proofs.YtenkpgnkkkgdmatGreatDoor

namespace Go.Proofs.YtenkpgnkkkgdmatGreatDoor
open Go.RowKit
set_option linter.unusedVariables false

theorem OwnU.at {W : World} {base n c : Nat} {a : Option Addr} {l : List UE} (h : OwnU W base a n c l) {i : Nat} (hi : i < l.length) :
    ∃ g, a = some ⟨g, 0, none⟩ ∧ g < W.heap.size ∧ W.cell? ⟨g, i * 4, none⟩ = some (.string (l[i]).u.id) ∧ W.cell? ⟨g, i * 4 + 1, none⟩ = some (.int .i64 (l[i]).u.want) ∧ W.cell? ⟨g, i * 4 + 2, none⟩ = some (.slice (l[i]).a (l[i]).n (l[i]).c) ∧ W.cell? ⟨g, i * 4 + 3, none⟩ = some (.bool (l[i]).u.done) ∧ ∀ j, W.frozen? ⟨g, j, none⟩ = false := by
  have hn := h.len
  have h' : W.ownsRow base 66 4 (.slice a n c) n (ueCells l) := h
  rcases h'.2 with ⟨_, h0⟩ | ⟨g, cap, cur, he, _⟩
  · omega
  · injection he with e1 e2 e3
    subst e1
    have hl := ueCells_len l
    obtain ⟨h0, h1, h2, h3⟩ := ueCells_at l i hi
    refine ⟨g, rfl, (h.lt g rfl).2, ?_, ?_, ?_, ?_, fun j => h'.frozenAt j⟩
    · rw [h'.cellAt _ (by omega)]; exact h0
    · rw [h'.cellAt _ (by omega)]; exact h1
    · rw [h'.cellAt _ (by omega)]; exact h2
    · rw [h'.cellAt _ (by omega)]; exact h3

set_option maxRecDepth 10000 in
set_option maxHeartbeats 1600000 in
theorem implWithU_any (base : Nat) (A : Option Addr) (n C : Nat) (l : List UE) (x : UE) (w : World) (ho : OwnU w base A n C l) (hn : n ≤ 1048576) (hb : base ≤ w.heap.size) :
    Calls Tryz.prog 105 #[.slice A n C, .agg #[.string x.u.id, .int .i64 x.u.want, .slice x.a x.n x.c, .bool x.u.done]] w fun e w' => ∃ A' C', e = .returned (.slice A' (n + 1) C') ∧ OwnU w' base A' (n + 1) C' (l.take (lessU (l.map UE.u) x.u.id) ++ [x] ++ l.drop (lessU (l.map UE.u) x.u.id)) ∧ w.grownBy w' (A.map (·.block)) := by
  have HO : Hid (OwnU w base A n C l) := ho
  have HL : Hid (l.length = n) := ho.len
  have HBs : Hid (base ≤ w.heap.size) := hb
  have HB0 : Hid (Below w.heap.size w (w.alloc (.cells #[.string x.u.id, .int .i64 x.u.want, .slice x.a x.n x.c, .bool x.u.done] 66))) := (Below.refl _ _).alloc (Nat.le_refl _) _
  have HX0 : Hid (BoxN (w.alloc (.cells #[.string x.u.id, .int .i64 x.u.want, .slice x.a x.n x.c, .bool x.u.done] 66)) w.heap.size 66 [.string x.u.id, .int .i64 x.u.want, .slice x.a x.n x.c, .bool x.u.done]) := BoxN.new _ _ _
  clear ho hb
  go_enter Tryz.func105, Tryz.ntmps105
  go_wp2_with fail
  obtain ⟨w1, hw1⟩ : ∃ w1, w.alloc (.cells #[.string x.u.id, .int .i64 x.u.want, .slice x.a x.n x.c, .bool x.u.done] 66) = w1 := ⟨_, rfl⟩
  rw [hw1] at HB0 HX0 ⊢
  clear hw1
  have hwl : w.heap.size < w1.heap.size := HX0.out.lt
  go_loopw [5] (fun v wr => ∃ k : Nat, k ≤ n ∧ v = .int .i64 k ∧ Hid (Below w1.heap.size w1 wr) ∧ Hid (∀ j (hj : j < (l.map UE.u).length), j < k → ltS ((l.map UE.u)[j]).id x.u.id = true)) (fun v _ => n - (intOf v).toNat)
  case atStart => exact ⟨0, Nat.zero_le _, rfl, Below.refl _ _, fun j _ hj => absurd hj (Nat.not_lt_zero _)⟩
  case round =>
    obtain ⟨k, hk, rfl, HB, HN⟩ := hrel
    have hxr := HX0.out.stays HB.out
    have hwr : w.heap.size < wr.heap.size := Nat.lt_of_lt_of_le hwl HB.out.size
    have hne := past_some wr
    have x5 : ∀ P : Past wr, P.world.cell? ⟨w.heap.size, 0, none⟩ = some (.string x.u.id) := fun P => P.cell hwr (hxr.cell 0 rfl)
    have x6 : ∀ P : Past wr, P.world.cell? ⟨w.heap.size, 1, none⟩ = some (.int .i64 x.u.want) := fun P => P.cell hwr (hxr.cell 1 rfl)
    have x7 : ∀ P : Past wr, P.world.cell? ⟨w.heap.size, 2, none⟩ = some (.slice x.a x.n x.c) := fun P => P.cell hwr (hxr.cell 2 rfl)
    have x8 : ∀ P : Past wr, P.world.cell? ⟨w.heap.size, 3, none⟩ = some (.bool x.u.done) := fun P => P.cell hwr (hxr.cell 3 rfl)
    have HWr : Hid (Below w.heap.size w wr) := HB0.out.trans (HB.out.mono HB0.out.size)
    have HO2 : Hid (OwnU wr base A n C l) := HO.out.below HWr.out
    have m2 := keyMU x.u.id x.u.want x.a x.n x.c x.u.done
    by_cases hlt : k < n
    case neg =>
      have HLs : Hid (lessU (l.map UE.u) x.u.id = k) := lessU_at (by have := HL.out; rw [List.length_map]; omega) HN.out (fun h => by have := HL.out; rw [List.length_map] at h; omega)
      have hkn : ¬ ((k : Int) < (n : Int)) := by omega
      have dk0 : decide ((k : Int) < (n : Int)) = false := by simpa using hkn
      have dk1 : ((k : Int) < (n : Int)) = False := by simpa using hkn
      have dk2 : decide (k < n) = false := by simpa using hlt
      have dk3 : (k < n) = False := by simpa using hlt
      go_wp2_with fail
      go_quiet (fail)
      have hxq : BoxN (wr.drewN nq) w.heap.size 66 [.string x.u.id, .int .i64 x.u.want, .slice x.a x.n x.c, .bool x.u.done] := hxr
      have HZ : Hid (Below w.heap.size w (wr.drewN nq)) := below_drewN HWr.out _
      obtain ⟨W4, hW4⟩ : ∃ W4, wr.drewN nq = W4 := ⟨_, rfl⟩
      rw [hW4] at hxq HZ ⊢
      clear hW4 x5 x6 x7 x8 hxr
      have y5 := hxq.cell 0 rfl
      have y6 := hxq.cell 1 rfl
      have y7 := hxq.cell 2 rfl
      have y8 := hxq.cell 3 rfl
      have HV : Hid ((W4.alloc (.cells #[.string x.u.id, .int .i64 x.u.want, .slice x.a x.n x.c, .bool x.u.done] 66)).heap[W4.heap.size]? = some (.cells #[.string x.u.id, .int .i64 x.u.want, .slice x.a x.n x.c, .bool x.u.done] 66 (0, 0))) := heap_alloc_new W4 _
      have HZ5 : Hid (Below w.heap.size w (W4.alloc (.cells #[.string x.u.id, .int .i64 x.u.want, .slice x.a x.n x.c, .bool x.u.done] 66))) := HZ.out.alloc HZ.out.size _
      have HO5 : Hid (OwnU (W4.alloc (.cells #[.string x.u.id, .int .i64 x.u.want, .slice x.a x.n x.c, .bool x.u.done] 66)) base A n C l) := HO.out.below HZ5.out
      have HN5 : Hid (Option.map (fun a : Addr => a.block) A ≠ some W4.heap.size) := fun e => by have h1 := (HO.out.lt _ e).2; have h2 := HZ.out.size; omega
      clear hxq
      go_wp2_with fail
      refine (insU_any base A n C k l W4.heap.size x _ HO5.out HV.out HN5.out hk hn (Nat.le_trans HBs.out HZ5.out.size)).mono ?_
      rintro e w5 ⟨A5, C5, rfl, ho5, hg5⟩
      have HR : Hid (OwnU w5 base A5 (n + 1) C5 (l.take (lessU (l.map UE.u) x.u.id) ++ [x] ++ l.drop (lessU (l.map UE.u) x.u.id)) ∧ w.grownBy w5 (Option.map (·.block) A)) := by
        refine ⟨by rw [HLs.out]; exact ho5, ⟨hg5.os.trans HZ5.out.os, hg5.tape.trans HZ5.out.tape, hg5.output.trans HZ5.out.output, Nat.le_trans HZ5.out.size hg5.size, fun j hj hne => (hg5.block j (Nat.lt_of_lt_of_le hj HZ5.out.size) hne).trans (HZ5.out.block j hj)⟩⟩
      clear ho5 hg5
      go_wp2_with fail
      go_ret
      exact ⟨_, _, rfl, HR.out.1, HR.out.2⟩
    have hki : (k : Int) < (n : Int) := by omega
    have hkl : k < l.length := by have := HL.out; omega
    obtain ⟨b, rfl, hb, g0, g1, g2, g3, _⟩ := HO2.out.at hkl
    have HA : Hid (((l.map UE.u)[k]'(by rw [List.length_map]; exact hkl)).id = (l[k]).u.id) := by show _ = _; rw [List.getElem_map]
    have m1 := keyMU (l[k]).u.id (l[k]).u.want (l[k]).a (l[k]).n (l[k]).c (l[k]).u.done
    have x1 : ∀ P : Past wr, P.world.cell? ⟨b, k * 4, none⟩ = some (.string (l[k]).u.id) := fun P => P.cell hb g0
    have x2 : ∀ P : Past wr, P.world.cell? ⟨b, k * 4 + 1, none⟩ = some (.int .i64 (l[k]).u.want) := fun P => P.cell hb g1
    have x3 : ∀ P : Past wr, P.world.cell? ⟨b, k * 4 + 2, none⟩ = some (.slice (l[k]).a (l[k]).n (l[k]).c) := fun P => P.cell hb g2
    have x4 : ∀ P : Past wr, P.world.cell? ⟨b, k * 4 + 3, none⟩ = some (.bool (l[k]).u.done) := fun P => P.cell hb g3
    by_cases g : ltS (l[k]).u.id x.u.id = true
    · have HN2 : Hid (∀ j (hj : j < (l.map UE.u).length), j < k + 1 → ltS ((l.map UE.u)[j]).id x.u.id = true) := fun j hj hjk => by
        by_cases e : j = k
        · subst e; rw [HA.out]; exact g
        · exact HN.out j hj (by omega)
      have d5 : Op.bytesLess (l[k]).u.id.toList x.u.id.toList = true := g
      clear HN HA g g0 g1 g2 g3
      generalize l[k] = y at *
      go_wp2_with fail
      refine wp_region_past (by kernel_rfl) (by kernel_rfl) ?_
      repeat (quiet_step ((first | (go_at_call 134; exact calls_past (implKeyU_any _ _ _ _ _ _ _)) | fail)))
      refine wpQuiet_nil ?_
      rintro _ ⟨z, rfl⟩
      have HZ : Hid (Below w1.heap.size w1 z.world) := HB.out.trans (z.below.mono HB.out.size)
      go_wp2_with fail
      go_roundw
      case rel => exact ⟨k + 1, by omega, by go_num, HZ, HN2⟩
      case measure => simp [intOf]; omega
    · have g' : ltS (l[k]).u.id x.u.id = false := by simpa using g
      have HLs : Hid (lessU (l.map UE.u) x.u.id = k) := lessU_at (by rw [List.length_map]; omega) HN.out (fun h => by rw [HA.out]; exact g')
      have d5 : Op.bytesLess (l[k]).u.id.toList x.u.id.toList = false := g'
      clear HN HA g g' g0 g1 g2 g3
      generalize l[k] = y at *
      go_wp2_with fail
      refine wp_region_past (by kernel_rfl) (by kernel_rfl) ?_
      repeat (quiet_step ((first | (go_at_call 134; exact calls_past (implKeyU_any _ _ _ _ _ _ _)) | fail)))
      refine wpQuiet_nil ?_
      rintro _ ⟨z, rfl⟩
      have y5 := x5 z
      have y6 := x6 z
      have y7 := x7 z
      have y8 := x8 z
      have HZ : Hid (Below w.heap.size w z.world) := HWr.out.trans (z.below.mono HWr.out.size)
      obtain ⟨W4, hW4⟩ : ∃ W4, z.world = W4 := ⟨_, rfl⟩
      rw [hW4] at y5 y6 y7 y8 HZ ⊢
      clear hW4 x5 x6 x7 x8 x1 x2 x3 x4
      have HV : Hid ((W4.alloc (.cells #[.string x.u.id, .int .i64 x.u.want, .slice x.a x.n x.c, .bool x.u.done] 66)).heap[W4.heap.size]? = some (.cells #[.string x.u.id, .int .i64 x.u.want, .slice x.a x.n x.c, .bool x.u.done] 66 (0, 0))) := heap_alloc_new W4 _
      have HZ5 : Hid (Below w.heap.size w (W4.alloc (.cells #[.string x.u.id, .int .i64 x.u.want, .slice x.a x.n x.c, .bool x.u.done] 66))) := HZ.out.alloc HZ.out.size _
      have HO5 : Hid (OwnU (W4.alloc (.cells #[.string x.u.id, .int .i64 x.u.want, .slice x.a x.n x.c, .bool x.u.done] 66)) base (some ⟨b, 0, none⟩) n C l) := HO.out.below HZ5.out
      have HN5 : Hid (Option.map (fun a : Addr => a.block) (some (⟨b, 0, none⟩ : Addr)) ≠ some W4.heap.size) := fun e => by have h1 := (HO.out.lt _ e).2; have h2 := HZ.out.size; omega
      go_wp2_with fail
      refine (insU_any base (some ⟨b, 0, none⟩) n C k l W4.heap.size x _ HO5.out HV.out HN5.out hk hn (Nat.le_trans HBs.out HZ5.out.size)).mono ?_
      rintro e w5 ⟨A5, C5, rfl, ho5, hg5⟩
      have HR : Hid (OwnU w5 base A5 (n + 1) C5 (l.take (lessU (l.map UE.u) x.u.id) ++ [x] ++ l.drop (lessU (l.map UE.u) x.u.id)) ∧ w.grownBy w5 (Option.map (fun a : Addr => a.block) (some (⟨b, 0, none⟩ : Addr)))) := by
        refine ⟨by rw [HLs.out]; exact ho5, ⟨hg5.os.trans HZ5.out.os, hg5.tape.trans HZ5.out.tape, hg5.output.trans HZ5.out.output, Nat.le_trans HZ5.out.size hg5.size, fun j hj hne => (hg5.block j (Nat.lt_of_lt_of_le hj HZ5.out.size) hne).trans (HZ5.out.block j hj)⟩⟩
      clear ho5 hg5
      go_wp2_with fail
      go_ret
      exact ⟨_, _, rfl, HR.out.1, HR.out.2⟩

end Go.Proofs.YtenkpgnkkkgdmatGreatDoor
