/- Texts as they stand in a block: what is put, what is got of it; no program in it. The small facts of Own, under the name that the other texts import. The program's small functions of chapter 2: whether bits are right, the full prefix, a copy of bytes. A loop over an iterator of one's own, also one that keeps a variable of its own between two rounds: what holds where the loop begins (Ib), ahead of a round (I0), behind it (I1), where it was left (Ix), and where the iterator ended by itself (Ie), all over a state that I choose. No program in it. The program's iterator of groups: it keeps the number in a variable of its own, and never ends by itself. Steps of a region that draws its order: a call of two arguments; bytes that are made; a text of bytes that are all 0. No program in it. A new row of bytes that is made. -/
import Derived.Test.YtbaijmkghgnleaaGreatDoorM01
import Derived.Test.YtbaijmkghgnleaaGreatDoorM01
import Derived.Test.YtbaijmkghgnleaaGreatDoorM01
import Derived.Test.YtbaijmkghgnleaaGreatDoorM01
import Derived.Test.YtbaijmkghgnleaaGreatDoorM03
import Derived.Test.YtbaijmkghgnleaaGreatDoorM03
import Derived.Lib.SliceRun
import Derived.RangeFuncBox
import Derived.RangeFuncLeaves
import Derived.RangeFuncNested
import Derived.RangeFuncBound
import Derived.RangeFuncCalls
import Derived.Shelf.Abstract
import Derived.Shelf.RegionOpen
import Derived.OwnWalkIn
import Derived.TacticsInMore
import Derived.LoopNIn
import Derived.LoopIn
import Derived.Maps.AppendAt
import Derived.Deep.RegionLaw
import Derived.Laws.MakeOwn
import Derived.Laws.OwnMore
import Derived.Laws.IdiomStrings
import Derived.Below
import Derived.WalkKit
namespace Go.Proofs.YtbaijmkghgnleaaGreatDoor
open Go.RowKit
set_option linter.unusedVariables false

theorem gpf_app (f : Nat) : ∀ (l r : List Int) (s n p : Int), (gpf f l s n p).2.2 = true → gpf f (l ++ r) s n p = gpf f l s n p := by
  induction f with
  | zero => intro l r s n p h; simp [gpf] at h
  | succ f ih =>
    intro l r s n p h
    cases l with
    | nil => simp [gpf] at h
    | cons c l =>
      rw [List.cons_append, gpf, gpf]
      rw [gpf] at h
      by_cases hc : c < 128
      · rw [if_pos hc, if_pos hc]
      · rw [if_neg hc] at h
        rw [if_neg hc, if_neg hc]
        exact ih _ _ _ _ _ h

theorem gpf_bound (f : Nat) : ∀ (l : List Int) (s n p m q : Int), (∀ x ∈ l, 0 ≤ x ∧ x ≤ 255) → 0 ≤ s → 0 ≤ n → gpf f l s n p = (m, q, true) → 0 ≤ m ∧ m ≤ 16777216 ∧ p < q ∧ q ≤ p + l.length := by
  induction f with
  | zero => intro l s n p m q _ _ _ h; simp [gpf] at h
  | succ f ih =>
    intro l s n p m q hl hs hn h
    cases l with
    | nil => simp [gpf] at h
    | cons c l =>
      rw [gpf] at h
      have hc0 := hl c (by simp)
      have hm0 : 0 ≤ c % 128 * s := Int.mul_nonneg (by omega) hs
      by_cases hc : c < 128
      · rw [if_pos hc] at h
        by_cases hle : n + c % 128 * s ≤ 16777216
        · rw [if_pos hle] at h
          injection h with h1 h2
          injection h2 with h2 h3
          subst h1 h2
          refine ⟨by omega, hle, by omega, ?_⟩
          rw [List.length_cons]
          omega
        · rw [if_neg hle] at h
          simp at h
      · rw [if_neg hc] at h
        obtain ⟨h1, h2, h3, h4⟩ := ih l _ _ _ m q (fun x hx => hl x (List.mem_cons_of_mem _ hx)) (by omega) (by omega) h
        refine ⟨h1, h2, by omega, ?_⟩
        rw [List.length_cons]
        omega

theorem getPfx_app (zs r : List Int) (i b : Int) (h : (getPfx zs i b).2.2 = true) : getPfx (zs ++ r) i b = getPfx zs i b := by
  unfold getPfx at h ⊢
  by_cases hc : 1 ≤ b ∧ b ≤ 8 ∧ 0 ≤ i ∧ i < (zs.length : Int)
  · rw [if_pos hc] at h
    rw [if_pos hc, if_pos (by rw [List.length_append]; omega)]
    have e1 : (zs ++ r).getD i.toNat 0 = zs.getD i.toNat 0 := by
      rw [List.getD_eq_getElem?_getD, List.getD_eq_getElem?_getD, List.getElem?_append_left (by omega)]
    have e2 : (zs ++ r).drop (i.toNat + 1) = zs.drop (i.toNat + 1) ++ r := List.drop_append_of_le_length (by omega)
    rw [e1, e2]
    by_cases hs : zs.getD i.toNat 0 % 2 ^ b.toNat < 2 ^ b.toNat - 1
    · rw [if_pos hs, if_pos hs]
    · rw [if_neg hs] at h
      rw [if_neg hs, if_neg hs]
      exact gpf_app _ _ _ _ _ _ h
  · rw [if_neg hc] at h
    simp at h

theorem getPfx_bound (zs : List Int) (i b m q : Int) (hz : ∀ x ∈ zs, 0 ≤ x ∧ x ≤ 255) (h : getPfx zs i b = (m, q, true)) : 0 ≤ m ∧ m ≤ 16777216 ∧ 0 ≤ i ∧ i < q ∧ q ≤ zs.length := by
  unfold getPfx at h
  by_cases hc : 1 ≤ b ∧ b ≤ 8 ∧ 0 ≤ i ∧ i < (zs.length : Int)
  · rw [if_pos hc] at h
    have hp : 0 < (2 : Int) ^ b.toNat := Int.pow_pos (by decide)
    have hp8 : (2 : Int) ^ b.toNat ≤ 256 := by
      have : (2 : Nat) ^ b.toNat ≤ 2 ^ 8 := Nat.pow_le_pow_right (by decide) (by omega)
      have e : ((2 : Int) ^ b.toNat) = ((2 ^ b.toNat : Nat) : Int) := by simp
      rw [e]
      omega
    by_cases hs : zs.getD i.toNat 0 % 2 ^ b.toNat < 2 ^ b.toNat - 1
    · rw [if_pos hs] at h
      injection h with h1 h2
      injection h2 with h2 h3
      subst h1 h2
      have := Int.emod_nonneg (zs.getD i.toNat 0) (Int.ne_of_gt hp)
      refine ⟨this, by omega, hc.2.2.1, by omega, by omega⟩
    · rw [if_neg hs] at h
      obtain ⟨h1, h2, h3, h4⟩ := gpf_bound 4 _ 1 _ _ m q (fun x hx => hz x (List.mem_of_mem_drop hx)) (by decide) (by omega) h
      refine ⟨h1, h2, hc.2.2.1, by omega, ?_⟩
      rw [List.length_drop] at h4
      omega
  · rw [if_neg hc] at h
    simp at h

theorem asInts_range (u : List UInt8) : ∀ x ∈ asInts u, 0 ≤ x ∧ x ≤ 255 := by
  intro x hx
  obtain ⟨c, _, rfl⟩ := List.mem_map.1 hx
  have := c.toNat_lt
  omega

theorem asInts_len (u : List UInt8) : (asInts u).length = u.length := by simp [asInts]

theorem asInts_inj {u v : List UInt8} (h : asInts u = asInts v) : u = v := by
  induction u generalizing v with
  | nil => cases v with
    | nil => rfl
    | cons c v => simp [asInts] at h
  | cons a u ih => cases v with
    | nil => simp [asInts] at h
    | cons c v =>
      simp only [asInts, List.map_cons, List.cons.injEq] at h
      obtain ⟨h1, h2⟩ := h
      rw [ih h2, UInt8.toNat_inj.1 (Int.ofNat_inj.1 h1)]

theorem byteCells_ints (s : ByteArray) : byteCells s = (asInts s.data.toList).map (Value.int .u8) := by
  simp [byteCells, asInts]

theorem text_eq {s t : ByteArray} (h : s.data.toList = t.data.toList) : s = t := by
  have := Array.toList_inj.1 h
  cases s; cases t; simp_all

/-- The bytes of a text in a block. -/
def StrOf (s : ByteArray) (q : List Int) : Prop :=
  (((bitLen s.data.toList + 7) / 8 < s.size) ∧ ∃ o, HuffOf s.data.toList o ∧ q = pfx 7 128 o.length ++ o) ∨ (¬ ((bitLen s.data.toList + 7) / 8 < s.size) ∧ q = pfx 7 0 s.size ++ asInts s.data.toList)

theorem StrOf.one {s : ByteArray} {q r : List Int} (h : StrOf s q) (g : StrOf s r) : q = r := by
  rcases h with ⟨h0, o, h1, rfl⟩ | ⟨h0, rfl⟩ <;> rcases g with ⟨g0, u, g1, rfl⟩ | ⟨g0, rfl⟩
  · rw [h1.one g1]
  · exact absurd h0 g0
  · exact absurd g0 h0
  · rfl

theorem StrOf.range {s : ByteArray} {q : List Int} (h : StrOf s q) : ∀ x ∈ q, 0 ≤ x ∧ x ≤ 255 := by
  intro x hx
  rcases h with ⟨h0, o, h1, rfl⟩ | ⟨h0, rfl⟩
  · rcases List.mem_append.1 hx with hx | hx
    · exact pfx_range 7 128 _ (by decide) (by decide) (by decide) x hx
    · exact h1.1 x hx
  · rcases List.mem_append.1 hx with hx | hx
    · exact pfx_range 7 0 _ (by decide) (by decide) (by decide) x hx
    · exact asInts_range _ x hx

/-- How long the bytes of a small number are. -/
theorem grp_small (k v : Nat) : ∀ j, v < 128 ^ (j + 1) → (grp k v).length ≤ j + 1 := by
  induction k generalizing v with
  | zero => intro j _; simp [grp]
  | succ k ih =>
    intro j hv
    rw [grp]
    split
    · rename_i h
      cases j with
      | zero => rw [Nat.zero_add, Nat.pow_one] at hv; omega
      | succ j =>
        have := ih (v / 128) j (by rw [Nat.pow_succ] at hv; exact Nat.div_lt_of_lt_mul (by rw [Nat.mul_comm]; exact hv))
        simp
        omega
    · simp

theorem StrOf.len {s : ByteArray} {q : List Int} (h : StrOf s q) : q.length ≤ s.size + 6 := by
  rcases h with ⟨h0, o, h1, rfl⟩ | ⟨h0, rfl⟩
  · have := pfx_len 7 128 o.length
    have h2 := h1.len
    rw [List.length_append]
    omega
  · have := pfx_len 7 0 s.size
    rw [List.length_append, asInts_len, str_len]
    omega

theorem StrOf.pos {s : ByteArray} {q : List Int} (h : StrOf s q) : 0 < q.length := by
  have hp : ∀ F n, 0 < (pfx 7 F n).length := fun F n => by unfold pfx; split <;> simp
  rcases h with ⟨h0, o, h1, rfl⟩ | ⟨h0, rfl⟩
  · have := hp 128 o.length
    rw [List.length_append]
    omega
  · have := hp 0 s.size
    rw [List.length_append]
    omega

theorem StrOf.short {s : ByteArray} {q : List Int} (h : StrOf s q) (hs : s.size < 2097152) : q.length ≤ s.size + 5 := by
  have hp : ∀ F n, n < 2097152 → (pfx 7 F n).length ≤ 5 := by
    intro F n hn
    unfold pfx
    split
    · simp
    · have := grp_small 5 (n - (2 ^ 7 - 1)) 2 (by have : 128 ^ (2 + 1) = 2097152 := by decide
                                                  omega)
      rw [List.length_cons]
      omega
  rcases h with ⟨h0, o, h1, rfl⟩ | ⟨h0, rfl⟩
  · have h2 := h1.len
    have := hp 128 o.length (by omega)
    rw [List.length_append]
    omega
  · have := hp 0 s.size hs
    rw [List.length_append, asInts_len, str_len]
    omega

/-- There is a text t of these bytes at this place, and p is behind it. -/
def GoodS (zs : List Int) (i : Int) (t : ByteArray) (p : Int) : Prop :=
  ∃ n q : Nat, getPfx zs i 7 = ((n : Int), (q : Int), true) ∧ q + n ≤ zs.length ∧ p = ((q + n : Nat) : Int) ∧ t.size ≤ 4000 ∧
    ((zs.getD i.toNat 0 < 128 ∧ asInts t.data.toList = (zs.drop q).take n) ∨ (128 ≤ zs.getD i.toNat 0 ∧ HuffOf t.data.toList ((zs.drop q).take n)))

theorem GoodS.one {zs : List Int} {i p r : Int} {s t : ByteArray} (h : GoodS zs i s p) (g : GoodS zs i t r) : s = t ∧ p = r := by
  obtain ⟨n, q, h1, h2, rfl, h4, h5⟩ := h
  obtain ⟨m, k, g1, g2, rfl, g4, g5⟩ := g
  rw [h1] at g1
  injection g1 with e1 e2
  injection e2 with e2 _
  obtain rfl : n = m := by omega
  obtain rfl : q = k := by omega
  refine ⟨?_, rfl⟩
  rcases h5 with ⟨a1, a2⟩ | ⟨a1, a2⟩ <;> rcases g5 with ⟨b1, b2⟩ | ⟨b1, b2⟩
  · exact text_eq (asInts_inj (a2.trans b2.symm))
  · omega
  · omega
  · exact text_eq (a2.text b2)

/-- What GetString answers: the text and the place, or nothing. -/
def GetS (zs : List Int) (i : Int) (t : ByteArray) (p : Int) (b : Bool) : Prop :=
  (b = true ∧ GoodS zs i t p) ∨ (b = false ∧ t = ⟨#[]⟩ ∧ p = 0 ∧ ∀ s r, ¬ GoodS zs i s r)

theorem GetS.one {zs : List Int} {i p r : Int} {s t : ByteArray} {b c : Bool} (h : GetS zs i s p b) (g : GetS zs i t r c) : s = t ∧ p = r ∧ b = c := by
  rcases h with ⟨rfl, h⟩ | ⟨rfl, rfl, rfl, h⟩ <;> rcases g with ⟨rfl, g⟩ | ⟨rfl, rfl, rfl, g⟩
  · exact ⟨(h.one g).1, (h.one g).2, rfl⟩
  · exact absurd h (g _ _)
  · exact absurd g (h _ _)
  · exact ⟨rfl, rfl, rfl⟩

theorem GoodS.app {zs : List Int} {i p : Int} {t : ByteArray} (h : GoodS zs i t p) (r : List Int) : GoodS (zs ++ r) i t p := by
  obtain ⟨n, q, h1, h2, h3, h4, h5⟩ := h
  have hb : 0 ≤ i ∧ i < (zs.length : Int) := by
    unfold getPfx at h1
    split at h1
    · rename_i hc
      exact ⟨hc.2.2.1, hc.2.2.2⟩
    · simp at h1
  refine ⟨n, q, ?_, by rw [List.length_append]; omega, h3, h4, ?_⟩
  · rw [getPfx_app zs r i 7 (by rw [h1]), h1]
  · have e1 : (zs ++ r).getD i.toNat 0 = zs.getD i.toNat 0 := by
      rw [List.getD_eq_getElem?_getD, List.getD_eq_getElem?_getD, List.getElem?_append_left (by omega)]
    have e2 : ((zs ++ r).drop q).take n = (zs.drop q).take n := by
      rw [List.drop_append_of_le_length (by omega), List.take_append_of_le_length (by rw [List.length_drop]; omega)]
    rw [e1, e2]
    exact h5

/-- A text comes back of its bytes, wherever they stand. -/
theorem StrOf.back {s : ByteArray} {q : List Int} (h : StrOf s q) (hs : s.size ≤ 4000) (zs r : List Int) : GoodS (zs ++ q ++ r) (zs.length : Int) s ((zs.length + q.length : Nat) : Int) := by
  refine GoodS.app ?_ r
  rcases h with ⟨hlt, o, h1, rfl⟩ | ⟨hlt, rfl⟩
  · have h2 := h1.len
    have hp := pfx_back zs 7 128 o.length (by decide) (by decide) (by omega)
    have hh := pfx_head zs 7 128 o.length
    have hl : 0 < (pfx 7 128 o.length).length := by unfold pfx; split <;> simp
    rw [← List.append_assoc]
    refine ⟨o.length, (zs ++ pfx 7 128 o.length).length, ?_, by simp only [List.length_append]; omega, ?_, hs, .inr ⟨?_, ?_⟩⟩
    · have e : ((7 : Nat) : Int) = 7 := rfl
      rw [e] at hp
      rw [getPfx_app _ _ _ _ (by rw [hp]), hp]
    · simp; omega
    · rw [Int.toNat_natCast, List.getD_eq_getElem?_getD, List.getElem?_append_left (by simp; omega), ← List.getD_eq_getElem?_getD, hh]
      omega
    · rw [List.drop_left, List.take_length]
      exact h1
  · have hp := pfx_back zs 7 0 s.size (by decide) (by decide) (by omega)
    have hh := pfx_head zs 7 0 s.size
    have hl : 0 < (pfx 7 0 s.size).length := by unfold pfx; split <;> simp
    rw [← List.append_assoc]
    refine ⟨s.size, (zs ++ pfx 7 0 s.size).length, ?_, by simp only [List.length_append, asInts_len, str_len]; omega, ?_, hs, .inl ⟨?_, ?_⟩⟩
    · have e : ((7 : Nat) : Int) = 7 := rfl
      rw [e] at hp
      rw [getPfx_app _ _ _ _ (by rw [hp]), hp]
    · simp [asInts_len]; omega
    · rw [Int.toNat_natCast, List.getD_eq_getElem?_getD, List.getElem?_append_left (by simp; omega), ← List.getD_eq_getElem?_getD, hh]
      omega
    · rw [List.drop_left, List.take_of_length_le (by rw [asInts_len, str_len]; exact Nat.le_refl _)]

/-- A list of bytes as the second argument of an append. -/
theorem Src.ofSeg {P : Program} {w : World} {a : Option Addr} {n cap : Nat} {zs : List Int} {t e : TypeId} (hk : P.underlying t = some (.slice e)) (h : Seg w a n zs) (ha : a = none → n = 0) : Src P 1 t (.slice a n cap) n (zs.map (Value.int .u8)) w := by
  cases a with
  | none =>
    obtain rfl := ha rfl
    obtain rfl : zs = [] := List.eq_nil_of_length_eq_zero h.1
    exact Src.ofNil w hk cap
  | some ad =>
    rcases h.2.2 with h0 | ⟨b, off, e1, _, _⟩
    · subst h0
      obtain rfl : zs = [] := List.eq_nil_of_length_eq_zero h.1
      exact Src.ofSlice w hk ad 0 cap [] rfl (by simp) (by simp)
    · injection e1 with e1
      subst e1
      exact Src.ofSlice w hk ⟨b, off, none⟩ n cap _ (by rw [List.length_map, h.1, Nat.mul_one]) (cells_ints h) (ints_one zs)

theorem Owns.some {w : World} {base n cap : Nat} {a : Option Addr} {zs : List Int} (h : Owns w base a n cap zs) (hn : 0 < n) : ∃ g, a = some ⟨g, 0, none⟩ ∧ base ≤ g ∧ g < w.heap.size := by
  obtain ⟨h1, _⟩ := h
  have hlt := h1.lt
  rcases h1.2 with ⟨e, _⟩ | ⟨g, c, cur, e, hb, hg, _⟩
  · injection e with e1 e2
    omega
  · injection e with e1
    subst e1
    exact ⟨g, rfl, (hlt g rfl)⟩

theorem Owns.cap {w : World} {base n cap : Nat} {a : Option Addr} {zs : List Int} (h : Owns w base a n cap zs) : n ≤ cap := by
  obtain ⟨h1, _⟩ := h
  rcases h1.2 with ⟨e, _⟩ | ⟨g, c, cur, e, _, _, hc, _⟩
  · injection e with _ e1 e2
    omega
  · injection e with _ _ e3
    omega

theorem Owns.none {w : World} {base n cap : Nat} {a : Option Addr} {zs : List Int} (h : Owns w base a n cap zs) : a = none → n = 0 := by
  rintro rfl
  obtain ⟨h1, _⟩ := h
  rcases h1.2 with ⟨e, _⟩ | ⟨g, c, cur, e, _⟩
  · injection e
  · injection e with e1
    cases e1

end Go.Proofs.YtbaijmkghgnleaaGreatDoor



namespace Go.Proofs.YtbaijmkghgnleaaGreatDoor
open Go.RowKit
set_option linter.unusedVariables false

set_option maxHeartbeats 400000 in
theorem bitsOk_yes (x : Int) (w : World) (h1 : 1 ≤ x) (h2 : x ≤ 8) : Calls Tryz.prog 95 #[.int .i64 x] w fun e w' => e = .returned (.bool true) ∧ w' = w := by
  go_enter Tryz.func95, Tryz.ntmps95
  go_wp2
  go_ret
  exact ⟨rfl, rfl⟩

set_option maxHeartbeats 400000 in
theorem bitsOk_no (x : Int) (w : World) (h : x < 1 ∨ 8 < x) : Calls Tryz.prog 95 #[.int .i64 x] w fun e w' => e = .returned (.bool false) ∧ w' = w := by
  by_cases h1 : x < 1
  · clear h
    go_enter Tryz.func95, Tryz.ntmps95
    go_wp2
    go_ret
    exact ⟨rfl, rfl⟩
  · have h2 : 8 < x := by omega
    clear h
    go_enter Tryz.func95, Tryz.ntmps95
    go_wp2
    go_ret
    exact ⟨ret_bool (by simp; omega), rfl⟩

set_option maxHeartbeats 400000 in
theorem full_any (B : Nat) (w : World) (h1 : 1 ≤ B) (h8 : B ≤ 8) : Calls Tryz.prog 97 #[.int .i64 B] w fun e w' => e = .returned (.int .i64 ((2 ^ B - 1 : Nat) : Int)) ∧ w' = w := by
  have hk1 : (1 : Int) ≤ (B : Int) := by omega
  have hk8 : (B : Int) ≤ 8 := by omega
  have hmask := mask_form B h1 h8
  go_enter Tryz.func97, Tryz.ntmps97
  go_wp2
  go_ret
  exact ⟨ret_int hmask, rfl⟩

set_option maxHeartbeats 400000 in
theorem clone_any (b off len cap : Nat) (zs : List Int) (w : World) (hs : Seg w (some ⟨b, off, none⟩) len zs) (hl : len ≤ 1099511627776) :
    Calls Tryz.prog 96 #[.slice (some ⟨b, off, none⟩) len cap] w fun e w' => ∃ a' cap', e = .returned (.slice a' len cap') ∧ Owns w' w.heap.size a' len cap' zs ∧ Below w.heap.size w w' := by
  obtain ⟨i0, hi, hz0, hz1, hz2⟩ := info_parts Tryz.info5
  have HS : Hid (Seg w (some ⟨b, off, none⟩) len zs) := hs
  have hzl : zs.length = len := hs.1
  have hS1 : Hid (Seg (w.alloc (.cells #[] 5)) (some ⟨b, off, none⟩) len zs) := hs.below ((Below.refl _ _).alloc (Nat.le_refl _) _)
  have hO1 : Hid ((w.alloc (.cells #[] 5)).ownsRow w.heap.size 5 1 (.slice (some ⟨w.heap.size, 0, none⟩) 0 0) 0 []) := World.ownsRow_lit w #[] 0 (Nat.le_refl _) (Nat.zero_le _) rfl
  clear hs
  have qT : ∀ (w : World) (a : Option Addr) (n c n' c' : Nat), (binOp .eql 27 (.slice a n c) (.slice none n' c')).run Tryz.prog w = .ok (.bool a.isNone) w := fun w a n c n' c' => Lib.run_eql_slice_nil w _ _ a n c n' c' Tryz.underlying27
  go_enter Tryz.func96, Tryz.ntmps96
  go_wp2_with (at_builtin; refine wpList_append_own _ rfl _ _ 27 rfl w.heap.size 5 i0 (.int .u8 0) 1 1 Tryz.underlying27 hi hz0 hz1 hz2 rfl (by decide) (.slice (some ⟨w.heap.size, 0, none⟩) 0 0) 0 [] rfl hO1.out ⟨b, off, none⟩ len cap (zs.map (Value.int .u8)) rfl (by simp [hzl]) (cells_ints hS1.out) (ints_one zs) (by unfold maxLen; omega) (by omega) (by simp) ?_; intro v1 w1 hown1 hgrow1 _; refine Hid.out ?_)
  refine hidden ?_
  have HO : Hid (w1.ownsRow w.heap.size 5 1 v1 len (zs.map (Value.int .u8))) := by
    show World.ownsRow _ _ _ _ _ _ _
    simpa using hown1
  have HB : Hid (Below w.heap.size w w1) := ((Below.refl _ _).alloc (Nat.le_refl _) _).grown hgrow1 (by simp) (by simp [Value.ownBlock])
  clear hown1 hgrow1 hO1 hS1
  obtain ⟨a', cap', rfl⟩ := shape_of_owns HO.out
  go_wp2_with fail
  go_ret
  exact ⟨a', cap', rfl, ⟨HO.out, HS.out.2.1⟩, HB.out⟩

end Go.Proofs.YtbaijmkghgnleaaGreatDoor

namespace Go.Proofs.YtbaijmkghgnleaaGreatDoor
open Go.RowKit
set_option linter.unusedVariables false

variable {F : Fence} {n : Nat} {P : Program}

/-- The two blocks of a loop: its record at l; at D the list of calls put off, which is empty. -/
def TwoL (l D : Nat) (r : Loop) (W : World) : Prop := W.heap[l]? = some (.loop r) ∧ W.heap[D]? = some (.deferred (some []))

theorem TwoL.keep {B l D : Nat} {r : Loop} {W V : World} (h : TwoL l D r W) (hl : B ≤ l) (hD : B ≤ D) (k : KeepsFrom B W V) : TwoL l D r V := ⟨k.same _ _ hl h.1 rfl, k.same _ _ hD h.2 rfl⟩

theorem TwoL.turn {l D : Nat} {r : Loop} {W : World} (h : TwoL l D r W) (hne : l ≠ D) (q : Loop) : TwoL l D q (W.putObj l (.loop q)) :=
  ⟨World.putObj_heap_same (Array.getElem?_eq_some_iff.1 h.1).1, (World.putObj_heap_other (by omega)).trans h.2⟩

/-- How a round's body is left: it goes on with G, or it jumps by c with X c. -/
def leaves (B : Nat) (W : World) (G : World → Prop) (X : Code → World → Prop) : Exit → Act → World → Prop
  | .normal, _, V => KeepsFrom B W V ∧ G V
  | .ret, _, V => KeepsFrom B W V ∧ X .ret V
  | .exit i, _, V => KeepsFrom B W V ∧ X (.exit i) V
  | .goto t, _, V => KeepsFrom B W V ∧ X (.goto t) V
  | .panic _, _, _ => False
  | .outgrown, _, _ => False

/-- One round, from its body's walk. -/
theorem round_turn {m l D B : Nat} {r : Loop} {args : Array Value} {W : World} {G : World → Prop} {X : Code → World → Prop} {a1 : Act} (hF : F.fn r.fn) (hst : r.state = .ready) (hpe : r.pending = none) (h : TwoL l D r W) (hne : l ≠ D) (hl : B ≤ l) (hD : B ≤ D) (hs : args.size = r.params.size)
    (hassign : ∀ K : Act → World → Prop, K a1 W → r.assign.wpIn (F.inRound l) m P (Exit.then K (fun _ _ _ => False)) { tmps := (r.params.zip args).foldl (fun t (p, v) => t.setIfInBounds p v) r.tmps, defers := [] } W)
    (hbody : r.body.wpIn (F.inRound l) m P (leaves B (W.putObj l (.loop { r with state := .busy })) G X) a1 (W.putObj l (.loop { r with state := .busy }))) :
    YieldAt F m P l args W fun e W' => (e = .returned (.bool true) ∧ ∃ V, G V ∧ TwoL l D { r with state := .busy } V ∧ W' = V.putObj l (.loop r)) ∨
      (e = .returned (.bool false) ∧ ∃ c V, X c V ∧ TwoL l D { r with state := .busy } V ∧ W' = V.putObj l (.loop { r with state := .done, pending := some c })) := by
  have hb := h.turn hne { r with state := .busy }
  have er : ({ r with state := .ready, pending := none } : Loop) = r := by cases r; simp only at hst hpe; subst hst hpe; rfl
  have out : ∀ (c : Code) (V : World), KeepsFrom B (W.putObj l (.loop { r with state := .busy })) V → X c V → ∃ v W', (Instr.endRound l (some c)).run P V = .ok v W' ∧
      ((Ending.returned v = .returned (.bool true) ∧ ∃ V, G V ∧ TwoL l D { r with state := .busy } V ∧ W' = V.putObj l (.loop r)) ∨
       (Ending.returned v = .returned (.bool false) ∧ ∃ c V, X c V ∧ TwoL l D { r with state := .busy } V ∧ W' = V.putObj l (.loop { r with state := .done, pending := some c }))) := fun c V k x =>
    ⟨_, _, run_endRound (some c) (hb.keep hl hD k).1, .inr ⟨rfl, c, V, x, hb.keep hl hD k, rfl⟩⟩
  refine ⟨r.fn, _, r.assign, r.body, run_yield h.1 hs, roundIn_of_wpIn hF (hassign _ ⟨_, run_beginRound h.1 hst, wpIn_mono hbody ?_⟩)⟩
  intro e a3 V hV
  cases e with
  | normal => exact ⟨_, _, run_endRound none (hb.keep hl hD hV.1).1, .inl ⟨rfl, V, hV.2, hb.keep hl hD hV.1, congrArg (fun q => V.putObj l (.loop q)) er⟩⟩
  | ret => exact out _ V hV.1 hV.2
  | exit i => exact out _ V hV.1 hV.2
  | goto t => exact out _ V hV.1 hV.2
  | panic c => exact hV.elim
  | outgrown => exact hV.elim

/-- What the iterator owes: begun with Ib, handed rounds that may be entered from I0 s and leave I1 s (go on) or Ix c s (stop), it returns; it ended by itself with Ie s, or a round was left. L0, L1: the loop's own blocks, which abide whatever keeps what is no cells. -/
def Iter {σ : Type} (F : Fence) (n : Nat) (P : Program) (B gf : Nat) (lb : Array Value) (enc : σ → Array Value) (I0 I1 : σ → World → Prop) (Ix : Code → σ → World → Prop) (Ie : σ → World → Prop) (Ib : World → Prop) : Prop :=
  ∀ (l : Nat) (L0 : World → Prop) (L1 : Code → World → Prop), (∀ V V', L0 V → KeepsFrom B V V' → L0 V') → (∀ c V V', L1 c V → KeepsFrom B V V' → L1 c V') →
    (∀ s W, I0 s W → L0 W → YieldAt F (n - 1) P l (enc s) W fun e W' => (e = .returned (.bool true) ∧ I1 s W' ∧ L0 W') ∨ (e = .returned (.bool false) ∧ ∃ c, Ix c s W' ∧ L1 c W')) →
    ∀ W, Ib W → L0 W → CallsIn F n P gf (#[.func (.yield l) #[] #[]] ++ lb) W fun e W' => (∃ v, e = .returned v) ∧ ((∃ s, Ie s W' ∧ L0 W') ∨ ∃ c s, Ix c s W' ∧ L1 c W')

theorem loop_turns {σ : Type} {g : Operand} {ps : Array Tmp} {assign body : Code} {Q : Exit → Act → World → Prop} {a : Act} {w : World}
    (hro : F.round = none) (h1 : 1 ≤ n) {gf : Nat} {lb : Array Value} (hg : a.eval g = .func (.func gf) #[] lb) (hFg : F.fn gf) (eg : ∀ args w, (callFunc gf args).run P w = .ok (.enter gf args) w)
    (enc : σ → Array Value) (hps : ∀ s, (enc s).size = ps.size) (I0 I1 : σ → World → Prop) (Ix : Code → σ → World → Prop) (Ie : σ → World → Prop) (Ib : World → Prop)
    (hiter : Iter F (n - 1) P w.heap.size gf lb enc I0 I1 Ix Ie Ib)
    (o0 : OwnFrom w.heap.size I0) (o1 : OwnFrom w.heap.size I1) (ox : ∀ c, OwnFrom w.heap.size (Ix c)) (oe : OwnFrom w.heap.size Ie) (ob : OwnFrom w.heap.size (fun (_ : Unit) W => Ib W)) (hs0 : Ib w) (a₁ : σ → Act)
    (hassign : ∀ (l : Nat) (s : σ) (W : World) (K : Act → World → Prop), K (a₁ s) W → assign.wpIn (F.inRound l) (n - 1 - 1) P (Exit.then K (fun _ _ _ => False)) { tmps := (ps.zip (enc s)).foldl (fun t (p, v) => t.setIfInBounds p v) a.tmps, defers := [] } W)
    (hbody : ∀ (l : Nat) (s : σ) (W : World), I0 s W → body.wpIn (F.inRound l) (n - 1 - 1) P (leaves w.heap.size W (I1 s) (fun c => Ix c s)) (a₁ s) W)
    (hdone : ∀ (D : Nat) (s : σ) (W : World), w.heap.size ≤ D → Ie s W → W.heap[D]? = some (.deferred (some [])) → Q .normal { a with defers := { target := .collected D, args := #[] } :: a.defers } W)
    (hstop : ∀ (D : Nat) (c : Code) (s : σ) (W : World), w.heap.size ≤ D → Ix c s W → W.heap[D]? = some (.deferred (some [])) → c.wpIn F n P Q { a with defers := { target := .collected D, args := #[] } :: a.defers } W) :
    (Code.rangeFunc g ps assign body).wpIn F n P Q a w := by
  refine wpIn_rangeFunc fun fn hfn => ?_
  rw [hro]
  obtain ⟨r, hr⟩ : ∃ r : Loop, ({ state := .ready, pending := none, fn, tmps := a.tmps, params := ps, assign, body, defers := w.heap.size } : Loop) = r := ⟨_, rfl⟩
  have hen := run_enterLoop_outer (P := P) (w := w) fn a.tmps ps assign body
  rw [hr] at hen
  have t1 : TwoL (w.heap.size + 1) w.heap.size r ((w.alloc (.deferred (some []))).alloc (.loop r)) := by
    refine ⟨?_, (Below.heap_alloc _ _ _ (by simp)).trans (World.alloc_heap_new w _)⟩
    have := World.alloc_heap_new (w.alloc (.deferred (some []))) (.loop r)
    rwa [World.size_alloc] at this
  obtain ⟨W1, hW⟩ : ∃ W1, (w.alloc (.deferred (some []))).alloc (.loop r) = W1 := ⟨_, rfl⟩
  have hs1 : Ib W1 := by rw [← hW]; exact ob.alloc (s := ()) _ (ob.alloc (s := ()) _ hs0)
  rw [hW] at hen t1
  refine ⟨w.heap.size + 1, [{ target := .collected w.heap.size, args := #[] }], W1, { target := .fn (.func gf) lb, args := #[.func (.yield (w.heap.size + 1)) #[] #[]] }, W1, gf, #[.func (.yield (w.heap.size + 1)) #[] #[]] ++ lb, W1, hen, ?_, ?_, ?_, fun _ => h1, ?_⟩
  · simp only [resolve, hg]
    simp [go_sem]
  · intro f' hf'
    simp [Target.leads] at hf'
    exact hf' ▸ hFg
  · simp [invoke, go_sem, eg]
  · refine (hiter (w.heap.size + 1) (TwoL (w.heap.size + 1) w.heap.size r) (fun c => TwoL (w.heap.size + 1) w.heap.size { r with state := .done, pending := some c })
      (fun V V' h k => h.keep (by omega) (Nat.le_refl _) k) (fun c V V' h k => h.keep (by omega) (Nat.le_refl _) k) ?_ W1 hs1 t1).mono ?_
    · intro s W hi ht
      have hb : I0 s (W.putObj (w.heap.size + 1) (.loop { r with state := .busy })) := o0.putObj _ hi (by omega) ht.1 rfl
      obtain ⟨fn', tm, asg, bo, hy, hR⟩ := round_turn (P := P) (m := n - 1 - 1) (B := w.heap.size) (a1 := a₁ s) (args := enc s) (G := I1 s) (X := fun c => Ix c s) (by rw [← hr]; exact hfn) (by rw [← hr]) (by rw [← hr]) ht (by omega) (by omega) (Nat.le_refl _) (by rw [← hr]; exact hps s)
        (by rw [← hr]; exact fun K hK => hassign _ s W K hK) (by have := hbody (w.heap.size + 1) s _ hb; rw [← hr]; rw [← hr] at this; exact this)
      refine ⟨fn', tm, asg, bo, hy, hR.mono ?_⟩
      rintro e W' (⟨rfl, V, hG, hT, rfl⟩ | ⟨rfl, c, V, hX, hT, rfl⟩)
      · exact .inl ⟨rfl, o1.putObj _ hG (by omega) hT.1 rfl, hT.turn (by omega) _⟩
      · exact .inr ⟨rfl, c, (ox c).putObj _ hX (by omega) hT.1 rfl, hT.turn (by omega) _⟩
    · rintro e W' ⟨⟨v, rfl⟩, ⟨s, hi, ht⟩ | ⟨c, s, hi, ht⟩⟩
      · refine ⟨_, _, run_endLoop ht.1 (by rw [← hr]; simp), ?_⟩
        have := hdone w.heap.size s _ (Nat.le_refl _) (oe.putObj (.loop { r with state := .exhausted }) hi (by omega) ht.1 rfl) ((World.putObj_heap_other (by omega)).trans ht.2)
        rw [← hr] at this ⊢
        exact this
      · refine ⟨_, _, run_endLoop ht.1 (by simp), ?_⟩
        exact hstop w.heap.size c s _ (Nat.le_refl _) ((ox c).putObj _ hi (by omega) ht.1 rfl) ((World.putObj_heap_other (by omega)).trans ht.2)

end Go.Proofs.YtbaijmkghgnleaaGreatDoor

namespace Go.Proofs.YtbaijmkghgnleaaGreatDoor
open Go.RowKit Go.Shelf
set_option linter.unusedVariables false
attribute [local go_sem] Oper.semAt_some

/-- The number in the box b. -/
def numAt (b : Nat) (W : World) : Nat := match W.cell? ⟨b, 0, none⟩ with | some (.int _ x) => x.toNat | _ => 0

theorem numAt_eq {W : World} {b : Nat} {k : IntKind} {x : Int} (h : W.cell? ⟨b, 0, none⟩ = some (.int k x)) : numAt b W = x.toNat := by simp [numAt, h]

/-- What a round is handed: a group of v, and whether others follow. -/
abbrev encG (s : List Int × Nat) : Array Value := #[.int .i64 ((s.2 : Int) % 128), .bool (decide (127 < (s.2 : Int)))]

set_option maxRecDepth 100000 in
set_option maxHeartbeats 1000000 in
theorem groups_iter (n B Bn : Nat) (hn : 1 ≤ n) (I0 I1 : List Int × Nat → World → Prop) (Ix : Code → List Int × Nat → World → Prop) (nxt : List Int × Nat → List Int × Nat)
    (h0 : ∀ s W, I0 s W → Boxed W Bn 3 (.int .i64 s.2) ∧ s.2 ≤ 16777216) (h1 : ∀ s W, I1 s W → Boxed W Bn 3 (.int .i64 s.2) ∧ 127 < s.2 ∧ s.2 ≤ 16777216)
    (h2 : ∀ s W, I1 s W → I0 (nxt s) (W.setCell ⟨Bn, 0, none⟩ (.int .i64 ((s.2 / 128 : Nat) : Int)))) (s0 : List Int × Nat) :
    Iter Fence.wide n Tryz.prog B 111 #[.pointer (some ⟨Bn, 0, none⟩)] encG I0 I1 Ix (fun _ _ => False) (I0 s0) := by
  intro l L0 L1 k0 k1 hY W hi hl
  refine callsIn_of_wp Tryz.func111 rfl trivial ?_ rfl
  simp only [Tryz.ntmps111, List.size_toArray, List.length_cons, List.length_nil, Nat.reduceAdd, Nat.reduceSub, Array.replicate_succ, Array.replicate_zero, List.push_toArray, List.append_toArray, List.nil_append, List.cons_append]
  gi_wp2
  gi_loopw [] (fun wr => ∃ s, I0 s wr ∧ L0 wr) (fun wr => numAt Bn wr)
  case atStart => exact ⟨s0, hi, hl⟩
  case round =>
    clear hi hl
    obtain ⟨⟨d, v⟩, hs, hl⟩ := hrel
    obtain ⟨hb, hv⟩ := h0 _ wr hs
    obtain ⟨fn, tmps, assign, body, hy, hR⟩ := hY _ wr hs hl
    have hc : wr.cell? ⟨Bn, 0, none⟩ = some (.int .i64 v) := hb.cell
    have hvi : (v : Int) ≤ 16777216 := by
      have : v ≤ 16777216 := hv
      omega
    simp only [encG] at hy
    rw [← i64_and127] at hy
    have hnum : numAt Bn wr = v := by rw [numAt_eq hc]; exact Int.toNat_natCast v
    have hdiv : ((v / 128 : Nat) : Int) = (v : Int) / 128 := by omega
    gi_wp2
    refine hR.mono ?_
    clear hR hy hc hb hs hl
    rintro e W3 (⟨rfl, h3, l3⟩ | ⟨rfl, c, h3, l3⟩)
    · obtain ⟨hb3, hgt, _⟩ := h1 _ _ h3
      have hc3 : W3.cell? ⟨Bn, 0, none⟩ = some (.int .i64 v) := hb3.cell
      have hf3 := hb3.frozen
      have hn3 := h2 _ _ h3
      dsimp only at hn3
      have hl3 := k0 _ _ l3 ((KeepsOthers.setCell W3 ⟨Bn, 0, none⟩ (.int .i64 ((v / 128 : Nat) : Int))).from B)
      have hcn := (hb3.set (.int .i64 ((v / 128 : Nat) : Int))).cell
      rw [hdiv] at hn3 hl3 hcn
      gi_wp2
      go_roundw
      case rel => exact ⟨_, hn3, hl3⟩
      case measure =>
        rw [hnum, numAt_eq hcn, ← hdiv, Int.toNat_natCast]
        omega
    · gi_wp2
      go_end0
      exact ⟨⟨_, rfl⟩, .inr ⟨c, _, h3, l3⟩⟩

set_option maxHeartbeats 400000 in
theorem groupsOf_any (x : Int) (w : World) (n : Nat) :
    CallsIn Fence.wide n Tryz.prog 98 #[.int .i64 x] w fun e w' => e = .returned (.func (.func 111) #[] #[.pointer (some ⟨w.heap.size, 0, none⟩)]) ∧ w' = w.alloc (.cells #[.int .i64 x] 3) := by
  refine callsIn_of_wp Tryz.func98 rfl trivial ?_ rfl
  simp only [Tryz.ntmps98, List.size_toArray, List.length_cons, List.length_nil, Nat.reduceAdd, Nat.reduceSub, Array.replicate_succ, Array.replicate_zero, List.push_toArray, List.append_toArray, List.nil_append, List.cons_append]
  gi_wp2
  go_ret
  exact ⟨rfl, rfl⟩

end Go.Proofs.YtbaijmkghgnleaaGreatDoor

namespace Go.Proofs.YtbaijmkghgnleaaGreatDoor
open Go.RowKit
set_option linter.unusedVariables false

theorem step_call_pair {P : Program} {ops : Array Oper} {o : Oper} {a : Act} {w : World} {K : Act → World → Prop} {Q : Exit → Act → World → Prop} {E : Prop}
    (hg : o.guard = none) (f : FuncId) (x y : Operand) (t t' : TypeId) (ho : o.op = .call { callee := .value (.func f), args := #[x, y], argTypes := #[t, t'] })
    (hent : ∀ args w, (callFunc f args).run P w = .ok (.enter f args) w) (u u' : Value) (hx : a.eval x = u) (hy : a.eval y = u') (R : Ending → World → Prop)
    (hc : Calls P f #[u, u'] w R) (h : ∀ e w', R e w' → ∃ v, e = .returned v ∧ K (a.put o.dst v) w') :
    if Region.wanted o (yielded ops a.tmps) = true then Oper.wp P o a w K Q else E := by
  have hw : Region.wanted o (yielded ops a.tmps) = true := by simp [Region.wanted, hg]
  rw [if_pos hw]
  have hf : a.eval (.func f) = .func (.func f) #[] #[] := rfl
  unfold Oper.wp
  simp [execOp, ho, resolve, invoke, Deferred.ofValue, hent, hf, hx, hy, Oper.upon_enter]
  refine hc.mono ?_
  intro e w' hr
  obtain ⟨v, rfl, hk⟩ := h e w' hr
  exact hk

theorem run_make_zero {P : Program} (w : World) (t e : TypeId) (i : TypeInfo) (h1 : P.underlying t = some (.slice e)) (h2 : P.info? e = some i) (h3 : i.zero = some (.int .u8 0)) (h4 : i.size = 1) (h5 : i.bytes = 1) (n : Nat) (b2 : n ≤ 2199023255552) :
    (Instr.makeSlice t (.int .i64 n) (.int .i64 n)).run P w = .ok (.slice (some ⟨w.heap.size, 0, none⟩) n n) (w.alloc (.cells (List.replicate n (.int .u8 0)).toArray e)) := by
  have hz : (Value.int .u8 0).cells = #[.int .u8 0] := rfl
  have hr := run_make (P := P) w t e i _ h1 h2 h3 .i64 .i64 n n (by omega) (by omega) (by rw [h5]; omega) (by omega)
  simp only [Int.toNat_natCast, h4, Nat.mul_one, hz] at hr
  rw [hr]
  congr 1
  congr 1
  congr 1
  apply Array.toList_inj.1
  rw [toList_madeCells_one]

theorem run_text_zero {P : Program} (w : World) (src dst e : TypeId) (hs : P.underlying src = some (.slice e)) (he : P.underlying e = some (.int .u8)) (hd : P.underlying dst = some .string) (b n cap : Nat) (hc : w.heap[b]? = some (.cells (List.replicate n (.int .u8 0)).toArray e (0, 0))) :
    ∃ s : ByteArray, s.size = n ∧ (convert src dst (.slice (some ⟨b, 0, none⟩) n cap)).run P w = .ok (.string s) w := by
  have hr := run_convert_bytes_back (P := P) w src dst e ⟨b, 0, none⟩ cap (List.replicate n 0) hs he hd (by
    intro j hj
    rw [List.length_replicate] at hj
    have hp : (⟨b, 0, none⟩ : Addr).add j = ⟨b, j, none⟩ := by unfold Addr.add; split <;> simp_all
    rw [hp]
    simp [World.cell?, hc, hj])
  rw [List.length_replicate] at hr
  exact ⟨_, by simp [ByteArray.size], hr⟩

theorem step_make_zero {P : Program} {ops : Array Oper} {o : Oper} {a : Act} {w : World} {K : Act → World → Prop} {Q : Exit → Act → World → Prop} {E : Prop}
    (hg : o.guard = none) (l : Operand) (t e : TypeId) (hop : o.op = Op.makeSlice t l l) (i : TypeInfo) (h1 : P.underlying t = some (.slice e)) (h2 : P.info? e = some i) (h3 : i.zero = some (.int .u8 0)) (h4 : i.size = 1) (h5 : i.bytes = 1)
    (L : Int) (n : Nat) (hl : a.eval l = .int .i64 L) (hL : L = (n : Int)) (b2 : n ≤ 2199023255552)
    (h : ∀ w', w'.heap[w.heap.size]? = some (.cells (List.replicate n (.int .u8 0)).toArray e (0, 0)) → Below w.heap.size w w' → K (a.put o.dst (.slice (some ⟨w.heap.size, 0, none⟩) n n)) w') :
    if Region.wanted o (yielded ops a.tmps) = true then Oper.wp P o a w K Q else E := by
  have hw : Region.wanted o (yielded ops a.tmps) = true := by simp [Region.wanted, hg]
  rw [if_pos hw]
  subst hL
  have hz : (Value.int .u8 0).cells = #[.int .u8 0] := rfl
  have hr := run_make (P := P) w t e i _ h1 h2 h3 .i64 .i64 n n (by omega) (by omega) (by rw [h5]; omega) (by omega)
  simp only [Int.toNat_natCast, h4, Nat.mul_one, hz] at hr
  unfold Oper.wp
  simp [execOp, hop, hl, hr, Result.andThen]
  refine h _ ?_ ((Below.refl _ _).alloc (Nat.le_refl _) _)
  rw [heap_alloc_new]
  congr 1
  congr 1
  apply Array.toList_inj.1
  rw [toList_madeCells_one]

theorem step_text_zero {P : Program} {ops : Array Oper} {o : Oper} {a : Act} {w : World} {K : Act → World → Prop} {Q : Exit → Act → World → Prop} {E : Prop}
    (hg : o.guard = none) (x : Operand) (src dst e : TypeId) (hop : o.op = Op.convert src dst x) (hs : P.underlying src = some (.slice e)) (he : P.underlying e = some (.int .u8)) (hd : P.underlying dst = some .string)
    (b n cap : Nat) (hx : a.eval x = .slice (some ⟨b, 0, none⟩) n cap) (hc : w.heap[b]? = some (.cells (List.replicate n (.int .u8 0)).toArray e (0, 0)))
    (h : ∀ s : ByteArray, s.size = n → K (a.put o.dst (.string s)) w) :
    if Region.wanted o (yielded ops a.tmps) = true then Oper.wp P o a w K Q else E := by
  have hw : Region.wanted o (yielded ops a.tmps) = true := by simp [Region.wanted, hg]
  rw [if_pos hw]
  have hr := run_convert_bytes_back (P := P) w src dst e ⟨b, 0, none⟩ cap (List.replicate n 0) hs he hd (by
    intro j hj
    rw [List.length_replicate] at hj
    have hp : (⟨b, 0, none⟩ : Addr).add j = ⟨b, j, none⟩ := by unfold Addr.add; split <;> simp_all
    rw [hp]
    simp [World.cell?, hc, hj])
  rw [List.length_replicate] at hr
  unfold Oper.wp
  simp [execOp, hop, hx, hr, Result.andThen]
  exact h _ (by simp [ByteArray.size])

end Go.Proofs.YtbaijmkghgnleaaGreatDoor

namespace Go.Proofs.YtbaijmkghgnleaaGreatDoor
open Go.RowKit
set_option linter.unusedVariables false

/-- 'make([]byte, n, c)': a new row of c cells, all 0. -/
theorem wpList_make_room {P : Program} (w : World) {ops : Array Oper} {rest : List Oper} {o : Oper} {a : Act} {Q : Exit → Act → World → Prop}
    (hg : o.guard = none) (l c : Operand) (t : TypeId) (hop : o.op = Op.makeSlice t l c)
    (e : TypeId) (i : TypeInfo) (z : Value) (h1 : P.underlying t = some (.slice e)) (h2 : P.info? e = some i) (h3 : i.zero = some z) (h4 : i.size = 1) (hz : z.cells = #[z]) (h5 : i.bytes = 1)
    (kl kc : IntKind) (L C : Int) (n m : Nat) (hl : a.eval l = .int kl L) (hc : a.eval c = .int kc C) (hL : L = (n : Int)) (hC : C = (m : Int)) (hnm : n ≤ m) (b2 : m ≤ 2199023255552)
    (hK : ∀ w', w'.heap[w.heap.size]? = some (.cells (List.replicate m z).toArray e (0, 0)) → Below w.heap.size w w' → wpList P ops Q rest (a.put o.dst (.slice (some ⟨w.heap.size, 0, none⟩) n m)) w') :
    wpList P ops Q (o :: rest) a w := by
  refine wpList_plain hg fun K hK' => ?_
  subst hL hC
  have hr := run_make (P := P) w t e i z h1 h2 h3 kl kc n m (by omega) (by omega) (by rw [h5]; omega) (by omega)
  simp only [Int.toNat_natCast, h4, Nat.mul_one, hz] at hr
  unfold Oper.wp
  simp [execOp, hop, hl, hc, hr, Result.andThen]
  refine hK' _ _ (hK _ ?_ ((Below.refl _ _).alloc (Nat.le_refl _) _))
  rw [heap_alloc_new]
  congr 1
  congr 1
  apply Array.toList_inj.1
  rw [toList_madeCells_one]

theorem own_of_row {w : World} {g n c : Nat} {cur : List Value} {base : Nat} (h : w.heap[g]? = some (.cells cur.toArray 5 (0, 0))) (hb : base ≤ g) (hl : cur.length = c) (hn : n ≤ c) (hc : c ≤ maxLen) : w.ownsRow base 5 1 (.slice (some ⟨g, 0, none⟩) n c) n (cur.take n) :=
  ⟨by simp; omega, .inr ⟨g, c, cur.toArray, rfl, hb, h, hn, hc, by simpa using hl, by simp⟩⟩

end Go.Proofs.YtbaijmkghgnleaaGreatDoor
