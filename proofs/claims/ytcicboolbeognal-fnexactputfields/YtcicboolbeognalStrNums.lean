/- Texts as they stand in a block: what is put, what is got of it; no program in it. -/
import Derived.Test.YtcicboolbeognalOwn
import Derived.Test.YtcicboolbeognalPfxNums
import Derived.Test.YtcicboolbeognalGpxNums
import Derived.Test.YtcicboolbeognalPfxBack
import Derived.Test.YtcicboolbeognalHufNums
import Derived.Test.YtcicboolbeognalStrStep
namespace Go.Proofs.Ytcicboolbeognal
open Go.RowKit
set_option linter.unusedVariables false

theorem gpf_app (f : Nat) : ∀ (l r : List Int) (s n p : Int), (gpf f l s n p).2.2 = true → gpf f (l ++ r) s n p = gpf f l s n p := by
  induction f with
  | zero => intro l r s n p h; simp [gpf] at h
  | succ f ih =>
    intro l r s n p h
    cases l with
    | nil => simp [gpf] at h
    | cons c l =>
      rw [List.cons_append, gpf, gpf]
      rw [gpf] at h
      by_cases hc : c < 128
      · rw [if_pos hc, if_pos hc]
      · rw [if_neg hc] at h
        rw [if_neg hc, if_neg hc]
        exact ih _ _ _ _ _ h

theorem gpf_bound (f : Nat) : ∀ (l : List Int) (s n p m q : Int), (∀ x ∈ l, 0 ≤ x ∧ x ≤ 255) → 0 ≤ s → 0 ≤ n → gpf f l s n p = (m, q, true) → 0 ≤ m ∧ m ≤ 16777216 ∧ p < q ∧ q ≤ p + l.length := by
  induction f with
  | zero => intro l s n p m q _ _ _ h; simp [gpf] at h
  | succ f ih =>
    intro l s n p m q hl hs hn h
    cases l with
    | nil => simp [gpf] at h
    | cons c l =>
      rw [gpf] at h
      have hc0 := hl c (by simp)
      have hm0 : 0 ≤ c % 128 * s := Int.mul_nonneg (by omega) hs
      by_cases hc : c < 128
      · rw [if_pos hc] at h
        by_cases hle : n + c % 128 * s ≤ 16777216
        · rw [if_pos hle] at h
          injection h with h1 h2
          injection h2 with h2 h3
          subst h1 h2
          refine ⟨by omega, hle, by omega, ?_⟩
          rw [List.length_cons]
          omega
        · rw [if_neg hle] at h
          simp at h
      · rw [if_neg hc] at h
        obtain ⟨h1, h2, h3, h4⟩ := ih l _ _ _ m q (fun x hx => hl x (List.mem_cons_of_mem _ hx)) (by omega) (by omega) h
        refine ⟨h1, h2, by omega, ?_⟩
        rw [List.length_cons]
        omega

theorem getPfx_app (zs r : List Int) (i b : Int) (h : (getPfx zs i b).2.2 = true) : getPfx (zs ++ r) i b = getPfx zs i b := by
  unfold getPfx at h ⊢
  by_cases hc : 1 ≤ b ∧ b ≤ 8 ∧ 0 ≤ i ∧ i < (zs.length : Int)
  · rw [if_pos hc] at h
    rw [if_pos hc, if_pos (by rw [List.length_append]; omega)]
    have e1 : (zs ++ r).getD i.toNat 0 = zs.getD i.toNat 0 := by
      rw [List.getD_eq_getElem?_getD, List.getD_eq_getElem?_getD, List.getElem?_append_left (by omega)]
    have e2 : (zs ++ r).drop (i.toNat + 1) = zs.drop (i.toNat + 1) ++ r := List.drop_append_of_le_length (by omega)
    rw [e1, e2]
    by_cases hs : zs.getD i.toNat 0 % 2 ^ b.toNat < 2 ^ b.toNat - 1
    · rw [if_pos hs, if_pos hs]
    · rw [if_neg hs] at h
      rw [if_neg hs, if_neg hs]
      exact gpf_app _ _ _ _ _ _ h
  · rw [if_neg hc] at h
    simp at h

theorem getPfx_bound (zs : List Int) (i b m q : Int) (hz : ∀ x ∈ zs, 0 ≤ x ∧ x ≤ 255) (h : getPfx zs i b = (m, q, true)) : 0 ≤ m ∧ m ≤ 16777216 ∧ 0 ≤ i ∧ i < q ∧ q ≤ zs.length := by
  unfold getPfx at h
  by_cases hc : 1 ≤ b ∧ b ≤ 8 ∧ 0 ≤ i ∧ i < (zs.length : Int)
  · rw [if_pos hc] at h
    have hp : 0 < (2 : Int) ^ b.toNat := Int.pow_pos (by decide)
    have hp8 : (2 : Int) ^ b.toNat ≤ 256 := by
      have : (2 : Nat) ^ b.toNat ≤ 2 ^ 8 := Nat.pow_le_pow_right (by decide) (by omega)
      have e : ((2 : Int) ^ b.toNat) = ((2 ^ b.toNat : Nat) : Int) := by simp
      rw [e]
      omega
    by_cases hs : zs.getD i.toNat 0 % 2 ^ b.toNat < 2 ^ b.toNat - 1
    · rw [if_pos hs] at h
      injection h with h1 h2
      injection h2 with h2 h3
      subst h1 h2
      have := Int.emod_nonneg (zs.getD i.toNat 0) (Int.ne_of_gt hp)
      refine ⟨this, by omega, hc.2.2.1, by omega, by omega⟩
    · rw [if_neg hs] at h
      obtain ⟨h1, h2, h3, h4⟩ := gpf_bound 4 _ 1 _ _ m q (fun x hx => hz x (List.mem_of_mem_drop hx)) (by decide) (by omega) h
      refine ⟨h1, h2, hc.2.2.1, by omega, ?_⟩
      rw [List.length_drop] at h4
      omega
  · rw [if_neg hc] at h
    simp at h

theorem asInts_range (u : List UInt8) : ∀ x ∈ asInts u, 0 ≤ x ∧ x ≤ 255 := by
  intro x hx
  obtain ⟨c, _, rfl⟩ := List.mem_map.1 hx
  have := c.toNat_lt
  omega

theorem asInts_len (u : List UInt8) : (asInts u).length = u.length := by simp [asInts]

theorem asInts_inj {u v : List UInt8} (h : asInts u = asInts v) : u = v := by
  induction u generalizing v with
  | nil => cases v with
    | nil => rfl
    | cons c v => simp [asInts] at h
  | cons a u ih => cases v with
    | nil => simp [asInts] at h
    | cons c v =>
      simp only [asInts, List.map_cons, List.cons.injEq] at h
      obtain ⟨h1, h2⟩ := h
      rw [ih h2, UInt8.toNat_inj.1 (Int.ofNat_inj.1 h1)]

theorem byteCells_ints (s : ByteArray) : byteCells s = (asInts s.data.toList).map (Value.int .u8) := by
  simp [byteCells, asInts]

theorem text_eq {s t : ByteArray} (h : s.data.toList = t.data.toList) : s = t := by
  have := Array.toList_inj.1 h
  cases s; cases t; simp_all

/-- The bytes of a text in a block. -/
def StrOf (s : ByteArray) (q : List Int) : Prop :=
  (((bitLen s.data.toList + 7) / 8 < s.size) ∧ ∃ o, HuffOf s.data.toList o ∧ q = pfx 7 128 o.length ++ o) ∨ (¬ ((bitLen s.data.toList + 7) / 8 < s.size) ∧ q = pfx 7 0 s.size ++ asInts s.data.toList)

theorem StrOf.one {s : ByteArray} {q r : List Int} (h : StrOf s q) (g : StrOf s r) : q = r := by
  rcases h with ⟨h0, o, h1, rfl⟩ | ⟨h0, rfl⟩ <;> rcases g with ⟨g0, u, g1, rfl⟩ | ⟨g0, rfl⟩
  · rw [h1.one g1]
  · exact absurd h0 g0
  · exact absurd g0 h0
  · rfl

theorem StrOf.range {s : ByteArray} {q : List Int} (h : StrOf s q) : ∀ x ∈ q, 0 ≤ x ∧ x ≤ 255 := by
  intro x hx
  rcases h with ⟨h0, o, h1, rfl⟩ | ⟨h0, rfl⟩
  · rcases List.mem_append.1 hx with hx | hx
    · exact pfx_range 7 128 _ (by decide) (by decide) (by decide) x hx
    · exact h1.1 x hx
  · rcases List.mem_append.1 hx with hx | hx
    · exact pfx_range 7 0 _ (by decide) (by decide) (by decide) x hx
    · exact asInts_range _ x hx

/-- How long the bytes of a small number are. -/
theorem grp_small (k v : Nat) : ∀ j, v < 128 ^ (j + 1) → (grp k v).length ≤ j + 1 := by
  induction k generalizing v with
  | zero => intro j _; simp [grp]
  | succ k ih =>
    intro j hv
    rw [grp]
    split
    · rename_i h
      cases j with
      | zero => rw [Nat.zero_add, Nat.pow_one] at hv; omega
      | succ j =>
        have := ih (v / 128) j (by rw [Nat.pow_succ] at hv; exact Nat.div_lt_of_lt_mul (by rw [Nat.mul_comm]; exact hv))
        simp
        omega
    · simp

theorem StrOf.len {s : ByteArray} {q : List Int} (h : StrOf s q) : q.length ≤ s.size + 6 := by
  rcases h with ⟨h0, o, h1, rfl⟩ | ⟨h0, rfl⟩
  · have := pfx_len 7 128 o.length
    have h2 := h1.len
    rw [List.length_append]
    omega
  · have := pfx_len 7 0 s.size
    rw [List.length_append, asInts_len, str_len]
    omega

theorem StrOf.pos {s : ByteArray} {q : List Int} (h : StrOf s q) : 0 < q.length := by
  have hp : ∀ F n, 0 < (pfx 7 F n).length := fun F n => by unfold pfx; split <;> simp
  rcases h with ⟨h0, o, h1, rfl⟩ | ⟨h0, rfl⟩
  · have := hp 128 o.length
    rw [List.length_append]
    omega
  · have := hp 0 s.size
    rw [List.length_append]
    omega

theorem StrOf.short {s : ByteArray} {q : List Int} (h : StrOf s q) (hs : s.size < 2097152) : q.length ≤ s.size + 5 := by
  have hp : ∀ F n, n < 2097152 → (pfx 7 F n).length ≤ 5 := by
    intro F n hn
    unfold pfx
    split
    · simp
    · have := grp_small 5 (n - (2 ^ 7 - 1)) 2 (by have : 128 ^ (2 + 1) = 2097152 := by decide
                                                  omega)
      rw [List.length_cons]
      omega
  rcases h with ⟨h0, o, h1, rfl⟩ | ⟨h0, rfl⟩
  · have h2 := h1.len
    have := hp 128 o.length (by omega)
    rw [List.length_append]
    omega
  · have := hp 0 s.size hs
    rw [List.length_append, asInts_len, str_len]
    omega

/-- There is a text t of these bytes at this place, and p is behind it. -/
def GoodS (zs : List Int) (i : Int) (t : ByteArray) (p : Int) : Prop :=
  ∃ n q : Nat, getPfx zs i 7 = ((n : Int), (q : Int), true) ∧ q + n ≤ zs.length ∧ p = ((q + n : Nat) : Int) ∧ t.size ≤ 4000 ∧
    ((zs.getD i.toNat 0 < 128 ∧ asInts t.data.toList = (zs.drop q).take n) ∨ (128 ≤ zs.getD i.toNat 0 ∧ HuffOf t.data.toList ((zs.drop q).take n)))

theorem GoodS.one {zs : List Int} {i p r : Int} {s t : ByteArray} (h : GoodS zs i s p) (g : GoodS zs i t r) : s = t ∧ p = r := by
  obtain ⟨n, q, h1, h2, rfl, h4, h5⟩ := h
  obtain ⟨m, k, g1, g2, rfl, g4, g5⟩ := g
  rw [h1] at g1
  injection g1 with e1 e2
  injection e2 with e2 _
  obtain rfl : n = m := by omega
  obtain rfl : q = k := by omega
  refine ⟨?_, rfl⟩
  rcases h5 with ⟨a1, a2⟩ | ⟨a1, a2⟩ <;> rcases g5 with ⟨b1, b2⟩ | ⟨b1, b2⟩
  · exact text_eq (asInts_inj (a2.trans b2.symm))
  · omega
  · omega
  · exact text_eq (a2.text b2)

/-- What GetString answers: the text and the place, or nothing. -/
def GetS (zs : List Int) (i : Int) (t : ByteArray) (p : Int) (b : Bool) : Prop :=
  (b = true ∧ GoodS zs i t p) ∨ (b = false ∧ t = ⟨#[]⟩ ∧ p = 0 ∧ ∀ s r, ¬ GoodS zs i s r)

theorem GetS.one {zs : List Int} {i p r : Int} {s t : ByteArray} {b c : Bool} (h : GetS zs i s p b) (g : GetS zs i t r c) : s = t ∧ p = r ∧ b = c := by
  rcases h with ⟨rfl, h⟩ | ⟨rfl, rfl, rfl, h⟩ <;> rcases g with ⟨rfl, g⟩ | ⟨rfl, rfl, rfl, g⟩
  · exact ⟨(h.one g).1, (h.one g).2, rfl⟩
  · exact absurd h (g _ _)
  · exact absurd g (h _ _)
  · exact ⟨rfl, rfl, rfl⟩

theorem GoodS.app {zs : List Int} {i p : Int} {t : ByteArray} (h : GoodS zs i t p) (r : List Int) : GoodS (zs ++ r) i t p := by
  obtain ⟨n, q, h1, h2, h3, h4, h5⟩ := h
  have hb : 0 ≤ i ∧ i < (zs.length : Int) := by
    unfold getPfx at h1
    split at h1
    · rename_i hc
      exact ⟨hc.2.2.1, hc.2.2.2⟩
    · simp at h1
  refine ⟨n, q, ?_, by rw [List.length_append]; omega, h3, h4, ?_⟩
  · rw [getPfx_app zs r i 7 (by rw [h1]), h1]
  · have e1 : (zs ++ r).getD i.toNat 0 = zs.getD i.toNat 0 := by
      rw [List.getD_eq_getElem?_getD, List.getD_eq_getElem?_getD, List.getElem?_append_left (by omega)]
    have e2 : ((zs ++ r).drop q).take n = (zs.drop q).take n := by
      rw [List.drop_append_of_le_length (by omega), List.take_append_of_le_length (by rw [List.length_drop]; omega)]
    rw [e1, e2]
    exact h5

/-- A text comes back of its bytes, wherever they stand. -/
theorem StrOf.back {s : ByteArray} {q : List Int} (h : StrOf s q) (hs : s.size ≤ 4000) (zs r : List Int) : GoodS (zs ++ q ++ r) (zs.length : Int) s ((zs.length + q.length : Nat) : Int) := by
  refine GoodS.app ?_ r
  rcases h with ⟨hlt, o, h1, rfl⟩ | ⟨hlt, rfl⟩
  · have h2 := h1.len
    have hp := pfx_back zs 7 128 o.length (by decide) (by decide) (by omega)
    have hh := pfx_head zs 7 128 o.length
    have hl : 0 < (pfx 7 128 o.length).length := by unfold pfx; split <;> simp
    rw [← List.append_assoc]
    refine ⟨o.length, (zs ++ pfx 7 128 o.length).length, ?_, by simp only [List.length_append]; omega, ?_, hs, .inr ⟨?_, ?_⟩⟩
    · have e : ((7 : Nat) : Int) = 7 := rfl
      rw [e] at hp
      rw [getPfx_app _ _ _ _ (by rw [hp]), hp]
    · simp; omega
    · rw [Int.toNat_natCast, List.getD_eq_getElem?_getD, List.getElem?_append_left (by simp; omega), ← List.getD_eq_getElem?_getD, hh]
      omega
    · rw [List.drop_left, List.take_length]
      exact h1
  · have hp := pfx_back zs 7 0 s.size (by decide) (by decide) (by omega)
    have hh := pfx_head zs 7 0 s.size
    have hl : 0 < (pfx 7 0 s.size).length := by unfold pfx; split <;> simp
    rw [← List.append_assoc]
    refine ⟨s.size, (zs ++ pfx 7 0 s.size).length, ?_, by simp only [List.length_append, asInts_len, str_len]; omega, ?_, hs, .inl ⟨?_, ?_⟩⟩
    · have e : ((7 : Nat) : Int) = 7 := rfl
      rw [e] at hp
      rw [getPfx_app _ _ _ _ (by rw [hp]), hp]
    · simp [asInts_len]; omega
    · rw [Int.toNat_natCast, List.getD_eq_getElem?_getD, List.getElem?_append_left (by simp; omega), ← List.getD_eq_getElem?_getD, hh]
      omega
    · rw [List.drop_left, List.take_of_length_le (by rw [asInts_len, str_len]; exact Nat.le_refl _)]

/-- A list of bytes as the second argument of an append. -/
theorem Src.ofSeg {P : Program} {w : World} {a : Option Addr} {n cap : Nat} {zs : List Int} {t e : TypeId} (hk : P.underlying t = some (.slice e)) (h : Seg w a n zs) (ha : a = none → n = 0) : Src P 1 t (.slice a n cap) n (zs.map (Value.int .u8)) w := by
  cases a with
  | none =>
    obtain rfl := ha rfl
    obtain rfl : zs = [] := List.eq_nil_of_length_eq_zero h.1
    exact Src.ofNil w hk cap
  | some ad =>
    rcases h.2.2 with h0 | ⟨b, off, e1, _, _⟩
    · subst h0
      obtain rfl : zs = [] := List.eq_nil_of_length_eq_zero h.1
      exact Src.ofSlice w hk ad 0 cap [] rfl (by simp) (by simp)
    · injection e1 with e1
      subst e1
      exact Src.ofSlice w hk ⟨b, off, none⟩ n cap _ (by rw [List.length_map, h.1, Nat.mul_one]) (cells_ints h) (ints_one zs)

theorem Owns.some {w : World} {base n cap : Nat} {a : Option Addr} {zs : List Int} (h : Owns w base a n cap zs) (hn : 0 < n) : ∃ g, a = some ⟨g, 0, none⟩ ∧ base ≤ g ∧ g < w.heap.size := by
  obtain ⟨h1, _⟩ := h
  have hlt := h1.lt
  rcases h1.2 with ⟨e, _⟩ | ⟨g, c, cur, e, hb, hg, _⟩
  · injection e with e1 e2
    omega
  · injection e with e1
    subst e1
    exact ⟨g, rfl, (hlt g rfl)⟩

theorem Owns.cap {w : World} {base n cap : Nat} {a : Option Addr} {zs : List Int} (h : Owns w base a n cap zs) : n ≤ cap := by
  obtain ⟨h1, _⟩ := h
  rcases h1.2 with ⟨e, _⟩ | ⟨g, c, cur, e, _, _, hc, _⟩
  · injection e with _ e1 e2
    omega
  · injection e with _ _ e3
    omega

theorem Owns.none {w : World} {base n cap : Nat} {a : Option Addr} {zs : List Int} (h : Owns w base a n cap zs) : a = none → n = 0 := by
  rintro rfl
  obtain ⟨h1, _⟩ := h
  rcases h1.2 with ⟨e, _⟩ | ⟨g, c, cur, e, _⟩
  · injection e
  · injection e with e1
    cases e1

end Go.Proofs.Ytcicboolbeognal
