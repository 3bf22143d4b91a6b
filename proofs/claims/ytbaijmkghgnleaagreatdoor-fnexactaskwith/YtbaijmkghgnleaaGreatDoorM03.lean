/- Bits of numbers and of texts in Huffman's code: a text has one list of bytes, a list of bytes at most one text; no program in it. Reading bits one by one: what stays when a bit is read, and when there is no text; no program in it. Small facts on texts, words, rows and on the tables of Huffman's code; no program in it. An append onto a row of the call's own of whatever may be appended, a text's bytes too: as an operation. No program in it. -/
import Derived.Test.YtbaijmkghgnleaaGreatDoorM02
import Derived.Test.YtbaijmkghgnleaaGreatDoorM01
import Derived.Laws.Bits128
import Derived.Laws.IdiomStrings
import Derived.Laws.BytesArg
import Derived.Deep.QuietTactic
import Derived.BigQuiet
import Derived.Deep.AppendSrc
import Derived.Laws.AppendOwn
import Derived.WalkKit
namespace Go.Proofs.YtbaijmkghgnleaaGreatDoor
open Go.RowKit
set_option linter.unusedVariables false

/-- The lowest n bits of x, the highest first. -/
def bitsN : Nat → Nat → List Bool
  | 0, _ => []
  | n + 1, x => (x / 2 ^ n % 2 == 1) :: bitsN n x

theorem bitsN_len (n x : Nat) : (bitsN n x).length = n := by
  induction n with
  | zero => rfl
  | succ n ih => simp [bitsN, ih]

theorem bitsN_join (n m x y : Nat) (hy : y < 2 ^ m) : bitsN (n + m) (x * 2 ^ m + y) = bitsN n x ++ bitsN m y := by
  have hm : 0 < 2 ^ m := Nat.pow_pos (by decide)
  have low : ∀ k, k ≤ m → bitsN k (x * 2 ^ m + y) = bitsN k y := by
    intro k
    induction k with
    | zero => intro _; rfl
    | succ k ih =>
      intro hk
      have e : (x * 2 ^ m + y) / 2 ^ k % 2 = y / 2 ^ k % 2 := by
        obtain ⟨d, rfl⟩ : ∃ d, m = k + 1 + d := ⟨m - k - 1, by omega⟩
        have hk0 : 0 < 2 ^ k := Nat.pow_pos (by decide)
        have e1 : x * 2 ^ (k + 1 + d) + y = y + (x * 2 ^ d * 2) * 2 ^ k := by
          rw [Nat.pow_add, Nat.pow_succ, Nat.add_comm]
          congr 1
          rw [Nat.mul_comm (2 ^ k) 2, Nat.mul_assoc 2 (2 ^ k) (2 ^ d), Nat.mul_comm (2 ^ k) (2 ^ d), ← Nat.mul_assoc 2 (2 ^ d) (2 ^ k), ← Nat.mul_assoc x, ← Nat.mul_assoc x, Nat.mul_comm x 2, Nat.mul_assoc 2 x, Nat.mul_comm 2 (x * 2 ^ d)]
        rw [e1, Nat.add_mul_div_right _ _ hk0, Nat.add_mul_mod_self_right]
      rw [bitsN, bitsN, e, ih (by omega)]
  induction n with
  | zero => rw [Nat.zero_add, low m (Nat.le_refl _)]; rfl
  | succ n ih =>
    have e : (x * 2 ^ m + y) / 2 ^ (n + m) = x / 2 ^ n := by
      rw [Nat.add_comm n m, Nat.pow_add, ← Nat.div_div_eq_div_mul, Nat.add_comm (x * 2 ^ m), Nat.add_mul_div_right _ _ hm, Nat.div_eq_of_lt hy, Nat.zero_add]
    have e2 : n + 1 + m = n + m + 1 := by omega
    rw [e2, bitsN, bitsN, e, ih]
    rfl

theorem bits_val (n x : Nat) : ∀ a, (bitsN n x).foldl (fun a b => 2 * a + b.toNat) a = a * 2 ^ n + x % 2 ^ n := by
  induction n with
  | zero => intro a; simp [bitsN, Nat.mod_one]
  | succ n ih =>
    intro a
    rw [bitsN, List.foldl_cons, ih, Nat.mod_pow_succ]
    have hb : ((x / 2 ^ n % 2 == 1).toNat : Nat) = x / 2 ^ n % 2 := by
      have : x / 2 ^ n % 2 = 0 ∨ x / 2 ^ n % 2 = 1 := by omega
      rcases this with h | h <;> simp [h]
    rw [hb, Nat.pow_succ]
    generalize x / 2 ^ n % 2 = b
    generalize 2 ^ n = P
    rw [Nat.add_mul]
    have e1 : 2 * a * P = a * (P * 2) := by rw [Nat.mul_comm 2 a, Nat.mul_assoc, Nat.mul_comm 2 P]
    have e2 : b * P = P * b := Nat.mul_comm _ _
    omega

theorem bitsN_inj (n x y : Nat) (hx : x < 2 ^ n) (hy : y < 2 ^ n) (h : bitsN n x = bitsN n y) : x = y := by
  have h1 := bits_val n x 0
  have h2 := bits_val n y 0
  rw [h] at h1
  rw [h1, Nat.mod_eq_of_lt hx, Nat.mod_eq_of_lt hy] at h2
  omega

theorem bitsN_ones (n : Nat) : bitsN n (2 ^ n - 1) = List.replicate n true := by
  induction n with
  | zero => rfl
  | succ n ih =>
    have hp : 0 < 2 ^ n := Nat.pow_pos (by decide)
    have e : 2 ^ (n + 1) - 1 = 1 * 2 ^ n + (2 ^ n - 1) := by rw [Nat.pow_succ]; omega
    have hj := bitsN_join 1 n 1 (2 ^ n - 1) (by omega)
    rw [Nat.add_comm 1 n] at hj
    rw [e, hj, ih, List.replicate_succ]
    rfl

/-- A number whose bits are all 1. -/
theorem ones_of (n x : Nat) (hx : x < 2 ^ n) (h : bitsN n x = List.replicate n true) : x = 2 ^ n - 1 := by
  have hp : 0 < 2 ^ n := Nat.pow_pos (by decide)
  exact bitsN_inj n x _ hx (by omega) (h.trans (bitsN_ones n).symm)

/-- The length and the code of a byte. -/
def lenOf (c : UInt8) : Nat := (lensI.getD c.toNat 0).toNat
def codeOfB (c : UInt8) : Nat := (codesI.getD c.toNat 0).toNat

theorem lenOf_range (c : UInt8) : 5 ≤ lenOf c ∧ lenOf c ≤ 30 := by
  have hc : c.toNat < 256 := c.toNat_lt
  have := lens_range c.toNat (by omega)
  unfold lenOf
  omega

theorem codeOf_lt (c : UInt8) : codeOfB c < 2 ^ lenOf c := by
  have hc : c.toNat < 256 := c.toNat_lt
  have h := codes_range c.toNat (by omega)
  have h2 : (((2 : Nat) ^ lenOf c : Nat) : Int) = (2 : Int) ^ (lensI.getD c.toNat 0).toNat := by simp [lenOf]
  have h3 : (codesI.getD c.toNat 0) < ((2 ^ lenOf c : Nat) : Int) := by rw [h2]; exact h.2
  unfold codeOfB
  omega

def codeBits (c : UInt8) : List Bool := bitsN (lenOf c) (codeOfB c)
def textBits (l : List UInt8) : List Bool := l.flatMap codeBits

theorem textBits_snoc (l : List UInt8) (c : UInt8) : textBits (l ++ [c]) = textBits l ++ codeBits c := by simp [textBits]
theorem textBits_cons (c : UInt8) (l : List UInt8) : textBits (c :: l) = codeBits c ++ textBits l := by simp [textBits]

/-- Two codes, of which neither is the beginning of the other. -/
def bitsApart (a b : Nat × Nat) : Bool := if a.1 ≤ b.1 then b.2 / 2 ^ (b.1 - a.1) != a.2 else a.2 / 2 ^ (a.1 - b.1) != b.2
def allApart : List (Nat × Nat) → Bool
  | [] => true
  | a :: r => r.all (bitsApart a) && allApart r

def pairs : List (Nat × Nat) := (lensI.zip codesI).map fun p => (p.1.toNat, p.2.toNat)

set_option maxRecDepth 100000 in
theorem pairs_apart : allApart pairs = true := by decide +kernel

theorem apart_at (T : List (Nat × Nat)) (h : allApart T = true) : ∀ i j (hi : i < j) (hj : j < T.length), bitsApart T[i] T[j] = true := by
  induction T with
  | nil => intro i j hi hj; simp at hj
  | cons a r ih =>
    intro i j hi hj
    rw [allApart, Bool.and_eq_true] at h
    obtain ⟨j', rfl⟩ : ∃ j', j = j' + 1 := ⟨j - 1, by omega⟩
    have hj' : j' < r.length := by simpa using hj
    cases i with
    | zero =>
      have := List.all_eq_true.1 h.1 r[j'] (List.getElem_mem hj')
      simpa using this
    | succ i' =>
      have := ih h.2 i' j' (by omega) hj'
      simpa using this

theorem pairs_len : pairs.length = 257 := by decide +kernel

theorem zip_at (A B : List Int) (i : Nat) (h1 : i < A.length) (h2 : i < B.length) (h : i < ((A.zip B).map fun p => (p.1.toNat, p.2.toNat)).length) : ((A.zip B).map fun p => (p.1.toNat, p.2.toNat))[i] = ((A.getD i 0).toNat, (B.getD i 0).toNat) := by
  simp [List.getD_eq_getElem?_getD, h1, h2]

theorem pairs_at (c : UInt8) (h : c.toNat < pairs.length) : pairs[c.toNat] = (lenOf c, codeOfB c) := by
  have hc : c.toNat < 256 := c.toNat_lt
  exact zip_at lensI codesI c.toNat (by rw [lens_len]; omega) (by rw [codes_len]; omega) h

theorem code_apart (a b : UInt8) (hne : a ≠ b) (hle : lenOf a ≤ lenOf b) : codeOfB b / 2 ^ (lenOf b - lenOf a) ≠ codeOfB a := by
  have ha : a.toNat < 256 := a.toNat_lt
  have hb : b.toNat < 256 := b.toNat_lt
  have hn : a.toNat ≠ b.toNat := fun e => hne (UInt8.toNat_inj.1 e)
  have hla : a.toNat < pairs.length := by rw [pairs_len]; omega
  have hlb : b.toNat < pairs.length := by rw [pairs_len]; omega
  rcases Nat.lt_or_gt_of_ne hn with h | h
  · have := apart_at pairs pairs_apart a.toNat b.toNat h hlb
    rw [pairs_at a hla, pairs_at b hlb, bitsApart, if_pos hle] at this
    simpa using this
  · have := apart_at pairs pairs_apart b.toNat a.toNat h hla
    rw [pairs_at a hla, pairs_at b hlb, bitsApart] at this
    by_cases he : lenOf b ≤ lenOf a
    · rw [if_pos he] at this
      have e : lenOf a = lenOf b := by omega
      dsimp only at this
      rw [e] at this ⊢
      simp at this ⊢
      exact fun x => this x.symm
    · rw [if_neg he] at this
      simpa using this

/-- No code is the beginning of another one. -/
theorem prefix_free (a b : UInt8) (h : codeBits a <+: codeBits b) : a = b := by
  by_cases hne : a = b
  · exact hne
  · exfalso
    have hlen : lenOf a ≤ lenOf b := by
      have := h.length_le
      simpa [codeBits, bitsN_len] using this
    have hp : 0 < 2 ^ (lenOf b - lenOf a) := Nat.pow_pos (by decide)
    have hlt : codeOfB b / 2 ^ (lenOf b - lenOf a) < 2 ^ lenOf a := by
      rw [Nat.div_lt_iff_lt_mul hp, ← Nat.pow_add]
      have e : lenOf a + (lenOf b - lenOf a) = lenOf b := by omega
      rw [e]
      exact codeOf_lt b
    have hj := bitsN_join (lenOf a) (lenOf b - lenOf a) (codeOfB b / 2 ^ (lenOf b - lenOf a)) (codeOfB b % 2 ^ (lenOf b - lenOf a)) (Nat.mod_lt _ hp)
    have e1 : codeOfB b / 2 ^ (lenOf b - lenOf a) * 2 ^ (lenOf b - lenOf a) + codeOfB b % 2 ^ (lenOf b - lenOf a) = codeOfB b := by rw [Nat.mul_comm]; exact Nat.div_add_mod _ _
    have e2 : lenOf a + (lenOf b - lenOf a) = lenOf b := by omega
    rw [e1, e2] at hj
    unfold codeBits at h
    rw [hj] at h
    have h2 := List.prefix_of_prefix_length_le h (List.prefix_append _ _) (by simp [bitsN_len])
    have h3 := h2.eq_of_length (by simp [bitsN_len])
    exact code_apart a b hne hlen (bitsN_inj _ _ _ hlt (codeOf_lt a) h3.symm)

/-- A list of bits that no code is the beginning of. -/
def Free (x : List Bool) : Prop := ∀ c, ¬ codeBits c <+: x

set_option maxRecDepth 100000 in
theorem ones_tab : ∀ k : Nat, k < 256 → (codesI.getD k 0).toNat ≠ 2 ^ (lensI.getD k 0).toNat - 1 := by decide +kernel

theorem free_ones (p : Nat) : Free (List.replicate p true) := by
  intro c h
  have h1 : codeBits c = List.replicate (lenOf c) true := by
    rw [List.prefix_replicate_iff] at h
    have := h.2
    rw [codeBits, bitsN_len] at this
    exact this
  have h2 := ones_of (lenOf c) (codeOfB c) (codeOf_lt c) h1
  exact ones_tab c.toNat c.toNat_lt h2

/-- Texts with something behind them that no code is the beginning of: they are the same text, and the same is behind them. -/
theorem sync (l : List UInt8) : ∀ (m : List UInt8) (x y : List Bool), Free x → Free y → textBits l ++ x = textBits m ++ y → l = m ∧ x = y := by
  induction l with
  | nil =>
    intro m x y hx hy h
    cases m with
    | nil => exact ⟨rfl, by simpa [textBits] using h⟩
    | cons d m =>
      exfalso
      refine hx d ⟨textBits m ++ y, ?_⟩
      rw [textBits_cons] at h
      simpa [textBits] using h.symm
  | cons c l ih =>
    intro m x y hx hy h
    cases m with
    | nil =>
      exfalso
      refine hy c ⟨textBits l ++ x, ?_⟩
      rw [textBits_cons] at h
      simpa [textBits] using h
    | cons d m =>
      rw [textBits_cons, textBits_cons, List.append_assoc, List.append_assoc] at h
      have hcd : c = d := by
        have p1 : codeBits c <+: codeBits d ++ (textBits m ++ y) := ⟨_, h⟩
        have p2 : codeBits d <+: codeBits d ++ (textBits m ++ y) := List.prefix_append _ _
        rcases Nat.le_total (codeBits c).length (codeBits d).length with hl | hl
        · exact prefix_free c d (List.prefix_of_prefix_length_le p1 p2 hl)
        · exact (prefix_free d c (List.prefix_of_prefix_length_le p2 p1 hl)).symm
      subst hcd
      obtain ⟨e1, e2⟩ := ih m x y hx hy (List.append_cancel_left h)
      exact ⟨by rw [e1], e2⟩

/-- All bits of a list of bytes. -/
def byteBits (o : List Int) : List Bool := o.flatMap fun x => bitsN 8 x.toNat

theorem byteBits_len (o : List Int) : (byteBits o).length = 8 * o.length := by
  induction o with
  | nil => rfl
  | cons x o ih => rw [byteBits, List.flatMap_cons, List.length_append, bitsN_len]; simp only [byteBits] at ih; rw [ih, List.length_cons]; omega

theorem byteBits_snoc (o : List Int) (x : Int) : byteBits (o ++ [x]) = byteBits o ++ bitsN 8 x.toNat := by simp [byteBits]

theorem byteBits_inj (o : List Int) : ∀ u : List Int, (∀ x ∈ o, 0 ≤ x ∧ x ≤ 255) → (∀ x ∈ u, 0 ≤ x ∧ x ≤ 255) → byteBits o = byteBits u → o = u := by
  induction o with
  | nil =>
    intro u _ _ h
    have := congrArg List.length h
    rw [byteBits_len, byteBits_len] at this
    cases u with
    | nil => rfl
    | cons _ _ => simp at this
  | cons x o ih =>
    intro u ho hu h
    cases u with
    | nil =>
      have := congrArg List.length h
      rw [byteBits_len, byteBits_len] at this
      simp at this
    | cons y u =>
      have hx := ho x (by simp)
      have hy := hu y (by simp)
      have h' : bitsN 8 x.toNat ++ byteBits o = bitsN 8 y.toNat ++ byteBits u := h
      obtain ⟨e1, e2⟩ := List.append_inj h' (by rw [bitsN_len, bitsN_len])
      have e3 := bitsN_inj 8 x.toNat y.toNat (by omega) (by omega) e1
      rw [ih u (fun z hz => ho z (by simp [hz])) (fun z hz => hu z (by simp [hz])) e2]
      congr 1
      omega

/-- These bytes are the code of this text: its bits, and at most seven bits 1 behind them. -/
def HuffOf (l : List UInt8) (o : List Int) : Prop := (∀ x ∈ o, 0 ≤ x ∧ x ≤ 255) ∧ ∃ p, p < 8 ∧ byteBits o = textBits l ++ List.replicate p true

theorem HuffOf.one {l : List UInt8} {o u : List Int} (h : HuffOf l o) (k : HuffOf l u) : o = u := by
  obtain ⟨h1, p, hp, e⟩ := h
  obtain ⟨k1, q, hq, f⟩ := k
  have le := congrArg List.length e
  have lf := congrArg List.length f
  rw [byteBits_len, List.length_append, List.length_replicate] at le lf
  have hpq : p = q := by omega
  subst hpq
  exact byteBits_inj o u h1 k1 (e.trans f.symm)

theorem HuffOf.text {l m : List UInt8} {o : List Int} (h : HuffOf l o) (k : HuffOf m o) : l = m := by
  obtain ⟨_, p, _, e⟩ := h
  obtain ⟨_, q, _, f⟩ := k
  exact (sync l m _ _ (free_ones p) (free_ones q) (e.symm.trans f)).1

/-- How many bits a text's code has. -/
def bitLen (l : List UInt8) : Nat := (textBits l).length
theorem bitLen_snoc (l : List UInt8) (c : UInt8) : bitLen (l ++ [c]) = bitLen l + lenOf c := by simp [bitLen, textBits_snoc, codeBits, bitsN_len]
theorem bitLen_le (l : List UInt8) : bitLen l ≤ 30 * l.length := by
  induction l with
  | nil => simp [bitLen, textBits]
  | cons c l ih =>
    have h := lenOf_range c
    have e : bitLen (c :: l) = lenOf c + bitLen l := by simp [bitLen, textBits_cons, codeBits, bitsN_len]
    rw [e, List.length_cons]
    omega

theorem HuffOf.len {l : List UInt8} {o : List Int} (h : HuffOf l o) : o.length = (bitLen l + 7) / 8 := by
  obtain ⟨_, p, hp, e⟩ := h
  have le := congrArg List.length e
  rw [byteBits_len, List.length_append, List.length_replicate] at le
  unfold bitLen
  omega

end Go.Proofs.YtbaijmkghgnleaaGreatDoor

namespace Go.Proofs.YtbaijmkghgnleaaGreatDoor
open Go.RowKit
set_option linter.unusedVariables false

theorem bitsN_get (n x : Nat) : ∀ i, i < n → (bitsN n x)[i]? = some (x / 2 ^ (n - 1 - i) % 2 == 1) := by
  induction n with
  | zero => intro i h; omega
  | succ n ih =>
    intro i h
    cases i with
    | zero => simp [bitsN]
    | succ i =>
      have e : n + 1 - 1 - (i + 1) = n - 1 - i := by omega
      rw [bitsN, List.getElem?_cons_succ, ih i (by omega), e]

theorem byteBits_get (zs : List Int) : ∀ i, i < 8 * zs.length → (byteBits zs)[i]? = some ((zs.getD (i / 8) 0).toNat / 2 ^ (7 - i % 8) % 2 == 1) := by
  induction zs with
  | nil => intro i h; simp at h
  | cons z zs ih =>
    intro i h
    have e : byteBits (z :: zs) = bitsN 8 z.toNat ++ byteBits zs := rfl
    rw [e]
    by_cases h8 : i < 8
    · rw [List.getElem?_append_left (by rw [bitsN_len]; exact h8), bitsN_get 8 _ i h8]
      have e1 : i / 8 = 0 := by omega
      have e2 : i % 8 = i := by omega
      have e3 : 8 - 1 - i = 7 - i := by omega
      rw [e1, e2, e3]
      rfl
    · rw [List.getElem?_append_right (by rw [bitsN_len]; omega), bitsN_len, ih (i - 8) (by rw [List.length_cons] at h; omega)]
      have e1 : i / 8 = (i - 8) / 8 + 1 := by omega
      have e2 : (i - 8) % 8 = i % 8 := by omega
      rw [e1, e2]
      simp

/-- The bit i of a list of bytes, as a number. -/
def bitAt (zs : List Int) (i : Nat) : Nat := (zs.getD (i / 8) 0).toNat / 2 ^ (7 - i % 8) % 2

theorem bitAt_le (zs : List Int) (i : Nat) : bitAt zs i ≤ 1 := by unfold bitAt; omega

theorem take_bit (zs : List Int) (i : Nat) (h : i < 8 * zs.length) : (byteBits zs).take (i + 1) = (byteBits zs).take i ++ bitsN 1 (bitAt zs i) := by
  rw [List.take_add_one, byteBits_get zs i h]
  congr 1
  simp [bitsN, bitAt]

theorem push_bit (N A b : Nat) (hb : b ≤ 1) : bitsN (N + 1) (A * 2 + b) = bitsN N A ++ bitsN 1 b := by
  have := bitsN_join N 1 A b (by omega)
  simpa using this

theorem free_nil : Free [] := by
  intro c h
  have h1 := h.length_le
  have h2 := lenOf_range c
  rw [codeBits, bitsN_len] at h1
  simp at h1
  omega

/-- Where no code is just these bits, none is their beginning. -/
theorem free_push (N A b : Nat) (hA : A * 2 + b < 2 ^ (N + 1)) (hb : b ≤ 1) (hf : Free (bitsN N A)) (hn : ∀ c : UInt8, ¬ (lenOf c = N + 1 ∧ codeOfB c = A * 2 + b)) : Free (bitsN (N + 1) (A * 2 + b)) := by
  intro c h
  have hl : lenOf c ≤ N + 1 := by
    have := h.length_le
    simpa [codeBits, bitsN_len] using this
  by_cases he : lenOf c = N + 1
  · have e := h.eq_of_length (by rw [codeBits, bitsN_len, bitsN_len, he])
    rw [codeBits, he] at e
    have hc := codeOf_lt c
    rw [he] at hc
    exact hn c ⟨he, bitsN_inj _ _ _ hc hA e⟩
  · rw [push_bit N A b hb] at h
    exact hf c (List.prefix_of_prefix_length_le h (List.prefix_append _ _) (by rw [codeBits, bitsN_len, bitsN_len]; omega))

/-- A free list of 30 bits stays free with one bit more. -/
theorem free_long (N A b : Nat) (hN : 30 ≤ N) (hb : b ≤ 1) (hf : Free (bitsN N A)) (r : List Bool) : Free (bitsN (N + 1) (A * 2 + b) ++ r) := by
  intro c h
  have hl := lenOf_range c
  rw [push_bit N A b hb, List.append_assoc] at h
  exact hf c (List.prefix_of_prefix_length_le h (List.prefix_append _ _) (by rw [codeBits, bitsN_len, bitsN_len]; omega))

theorem no_text (zs : List Int) (u : List UInt8) (x : List Bool) (hx : Free x) (he : byteBits zs = textBits u ++ x) (hn : ∀ p, p < 8 → x ≠ List.replicate p true) : ∀ l, ¬ HuffOf l zs := by
  rintro l ⟨_, p, hp, e⟩
  exact hn p hp (sync l u _ _ (free_ones p) hx (e.symm.trans he)).2.symm

theorem found (N A b : Nat) (c : UInt8) (h1 : lenOf c = N + 1) (h2 : codeOfB c = A * 2 + b) : bitsN (N + 1) (A * 2 + b) = codeBits c := by rw [codeBits, h1, h2]

end Go.Proofs.YtbaijmkghgnleaaGreatDoor

namespace Go.Proofs.YtbaijmkghgnleaaGreatDoor
open Go.RowKit
set_option linter.unusedVariables false

theorem str_len (s : ByteArray) : s.data.toList.length = s.size := Array.length_toList
theorem str_take_snoc (s : ByteArray) (k : Nat) (h : k < s.size) : s.data.toList.take (k + 1) = s.data.toList.take k ++ [s[k]] := by
  rw [List.take_succ_eq_append_getElem (by simpa using h)]; rfl

theorem or_joinH (q B n : Nat) (hn : n < 2 ^ B) (hq : q * 2 ^ B < 9223372036854775808) (hB : B ≤ 62) : bits .or .i64 ((q * 2 ^ B : Nat) : Int) (n : Int) = ((q * 2 ^ B + n : Nat) : Int) := by
  have h2 : 2 ^ B ≤ 2 ^ 62 := Nat.pow_le_pow_right (by decide) hB
  rw [i64_or_nat _ _ hq (by omega)]
  have := Nat.shiftLeft_add_eq_or_of_lt (b := n) (i := B) hn q
  rw [Nat.shiftLeft_eq] at this
  rw [← this]

theorem own_lower {w : World} {base b' n : Nat} {e : TypeId} {v : Value} {xs : List Value} (h : w.ownsRow base e 1 v n xs) (hb : b' ≤ base) : w.ownsRow b' e 1 v n xs := by
  refine ⟨h.1, ?_⟩
  rcases h.2 with h0 | ⟨g, cap, cur, he, hg, r⟩
  · exact .inl h0
  · exact .inr ⟨g, cap, cur, he, by omega, r⟩

theorem wrap64_small (n : Nat) (h : n < 9223372036854775808) : wrap64 (n : Int) = (n : Int) := by unfold wrap64; omega

theorem lens_at (c : UInt8) : lensI.getD c.toNat 0 = (lenOf c : Int) := by
  have hc : c.toNat < 256 := c.toNat_lt
  have := lens_range c.toNat (by omega)
  unfold lenOf
  omega
theorem codes_at (c : UInt8) : codesI.getD c.toNat 0 = (codeOfB c : Int) := by
  have hc : c.toNat < 256 := c.toNat_lt
  have := codes_range c.toNat (by omega)
  unfold codeOfB
  omega

set_option maxRecDepth 10000 in
theorem mask_big (B : Nat) (h : B ≤ 30) : wrap64 (wrap64 ((2 : Int) ^ B) - 1) = ((2 ^ B - 1 : Nat) : Int) := by
  have : ∀ B : Nat, B < 31 → wrap64 (wrap64 ((2 : Int) ^ B) - 1) = ((2 ^ B - 1 : Nat) : Int) := by decide +kernel
  exact this B (by omega)

/-- Bytes as whole numbers. -/
def asInts (u : List UInt8) : List Int := u.map fun c => (c.toNat : Int)

theorem asInts_snoc (u : List UInt8) (c : UInt8) : asInts (u ++ [c]) = asInts u ++ [(c.toNat : Int)] := by simp [asInts]

theorem text_long (u : List UInt8) : u.length ≤ (textBits u).length := by
  induction u with
  | nil => simp
  | cons c u ih =>
    have h := lenOf_range c
    rw [textBits_cons, List.length_append, codeBits, bitsN_len, List.length_cons]
    omega

/-- What CodeLen and CodeOf answer. -/
def lenAns (x : Int) : Int := if 0 ≤ x ∧ x ≤ 256 then lensI.getD x.toNat 0 else 0
def codeAns (x : Int) : Int := if 0 ≤ x ∧ x ≤ 256 then codesI.getD x.toNat 0 else 0

end Go.Proofs.YtbaijmkghgnleaaGreatDoor

namespace Go.Proofs.YtbaijmkghgnleaaGreatDoor
open Go.RowKit
set_option linter.unusedVariables false

theorem run_room_any {P : Program} (w : World) (t tx ty e : TypeId) (i : TypeInfo) (ht : P.underlying t = some (.slice e)) (hi : P.info? e = some i)
    (g sLen sCap : Nat) (cur : Array Value) (hg : w.heap[g]? = some (.cells cur e (0, 0))) (x : Value) (m : Nat) (news : List Value) (hs : Src P i.size tx x m news w)
    (hroom : sLen + m ≤ sCap) (hfit : sLen * i.size + news.length ≤ cur.size) :
    (Builtin.append_ #[t, tx] ty #[.slice (some ⟨g, 0, none⟩) sLen sCap, x]).run P w =
      .ok (.slice (some ⟨g, 0, none⟩) (sLen + m) sCap) (w.setRow g (cur.toList.take (sLen * i.size) ++ news ++ cur.toList.drop (sLen * i.size + news.length)).toArray) := by
  have hst := run_storeCells_at P g (sLen * i.size) e news 0 cur w hg (by simpa using hfit) hs.one
  simp only [Nat.add_zero] at hst
  rcases hs.kind with ⟨e', hk⟩ | hk <;> simp [Builtin.append_, run_underlying ht, run_underlying hk, sizeOf, typeInfo, hi, hs.len, hroom, hs.cells, Addr.add_lit, hst]

theorem run_append_any {P : Program} (w : World) (base : Nat) (t tx ty e : TypeId) (i : TypeInfo) (z : Value) (size bytes : Nat) (ht : P.underlying t = some (.slice e)) (hi : P.info? e = some i) (hz : i.zero = some z)
    (hsize : i.size = size) (hby : i.bytes = bytes) (hzs : z.cells.size = size) (hsz : 0 < size)
    (g n cap : Nat) (xs : List Value) (hown : w.ownsRow base e size (.slice (some ⟨g, 0, none⟩) n cap) n xs)
    (x : Value) (m : Nat) (news : List Value) (hs : Src P size tx x m news w)
    (h63 : n + m ≤ maxLen) (hbytes : (n + m) * bytes ≤ 140737488355328) (hbase : base ≤ w.heap.size) :
    ∃ v' w', (Builtin.append_ #[t, tx] ty #[.slice (some ⟨g, 0, none⟩) n cap, x]).run P w = .ok v' w' ∧ w'.ownsRow base e size v' (n + m) (xs ++ news) ∧ w.grownBy w' (some g) := by
  subst hsize
  subst hby
  have hsmall : n + m ≤ 9223372036854775807 := by simp only [maxLen] at h63; omega
  have hl := hs.newsLen
  have hlen : (xs ++ news).length = (n + m) * i.size := by rw [List.length_append, hown.1, hl, Nat.add_mul]
  rcases hown.2 with ⟨h, _⟩ | ⟨g', cap', cur, heq, hbg, hg, hnc, hcm, hcs, htake⟩
  · cases h
  · injection heq with e1 e2 e3
    injection e1 with e1
    injection e1 with e1
    subst e1
    subst e3
    by_cases hroom : n + m ≤ cap
    · have hfit : n * i.size + news.length ≤ cur.size := by rw [hl, hcs, ← Nat.add_mul]; exact Nat.mul_le_mul_right _ hroom
      have hr := run_room_any w t tx ty e i ht hi g n cap cur hg x m news hs hroom hfit
      refine ⟨_, _, hr, ⟨hlen, .inr ⟨g, cap, _, rfl, hbg, setRow_heap w g cur _ e _ hg, hroom, hcm, ?_, ?_⟩⟩, ⟨rfl, rfl, rfl, by simp, fun k _ hk => setRow_other w g k _ (fun e => hk (by simp [e]))⟩⟩
      · simp only [List.size_toArray, List.length_append, List.length_take, List.length_drop, Array.length_toList]
        omega
      · rw [htake, ← hlen]
        exact List.take_left
    · have holds : ∀ j u, xs[j]? = some u → w.cell? ((⟨g, 0, none⟩ : Addr).add j) = some u := hown.cells (g := g) rfl
      have hold := run_firstCells_some (P := P) w.drew i.size n ⟨g, 0, none⟩ n cap xs hown.1 (by simpa using holds)
      have hr := run_append_grow_src (P := P) w t tx ty e i z ht hi hz (some ⟨g, 0, none⟩) n cap xs hold x m news hs (by omega) (by omega) (growslice_fits (by omega) hbytes)
      have hge := grownCap_ge w (n + m) cap e
      have hcm' : grownCap w (n + m) cap e ≤ maxLen := grownCap_le_maxLen w (n + m) cap e h63
      refine ⟨_, _, hr, ⟨hlen, .inr ⟨w.heap.size, _, _, rfl, hbase, heap_alloc_new w.drew _, hge, hcm', ?_, ?_⟩⟩, ⟨rfl, rfl, rfl, by simp, fun k hk _ => heap_alloc_old w.drew _ hk⟩⟩
      · simp only [Array.size_append, List.size_toArray, size_zeroCells, hzs, hlen, ← Nat.add_mul]
        congr 1
        omega
      · simp only [Array.toList_append]
        rw [← hlen]
        exact List.take_left

theorem wpList_append_any {P : Program} {w : World} {ops : Array Oper} {rest : List Oper} {o : Oper} {a : Act} {Q : Exit → Act → World → Prop} (hgd : o.guard = none) (s x : Operand) (t tx : TypeId)
    (ho : o.op = .call { callee := .builtin .append, args := #[s, x], argTypes := #[t, tx] })
    (base : Nat) (e : TypeId) (i : TypeInfo) (z : Value) (size bytes : Nat) (ht : P.underlying t = some (.slice e)) (hi : P.info? e = some i) (hz : i.zero = some z)
    (hsize : i.size = size) (hby : i.bytes = bytes) (hzs : z.cells.size = size) (hsz : 0 < size)
    (g n cap : Nat) (xs : List Value) (hs : a.eval s = .slice (some ⟨g, 0, none⟩) n cap) (hown : w.ownsRow base e size (.slice (some ⟨g, 0, none⟩) n cap) n xs)
    (u : Value) (m : Nat) (news : List Value) (hx : a.eval x = u) (hsrc : Src P size tx u m news w)
    (h63 : n + m ≤ maxLen) (hbytes : (n + m) * bytes ≤ 140737488355328) (hbase : base ≤ w.heap.size)
    (h : ∀ v' w', w'.ownsRow base e size v' (n + m) (xs ++ news) → w.grownBy w' (some g) → wpList P ops Q rest (a.put o.dst v') w') : wpList P ops Q (o :: rest) a w := by
  refine wpList_plain hgd fun K hK => ?_
  obtain ⟨v', w', hr, h2, h3⟩ := run_append_any (P := P) w base t tx o.type e i z size bytes ht hi hz hsize hby hzs hsz g n cap xs hown u m news hsrc h63 hbytes hbase
  unfold Oper.wp execOp
  simp only [ho, resolve, invoke, builtin, Sem.run_bind, Sem.run_pure, Result.andThen_ok, List.map_toArray, List.map_cons, List.map_nil, hs, hx, hr]
  exact hK _ _ (h v' w' h2 h3)

end Go.Proofs.YtbaijmkghgnleaaGreatDoor
