/- Reading bits one by one: what stays when a bit is read, and when there is no text; no program in it. -/
import Derived.Test.YtcicboolbeognalHufBits
namespace Go.Proofs.Ytcicboolbeognal
open Go.RowKit
set_option linter.unusedVariables false

theorem bitsN_get (n x : Nat) : ∀ i, i < n → (bitsN n x)[i]? = some (x / 2 ^ (n - 1 - i) % 2 == 1) := by
  induction n with
  | zero => intro i h; omega
  | succ n ih =>
    intro i h
    cases i with
    | zero => simp [bitsN]
    | succ i =>
      have e : n + 1 - 1 - (i + 1) = n - 1 - i := by omega
      rw [bitsN, List.getElem?_cons_succ, ih i (by omega), e]

theorem byteBits_get (zs : List Int) : ∀ i, i < 8 * zs.length → (byteBits zs)[i]? = some ((zs.getD (i / 8) 0).toNat / 2 ^ (7 - i % 8) % 2 == 1) := by
  induction zs with
  | nil => intro i h; simp at h
  | cons z zs ih =>
    intro i h
    have e : byteBits (z :: zs) = bitsN 8 z.toNat ++ byteBits zs := rfl
    rw [e]
    by_cases h8 : i < 8
    · rw [List.getElem?_append_left (by rw [bitsN_len]; exact h8), bitsN_get 8 _ i h8]
      have e1 : i / 8 = 0 := by omega
      have e2 : i % 8 = i := by omega
      have e3 : 8 - 1 - i = 7 - i := by omega
      rw [e1, e2, e3]
      rfl
    · rw [List.getElem?_append_right (by rw [bitsN_len]; omega), bitsN_len, ih (i - 8) (by rw [List.length_cons] at h; omega)]
      have e1 : i / 8 = (i - 8) / 8 + 1 := by omega
      have e2 : (i - 8) % 8 = i % 8 := by omega
      rw [e1, e2]
      simp

/-- The bit i of a list of bytes, as a number. -/
def bitAt (zs : List Int) (i : Nat) : Nat := (zs.getD (i / 8) 0).toNat / 2 ^ (7 - i % 8) % 2

theorem bitAt_le (zs : List Int) (i : Nat) : bitAt zs i ≤ 1 := by unfold bitAt; omega

theorem take_bit (zs : List Int) (i : Nat) (h : i < 8 * zs.length) : (byteBits zs).take (i + 1) = (byteBits zs).take i ++ bitsN 1 (bitAt zs i) := by
  rw [List.take_add_one, byteBits_get zs i h]
  congr 1
  simp [bitsN, bitAt]

theorem push_bit (N A b : Nat) (hb : b ≤ 1) : bitsN (N + 1) (A * 2 + b) = bitsN N A ++ bitsN 1 b := by
  have := bitsN_join N 1 A b (by omega)
  simpa using this

theorem free_nil : Free [] := by
  intro c h
  have h1 := h.length_le
  have h2 := lenOf_range c
  rw [codeBits, bitsN_len] at h1
  simp at h1
  omega

/-- Where no code is just these bits, none is their beginning. -/
theorem free_push (N A b : Nat) (hA : A * 2 + b < 2 ^ (N + 1)) (hb : b ≤ 1) (hf : Free (bitsN N A)) (hn : ∀ c : UInt8, ¬ (lenOf c = N + 1 ∧ codeOfB c = A * 2 + b)) : Free (bitsN (N + 1) (A * 2 + b)) := by
  intro c h
  have hl : lenOf c ≤ N + 1 := by
    have := h.length_le
    simpa [codeBits, bitsN_len] using this
  by_cases he : lenOf c = N + 1
  · have e := h.eq_of_length (by rw [codeBits, bitsN_len, bitsN_len, he])
    rw [codeBits, he] at e
    have hc := codeOf_lt c
    rw [he] at hc
    exact hn c ⟨he, bitsN_inj _ _ _ hc hA e⟩
  · rw [push_bit N A b hb] at h
    exact hf c (List.prefix_of_prefix_length_le h (List.prefix_append _ _) (by rw [codeBits, bitsN_len, bitsN_len]; omega))

/-- A free list of 30 bits stays free with one bit more. -/
theorem free_long (N A b : Nat) (hN : 30 ≤ N) (hb : b ≤ 1) (hf : Free (bitsN N A)) (r : List Bool) : Free (bitsN (N + 1) (A * 2 + b) ++ r) := by
  intro c h
  have hl := lenOf_range c
  rw [push_bit N A b hb, List.append_assoc] at h
  exact hf c (List.prefix_of_prefix_length_le h (List.prefix_append _ _) (by rw [codeBits, bitsN_len, bitsN_len]; omega))

theorem no_text (zs : List Int) (u : List UInt8) (x : List Bool) (hx : Free x) (he : byteBits zs = textBits u ++ x) (hn : ∀ p, p < 8 → x ≠ List.replicate p true) : ∀ l, ¬ HuffOf l zs := by
  rintro l ⟨_, p, hp, e⟩
  exact hn p hp (sync l u _ _ (free_ones p) hx (e.symm.trans he)).2.symm

theorem found (N A b : Nat) (c : UInt8) (h1 : lenOf c = N + 1) (h2 : codeOfB c = A * 2 + b) : bitsN (N + 1) (A * 2 + b) = codeBits c := by rw [codeBits, h1, h2]

end Go.Proofs.Ytcicboolbeognal
