/- Small facts on texts, words, rows and on the tables of Huffman's code; no program in it. -/
import Derived.Test.YtcicboolbeognalHufRead
import Derived.Test.YtcicboolbeognalNums
import Derived.Laws.Bits128
import Derived.Laws.IdiomStrings
import Derived.Laws.BytesArg
import Derived.Deep.QuietTactic
import Derived.BigQuiet
namespace Go.Proofs.Ytcicboolbeognal
open Go.RowKit
set_option linter.unusedVariables false

theorem str_len (s : ByteArray) : s.data.toList.length = s.size := Array.length_toList
theorem str_take_snoc (s : ByteArray) (k : Nat) (h : k < s.size) : s.data.toList.take (k + 1) = s.data.toList.take k ++ [s[k]] := by
  rw [List.take_succ_eq_append_getElem (by simpa using h)]; rfl

theorem or_joinH (q B n : Nat) (hn : n < 2 ^ B) (hq : q * 2 ^ B < 9223372036854775808) (hB : B ≤ 62) : bits .or .i64 ((q * 2 ^ B : Nat) : Int) (n : Int) = ((q * 2 ^ B + n : Nat) : Int) := by
  have h2 : 2 ^ B ≤ 2 ^ 62 := Nat.pow_le_pow_right (by decide) hB
  rw [i64_or_nat _ _ hq (by omega)]
  have := Nat.shiftLeft_add_eq_or_of_lt (b := n) (i := B) hn q
  rw [Nat.shiftLeft_eq] at this
  rw [← this]

theorem own_lower {w : World} {base b' n : Nat} {e : TypeId} {v : Value} {xs : List Value} (h : w.ownsRow base e 1 v n xs) (hb : b' ≤ base) : w.ownsRow b' e 1 v n xs := by
  refine ⟨h.1, ?_⟩
  rcases h.2 with h0 | ⟨g, cap, cur, he, hg, r⟩
  · exact .inl h0
  · exact .inr ⟨g, cap, cur, he, by omega, r⟩

theorem wrap64_small (n : Nat) (h : n < 9223372036854775808) : wrap64 (n : Int) = (n : Int) := by unfold wrap64; omega

theorem lens_at (c : UInt8) : lensI.getD c.toNat 0 = (lenOf c : Int) := by
  have hc : c.toNat < 256 := c.toNat_lt
  have := lens_range c.toNat (by omega)
  unfold lenOf
  omega
theorem codes_at (c : UInt8) : codesI.getD c.toNat 0 = (codeOfB c : Int) := by
  have hc : c.toNat < 256 := c.toNat_lt
  have := codes_range c.toNat (by omega)
  unfold codeOfB
  omega

set_option maxRecDepth 10000 in
theorem mask_big (B : Nat) (h : B ≤ 30) : wrap64 (wrap64 ((2 : Int) ^ B) - 1) = ((2 ^ B - 1 : Nat) : Int) := by
  have : ∀ B : Nat, B < 31 → wrap64 (wrap64 ((2 : Int) ^ B) - 1) = ((2 ^ B - 1 : Nat) : Int) := by decide +kernel
  exact this B (by omega)

/-- Bytes as whole numbers. -/
def asInts (u : List UInt8) : List Int := u.map fun c => (c.toNat : Int)

theorem asInts_snoc (u : List UInt8) (c : UInt8) : asInts (u ++ [c]) = asInts u ++ [(c.toNat : Int)] := by simp [asInts]

theorem text_long (u : List UInt8) : u.length ≤ (textBits u).length := by
  induction u with
  | nil => simp
  | cons c u ih =>
    have h := lenOf_range c
    rw [textBits_cons, List.length_append, codeBits, bitsN_len, List.length_cons]
    omega

/-- What CodeLen and CodeOf answer. -/
def lenAns (x : Int) : Int := if 0 ≤ x ∧ x ≤ 256 then lensI.getD x.toNat 0 else 0
def codeAns (x : Int) : Int := if 0 ≤ x ∧ x ≤ 256 then codesI.getD x.toNat 0 else 0

end Go.Proofs.Ytcicboolbeognal
