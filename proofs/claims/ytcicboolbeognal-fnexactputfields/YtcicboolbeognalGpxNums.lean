/- What GetPrefix reads: a number of a prefix and of groups behind it; no program in it. -/
import Derived.Test.YtcicboolbeognalPfxNums
namespace Go.Proofs.Ytcicboolbeognal
open Go.RowKit
set_option linter.unusedVariables false

/-- The groups behind a full prefix: at most f of them, the next one's weight s, what is read so far n, the place p. -/
def gpf : Nat → List Int → Int → Int → Int → Int × Int × Bool
  | 0, _, _, _, _ => (0, 0, false)
  | _ + 1, [], _, _, _ => (0, 0, false)
  | f + 1, c :: r, s, n, p => if c < 128 then (if n + c % 128 * s ≤ 16777216 then (n + c % 128 * s, p + 1, true) else (0, 0, false)) else gpf f r (s * 128) (n + c % 128 * s) (p + 1)

/-- What GetPrefix answers. -/
def getPfx (zs : List Int) (at_ bits : Int) : Int × Int × Bool :=
  if 1 ≤ bits ∧ bits ≤ 8 ∧ 0 ≤ at_ ∧ at_ < (zs.length : Int) then
    (if zs.getD at_.toNat 0 % 2 ^ bits.toNat < 2 ^ bits.toNat - 1 then (zs.getD at_.toNat 0 % 2 ^ bits.toNat, at_ + 1, true) else gpf 4 (zs.drop (at_.toNat + 1)) 1 (2 ^ bits.toNat - 1) (at_ + 1))
  else (0, 0, false)

theorem gpf_step (f C n : Nat) (r : List Int) (S : Nat) (p : Int) : gpf (f + 1) ((C : Int) :: r) (S : Int) (n : Int) p =
    if C < 128 then (if n + C % 128 * S ≤ 16777216 then (((n + C % 128 * S : Nat) : Int), p + 1, true) else (0, 0, false)) else gpf f r ((S * 128 : Nat) : Int) ((n + C % 128 * S : Nat) : Int) (p + 1) := by
  have e : (n : Int) + (C : Int) % 128 * (S : Int) = ((n + C % 128 * S : Nat) : Int) := by
    rw [Int.natCast_add, Int.natCast_mul]
    have : ((C % 128 : Nat) : Int) = (C : Int) % 128 := by omega
    rw [this]
  have e2 : ((S * 128 : Nat) : Int) = (S : Int) * 128 := by omega
  rw [gpf, e, e2]
  by_cases hC : C < 128
  · rw [if_pos hC, if_pos (by omega)]
    by_cases hle : n + C % 128 * S ≤ 16777216
    · rw [if_pos hle, if_pos (by omega)]
    · rw [if_neg hle, if_neg (by omega)]
  · rw [if_neg hC, if_neg (by omega)]

theorem and_mod (x : Nat) (B : Nat) (hx : x ≤ 255) (hB : B ≤ 8) : bits .and .i64 (x : Int) ((2 ^ B - 1 : Nat) : Int) = ((x % 2 ^ B : Nat) : Int) := by
  have h2 : 2 ^ B ≤ 2 ^ 8 := Nat.pow_le_pow_right (by decide) hB
  rw [i64_and_nat x _ (by omega) (by omega), Nat.and_two_pow_sub_one_eq_mod]

end Go.Proofs.Ytcicboolbeognal
