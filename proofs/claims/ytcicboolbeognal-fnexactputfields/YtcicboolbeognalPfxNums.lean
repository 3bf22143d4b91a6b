/- The bytes of a prefixed number, and what they mean; no program in it. -/
import Derived.Test.YtcicboolbeognalNums
import Derived.Laws.Bits128
namespace Go.Proofs.Ytcicboolbeognal
open Go.RowKit
set_option linter.unusedVariables false

set_option maxRecDepth 100000 in
theorem andNot_tab : ∀ B : Nat, B < 9 → ∀ F : Nat, F < 256 → bits .andNot .i64 (F : Int) ((2 ^ B - 1 : Nat) : Int) = ((F / 2 ^ B * 2 ^ B : Nat) : Int) := by decide +kernel

theorem or_join (q B n : Nat) (hn : n < 2 ^ B) (hq : q * 2 ^ B < 9223372036854775808) (hB : B ≤ 62) : bits .or .i64 ((q * 2 ^ B : Nat) : Int) (n : Int) = ((q * 2 ^ B + n : Nat) : Int) := by
  have h2 : 2 ^ B ≤ 2 ^ 62 := Nat.pow_le_pow_right (by decide) hB
  rw [i64_or_nat _ _ hq (by omega)]
  have := Nat.shiftLeft_add_eq_or_of_lt (b := n) (i := B) hn q
  rw [Nat.shiftLeft_eq] at this
  rw [← this]

theorem mask_form (B : Nat) (h1 : 1 ≤ B) (h8 : B ≤ 8) : wrap64 (wrap64 ((2 : Int) ^ B) - 1) = ((2 ^ B - 1 : Nat) : Int) := by
  have : B = 1 ∨ B = 2 ∨ B = 3 ∨ B = 4 ∨ B = 5 ∨ B = 6 ∨ B = 7 ∨ B = 8 := by omega
  rcases this with rfl | rfl | rfl | rfl | rfl | rfl | rfl | rfl <;> decide +kernel

theorem pow_small (B : Nat) (h1 : 1 ≤ B) (h8 : B ≤ 8) : 2 ≤ 2 ^ B ∧ 2 ^ B ≤ 256 := by
  have : B = 1 ∨ B = 2 ∨ B = 3 ∨ B = 4 ∨ B = 5 ∨ B = 6 ∨ B = 7 ∨ B = 8 := by omega
  rcases this with rfl | rfl | rfl | rfl | rfl | rfl | rfl | rfl <;> decide +kernel

/-- A group of seven bits with the mark that more follow. -/
theorem group_form (v : Nat) (hv : v ≤ 16777216) : bits .or .i64 (bits .and .i64 (v : Int) 127) 128 = ((v % 128 + 128 : Nat) : Int) := by
  have e : (v : Int) % 128 = ((v % 128 : Nat) : Int) := by omega
  have hc := or_join 1 7 (v % 128) (by omega) (by omega) (by omega)
  have e2 : bits .or .i64 ((v % 128 : Nat) : Int) 128 = bits .or .i64 (128 : Int) ((v % 128 : Nat) : Int) := by simp only [bits, BitVec.or_comm]
  rw [i64_and127, e, e2]
  have e3 : ((1 * 2 ^ 7 : Nat) : Int) = (128 : Int) := rfl
  rw [e3] at hc
  rw [hc]
  omega

/-- The groups of v, the lowest first; at most k of them. -/
def grp : Nat → Nat → List Int
  | 0, _ => []
  | k + 1, v => if 127 < v then ((v % 128 + 128 : Nat) : Int) :: grp k (v / 128) else [(v : Int)]

theorem grp_len (k : Nat) : ∀ v, (grp k v).length ≤ k := by
  induction k with
  | zero => intro v; simp [grp]
  | succ k ih =>
    intro v
    unfold grp
    split
    · have := ih (v / 128); simp; exact this
    · simp

theorem grp_range (k : Nat) : ∀ v, ∀ x ∈ grp k v, 0 ≤ x ∧ x ≤ 255 := by
  induction k with
  | zero => intro v x hx; simp [grp] at hx
  | succ k ih =>
    intro v x hx
    unfold grp at hx
    split at hx
    · rcases List.mem_cons.1 hx with rfl | hx
      · omega
      · exact ih _ x hx
    · obtain rfl : x = (v : Int) := by simpa using hx
      omega

/-- The bytes of n (up to 2^24) behind first, in a prefix of B bits. -/
def pfx (B F n : Nat) : List Int :=
  if n < 2 ^ B - 1 then [((F / 2 ^ B * 2 ^ B + n : Nat) : Int)] else ((F / 2 ^ B * 2 ^ B + (2 ^ B - 1) : Nat) : Int) :: grp 5 (n - (2 ^ B - 1))

theorem top_small (B F : Nat) (h1 : 1 ≤ B) (h8 : B ≤ 8) (hF : F ≤ 255) : F / 2 ^ B * 2 ^ B + (2 ^ B - 1) ≤ 255 := by
  have : B = 1 ∨ B = 2 ∨ B = 3 ∨ B = 4 ∨ B = 5 ∨ B = 6 ∨ B = 7 ∨ B = 8 := by omega
  rcases this with rfl | rfl | rfl | rfl | rfl | rfl | rfl | rfl <;> simp <;> omega

theorem pfx_range (B F n : Nat) (h1 : 1 ≤ B) (h8 : B ≤ 8) (hF : F ≤ 255) : ∀ x ∈ pfx B F n, 0 ≤ x ∧ x ≤ 255 := by
  intro x hx
  have ht := top_small B F h1 h8 hF
  unfold pfx at hx
  generalize F / 2 ^ B * 2 ^ B = f at *
  generalize 2 ^ B - 1 = m at *
  split at hx
  · have hx2 := List.mem_singleton.1 hx
    omega
  · rcases List.mem_cons.1 hx with rfl | hx
    · omega
    · exact grp_range _ _ x hx

theorem pfx_len (B F n : Nat) : (pfx B F n).length ≤ 6 := by
  unfold pfx
  split
  · simp
  · have := grp_len 5 (n - (2 ^ B - 1)); simp; omega

/-- What PutPrefix answers. -/
def putPfx (zs : List Int) (bits first n : Int) : List Int :=
  zs ++ (if 1 ≤ bits ∧ bits ≤ 8 ∧ 0 ≤ first ∧ first ≤ 255 then pfx bits.toNat first.toNat (min n 16777216).toNat else [])

end Go.Proofs.Ytcicboolbeognal
