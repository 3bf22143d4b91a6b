/- What GetPrefix reads: a number of a prefix and of groups behind it; no program in it. A prefixed number comes back of its bytes; cut by one byte it does not; no program in it. -/
import Derived.Test.YtghakpcagacdaacM01
namespace Go.Proofs.Ytghakpcagacdaac
open Go.RowKit
set_option linter.unusedVariables false

/-- The groups behind a full prefix: at most f of them, the next one's weight s, what is read so far n, the place p. -/
def gpf : Nat → List Int → Int → Int → Int → Int × Int × Bool
  | 0, _, _, _, _ => (0, 0, false)
  | _ + 1, [], _, _, _ => (0, 0, false)
  | f + 1, c :: r, s, n, p => if c < 128 then (if n + c % 128 * s ≤ 16777216 then (n + c % 128 * s, p + 1, true) else (0, 0, false)) else gpf f r (s * 128) (n + c % 128 * s) (p + 1)

/-- What GetPrefix answers. -/
def getPfx (zs : List Int) (at_ bits : Int) : Int × Int × Bool :=
  if 1 ≤ bits ∧ bits ≤ 8 ∧ 0 ≤ at_ ∧ at_ < (zs.length : Int) then
    (if zs.getD at_.toNat 0 % 2 ^ bits.toNat < 2 ^ bits.toNat - 1 then (zs.getD at_.toNat 0 % 2 ^ bits.toNat, at_ + 1, true) else gpf 4 (zs.drop (at_.toNat + 1)) 1 (2 ^ bits.toNat - 1) (at_ + 1))
  else (0, 0, false)

theorem gpf_step (f C n : Nat) (r : List Int) (S : Nat) (p : Int) : gpf (f + 1) ((C : Int) :: r) (S : Int) (n : Int) p =
    if C < 128 then (if n + C % 128 * S ≤ 16777216 then (((n + C % 128 * S : Nat) : Int), p + 1, true) else (0, 0, false)) else gpf f r ((S * 128 : Nat) : Int) ((n + C % 128 * S : Nat) : Int) (p + 1) := by
  have e : (n : Int) + (C : Int) % 128 * (S : Int) = ((n + C % 128 * S : Nat) : Int) := by
    rw [Int.natCast_add, Int.natCast_mul]
    have : ((C % 128 : Nat) : Int) = (C : Int) % 128 := by omega
    rw [this]
  have e2 : ((S * 128 : Nat) : Int) = (S : Int) * 128 := by omega
  rw [gpf, e, e2]
  by_cases hC : C < 128
  · rw [if_pos hC, if_pos (by omega)]
    by_cases hle : n + C % 128 * S ≤ 16777216
    · rw [if_pos hle, if_pos (by omega)]
    · rw [if_neg hle, if_neg (by omega)]
  · rw [if_neg hC, if_neg (by omega)]

theorem and_mod (x : Nat) (B : Nat) (hx : x ≤ 255) (hB : B ≤ 8) : bits .and .i64 (x : Int) ((2 ^ B - 1 : Nat) : Int) = ((x % 2 ^ B : Nat) : Int) := by
  have h2 : 2 ^ B ≤ 2 ^ 8 := Nat.pow_le_pow_right (by decide) hB
  rw [i64_and_nat x _ (by omega) (by omega), Nat.and_two_pow_sub_one_eq_mod]

end Go.Proofs.Ytghakpcagacdaac

namespace Go.Proofs.Ytghakpcagacdaac
open Go.RowKit
set_option linter.unusedVariables false

theorem gpf_nil (f : Nat) (s n p : Int) : gpf f [] s n p = (0, 0, false) := by cases f <;> rfl

theorem gpf_back (f : Nat) : ∀ (g v S n0 : Nat) (p : Int), 1 ≤ f → f ≤ g → v < 128 ^ f →
    gpf f (grp g v) (S : Int) (n0 : Int) p = if n0 + v * S ≤ 16777216 then (((n0 + v * S : Nat) : Int), p + ((grp g v).length : Int), true) else (0, 0, false) := by
  induction f with
  | zero => intro g v S n0 p h; omega
  | succ f ih =>
    intro g v S n0 p _ hg hv
    obtain ⟨g', rfl⟩ : ∃ g', g = g' + 1 := ⟨g - 1, by omega⟩
    by_cases h : 127 < v
    · have e : grp (g' + 1) v = ((v % 128 + 128 : Nat) : Int) :: grp g' (v / 128) := by rw [grp, if_pos h]
      have hf : 1 ≤ f := by
        rcases Nat.eq_zero_or_pos f with rfl | hf
        · simp at hv; omega
        · exact hf
      have hq : v / 128 < 128 ^ f := by rw [Nat.pow_succ] at hv; omega
      rw [e, gpf_step, if_neg (by omega), ih g' (v / 128) (S * 128) _ (p + 1) hf (by omega) hq]
      have hm : (v % 128 + 128) % 128 = v % 128 := by omega
      have hs : n0 + (v % 128 + 128) % 128 * S + v / 128 * (S * 128) = n0 + v * S := by
        rw [hm, Nat.add_assoc]
        have : v / 128 * (S * 128) = (v / 128 * 128) * S := by rw [Nat.mul_comm S 128, ← Nat.mul_assoc]
        rw [this, ← Nat.add_mul]
        have : v % 128 + v / 128 * 128 = v := by omega
        rw [this]
      rw [hs]
      have hp : p + 1 + ((grp g' (v / 128)).length : Int) = p + (((((v % 128 + 128 : Nat) : Int) :: grp g' (v / 128)).length : Nat) : Int) := by simp; omega
      rw [hp]
    · have e : grp (g' + 1) v = [(v : Int)] := by rw [grp, if_neg h]
      rw [e, gpf_step, if_pos (by omega), Nat.mod_eq_of_lt (by omega)]
      simp

theorem grp_ne (g v : Nat) (h : 1 ≤ g) : grp g v ≠ [] := by
  obtain ⟨g', rfl⟩ : ∃ g', g = g' + 1 := ⟨g - 1, by omega⟩
  rw [grp]; split <;> simp

theorem gpf_cut (f : Nat) : ∀ (g v S n0 : Nat) (p : Int), gpf f (grp g v).dropLast (S : Int) (n0 : Int) p = (0, 0, false) := by
  induction f with
  | zero => intro g v S n0 p; rfl
  | succ f ih =>
    intro g v S n0 p
    cases g with
    | zero => rfl
    | succ g' =>
      by_cases h : 127 < v
      · have e : grp (g' + 1) v = ((v % 128 + 128 : Nat) : Int) :: grp g' (v / 128) := by rw [grp, if_pos h]
        rw [e]
        cases g' with
        | zero => exact gpf_nil _ _ _ _
        | succ g2 =>
          rw [List.dropLast_cons_of_ne_nil (grp_ne (g2 + 1) (v / 128) (by omega)), gpf_step, if_neg (by omega)]
          exact ih _ _ _ _ _
      · have e : grp (g' + 1) v = [(v : Int)] := by rw [grp, if_neg h]
        rw [e]
        rfl

/-- The first byte of a prefixed number. -/
theorem pfx_head (zs : List Int) (B F n : Nat) : (zs ++ pfx B F n).getD zs.length 0 = ((F / 2 ^ B * 2 ^ B + min n (2 ^ B - 1) : Nat) : Int) := by
  unfold pfx
  generalize F / 2 ^ B * 2 ^ B = f
  generalize 2 ^ B - 1 = m
  split
  · rename_i h; simp [List.getD_eq_getElem?_getD]; omega
  · rename_i h; simp [List.getD_eq_getElem?_getD]; omega

theorem head_mod (B F k : Nat) (hB : 1 ≤ B) (hk : k < 2 ^ B) : (((F / 2 ^ B * 2 ^ B + k : Nat) : Int) % 2 ^ B = (k : Int)) := by
  have : ((2 : Int) ^ B) = ((2 ^ B : Nat) : Int) := by simp
  rw [this, ← Int.natCast_emod, Nat.mul_add_mod', Nat.mod_eq_of_lt hk]

theorem head_div (B F k : Nat) (hk : k < 2 ^ B) : (F / 2 ^ B * 2 ^ B + k) / 2 ^ B = F / 2 ^ B := by
  have h0 : 0 < 2 ^ B := by omega
  rw [Nat.add_comm, Nat.add_mul_div_right _ _ h0, Nat.div_eq_of_lt hk, Nat.zero_add]

theorem pfx_back (zs : List Int) (B F n : Nat) (h1 : 1 ≤ B) (h8 : B ≤ 8) (hn : n ≤ 16777216) :
    getPfx (zs ++ pfx B F n) (zs.length : Int) (B : Int) = ((n : Int), ((zs ++ pfx B F n).length : Int), true) := by
  obtain ⟨hp1, hp2⟩ := pow_small B h1 h8
  have hlen : 0 < (pfx B F n).length := by unfold pfx; split <;> simp
  have hpow : ((2 : Int) ^ B) = ((2 ^ B : Nat) : Int) := by simp
  rw [getPfx, if_pos ⟨by omega, by omega, by omega, by simp; omega⟩, Int.toNat_natCast, Int.toNat_natCast, pfx_head, head_mod B F _ h1 (by omega)]
  by_cases h : n < 2 ^ B - 1
  · rw [if_pos (by rw [hpow]; omega), Nat.min_eq_left (by omega)]
    have e : (pfx B F n).length = 1 := by unfold pfx; rw [if_pos h]; rfl
    simp [e]
  · rw [if_neg (by rw [hpow]; omega)]
    have e : pfx B F n = ((F / 2 ^ B * 2 ^ B + (2 ^ B - 1) : Nat) : Int) :: grp 5 (n - (2 ^ B - 1)) := by unfold pfx; rw [if_neg h]
    have ed : (zs ++ pfx B F n).drop (zs.length + 1) = grp 5 (n - (2 ^ B - 1)) := by
      rw [e, List.drop_append]; simp
    have em : ((2 : Int) ^ B - 1) = ((2 ^ B - 1 : Nat) : Int) := by rw [hpow]; omega
    have hb := gpf_back 4 5 (n - (2 ^ B - 1)) 1 (2 ^ B - 1) ((zs.length : Int) + 1) (by decide) (by decide) (by omega)
    rw [ed, em]
    have e1 : ((1 : Nat) : Int) = 1 := rfl
    rw [e1] at hb
    rw [hb]
    have es : 2 ^ B - 1 + (n - (2 ^ B - 1)) * 1 = n := by omega
    rw [es, if_pos hn, e]
    simp
    omega

theorem pfx_cut (zs : List Int) (B F n : Nat) (h1 : 1 ≤ B) (h8 : B ≤ 8) :
    getPfx ((zs ++ pfx B F n).take ((zs ++ pfx B F n).length - 1)) (zs.length : Int) (B : Int) = (0, 0, false) := by
  obtain ⟨hp1, hp2⟩ := pow_small B h1 h8
  have hpow : ((2 : Int) ^ B) = ((2 ^ B : Nat) : Int) := by simp
  rw [← List.dropLast_eq_take]
  by_cases h : n < 2 ^ B - 1
  · have e : pfx B F n = [((F / 2 ^ B * 2 ^ B + n : Nat) : Int)] := by unfold pfx; rw [if_pos h]
    rw [e, List.dropLast_concat, getPfx, if_neg (by omega)]
  · have e : pfx B F n = ((F / 2 ^ B * 2 ^ B + (2 ^ B - 1) : Nat) : Int) :: grp 5 (n - (2 ^ B - 1)) := by unfold pfx; rw [if_neg h]
    have ed : (zs ++ pfx B F n).dropLast = zs ++ (((F / 2 ^ B * 2 ^ B + (2 ^ B - 1) : Nat) : Int) :: (grp 5 (n - (2 ^ B - 1))).dropLast) := by
      rw [e, List.dropLast_append_of_ne_nil (by simp), List.dropLast_cons_of_ne_nil (grp_ne _ _ (by decide))]
    rw [ed, getPfx, if_pos ⟨by omega, by omega, by omega, by simp; omega⟩, Int.toNat_natCast, Int.toNat_natCast]
    have eh : (zs ++ (((F / 2 ^ B * 2 ^ B + (2 ^ B - 1) : Nat) : Int) :: (grp 5 (n - (2 ^ B - 1))).dropLast)).getD zs.length 0 = ((F / 2 ^ B * 2 ^ B + (2 ^ B - 1) : Nat) : Int) := by simp [List.getD_eq_getElem?_getD]
    rw [eh, head_mod B F _ h1 (by omega), if_neg (by rw [hpow]; omega)]
    have em : ((2 : Int) ^ B - 1) = ((2 ^ B - 1 : Nat) : Int) := by rw [hpow]; omega
    have edr : (zs ++ (((F / 2 ^ B * 2 ^ B + (2 ^ B - 1) : Nat) : Int) :: (grp 5 (n - (2 ^ B - 1))).dropLast)).drop (zs.length + 1) = (grp 5 (n - (2 ^ B - 1))).dropLast := by
      rw [List.drop_append]; simp
    rw [edr, em]
    exact gpf_cut 4 5 _ 1 _ _

end Go.Proofs.Ytghakpcagacdaac
