/- What groups behind a full prefix make, how many they are, and whether the last one is there; no program in it. -/
import Derived.Test.YtljhplddgcmmoabGpxNums
namespace Go.Proofs.Ytljhplddgcmmoab
open Go.RowKit
set_option linter.unusedVariables false

/-- The sum of at most f groups, the next one's weight S; how many they are; whether the last one is there. -/
def sg : Nat → List Int → Nat → Nat × Nat × Bool
  | 0, _, _ => (0, 0, false)
  | _ + 1, [], _ => (0, 0, false)
  | f + 1, c :: r, S => if c < 128 then (c.toNat % 128 * S, 1, true) else (c.toNat % 128 * S + (sg f r (S * 128)).1, (sg f r (S * 128)).2.1 + 1, (sg f r (S * 128)).2.2)

theorem sg_cons (f : Nat) (c : Int) (r : List Int) (S : Nat) : sg (f + 1) (c :: r) S = if c < 128 then (c.toNat % 128 * S, 1, true) else (c.toNat % 128 * S + (sg f r (S * 128)).1, (sg f r (S * 128)).2.1 + 1, (sg f r (S * 128)).2.2) := by rw [sg]

theorem gpf_sg (f : Nat) : ∀ (r : List Int) (S n0 : Nat) (p : Int), (∀ x ∈ r, 0 ≤ x) →
    gpf f r (S : Int) (n0 : Int) p = if (sg f r S).2.2 = true ∧ n0 + (sg f r S).1 ≤ 16777216 then (((n0 + (sg f r S).1 : Nat) : Int), p + ((sg f r S).2.1 : Int), true) else (0, 0, false) := by
  induction f with
  | zero => intro r S n0 p hr; simp [gpf, sg]
  | succ f ih =>
    intro r S n0 p hr
    cases r with
    | nil => simp [gpf, sg]
    | cons c r =>
      obtain ⟨C, rfl⟩ := Int.eq_ofNat_of_zero_le (hr c (by simp))
      rw [gpf_step]
      by_cases hC : C < 128
      · have e : sg (f + 1) ((C : Int) :: r) S = (C % 128 * S, 1, true) := by rw [sg, if_pos (by omega), Int.toNat_natCast]
        rw [if_pos hC, e]
        simp
      · have e : sg (f + 1) ((C : Int) :: r) S = (C % 128 * S + (sg f r (S * 128)).1, (sg f r (S * 128)).2.1 + 1, (sg f r (S * 128)).2.2) := by rw [sg, if_neg (by omega), Int.toNat_natCast]
        rw [if_neg hC, e, ih r (S * 128) _ (p + 1) (fun x hx => hr x (by simp [hx]))]
        have e1 : n0 + C % 128 * S + (sg f r (S * 128)).1 = n0 + (C % 128 * S + (sg f r (S * 128)).1) := by omega
        have e2 : p + 1 + ((sg f r (S * 128)).2.1 : Int) = p + (((sg f r (S * 128)).2.1 + 1 : Nat) : Int) := by omega
        rw [e1, e2]

/-- Behind k groups that others follow, which make A. -/
def Link (zs : List Int) (k A : Nat) : Prop :=
  sg 4 zs 1 = (A + (sg (4 - k) (zs.drop k) (128 ^ k)).1, k + (sg (4 - k) (zs.drop k) (128 ^ k)).2.1, (sg (4 - k) (zs.drop k) (128 ^ k)).2.2)

theorem link_start (zs : List Int) : Link zs 0 0 := by simp [Link]

theorem drop_at (zs : List Int) (k : Nat) (hk : k < zs.length) : zs.drop k = zs.getD k 0 :: zs.drop (k + 1) := by
  rw [List.drop_eq_getElem_cons hk]
  simp [List.getD_eq_getElem?_getD, hk]

theorem link_next (zs : List Int) (k A C : Nat) (hk : k < zs.length) (h4 : k < 4) (hC : zs.getD k 0 = (C : Int)) (h : 128 ≤ C) (hl : Link zs k A) : Link zs (k + 1) (A + C % 128 * 128 ^ k) := by
  unfold Link at *
  obtain ⟨j, hj⟩ : ∃ j, 4 - k = j + 1 := ⟨3 - k, by omega⟩
  rw [hj, drop_at zs k hk, hC, sg_cons, if_neg (by omega), Int.toNat_natCast] at hl
  have hj2 : 4 - (k + 1) = j := by omega
  rw [hj2, hl, Nat.pow_succ]
  simp only [Nat.add_assoc, Nat.add_comm 1]

theorem link_last (zs : List Int) (k A C : Nat) (hk : k < zs.length) (h4 : k < 4) (hC : zs.getD k 0 = (C : Int)) (h : C < 128) (hl : Link zs k A) : sg 4 zs 1 = (A + C % 128 * 128 ^ k, k + 1, true) := by
  unfold Link at hl
  obtain ⟨j, hj⟩ : ∃ j, 4 - k = j + 1 := ⟨3 - k, by omega⟩
  rw [hj, drop_at zs k hk, hC, sg_cons, if_pos (by omega), Int.toNat_natCast] at hl
  exact hl

theorem link_end (zs : List Int) (k A : Nat) (hk : k = min zs.length 4) (hl : Link zs k A) : (sg 4 zs 1).2.2 = false := by
  unfold Link at hl
  rw [hl]
  by_cases h4 : 4 ≤ zs.length
  · have : 4 - k = 0 := by omega
    rw [this]; rfl
  · have : zs.drop k = [] := List.drop_eq_nil_of_le (by omega)
    rw [this]
    cases 4 - k <;> rfl

theorem sum_bound (k A C : Nat) (hA : A < 128 ^ k) : A + C % 128 * 128 ^ k < 128 ^ (k + 1) := by
  rw [Nat.pow_succ]
  have h1 : C % 128 ≤ 127 := by omega
  have h2 : C % 128 * 128 ^ k ≤ 127 * 128 ^ k := Nat.mul_le_mul_right _ h1
  omega

theorem pow_four (k : Nat) (hk : k ≤ 4) : 128 ^ k ≤ 268435456 := by
  have : 128 ^ k ≤ 128 ^ 4 := Nat.pow_le_pow_right (by decide) hk
  simpa using this

/-- What the groups at the front make, as it is told: nothing, if the last one is not there. -/
def sumG (zs : List Int) : Int × Int × Bool := if (sg 4 zs 1).2.2 then (((sg 4 zs 1).1 : Int), ((sg 4 zs 1).2.1 : Int), true) else (0, 0, false)

theorem sg_small (f : Nat) : ∀ (r : List Int) (S : Nat), (sg f r S).1 + S ≤ 128 ^ f * S ∧ (sg f r S).2.1 ≤ f := by
  induction f with
  | zero => intro r S; simp [sg]
  | succ f ih =>
    intro r S
    have hp : 1 ≤ 128 ^ f := Nat.pow_pos (by decide)
    have hb : 128 ^ (f + 1) * S = 128 ^ f * S * 128 := by rw [Nat.pow_succ, Nat.mul_assoc, Nat.mul_assoc, Nat.mul_comm 128 S]
    have hS : S ≤ 128 ^ f * S := Nat.le_mul_of_pos_left S hp
    cases r with
    | nil => simp [sg]; omega
    | cons c r =>
      rw [sg, hb]
      have h1 : c.toNat % 128 * S ≤ 127 * S := Nat.mul_le_mul_right _ (by omega)
      split
      · dsimp only
        omega
      · obtain ⟨i1, i2⟩ := ih r (S * 128)
        have e : 128 ^ f * (S * 128) = 128 ^ f * S * 128 := by rw [Nat.mul_assoc]
        rw [e] at i1
        dsimp only
        omega

end Go.Proofs.Ytljhplddgcmmoab
