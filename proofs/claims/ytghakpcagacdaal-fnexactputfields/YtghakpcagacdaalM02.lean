/- What GetPrefix reads: a number of a prefix and of groups behind it; no program in it. A prefixed number comes back of its bytes; cut by one byte it does not; no program in it. The table of the lengths of Huffman's code, and the codes as the specification makes them, step by step; no program in it. -/
import Derived.Test.YtghakpcagacdaalM01
import Derived.WalkKit
namespace Go.Proofs.Ytghakpcagacdaal
open Go.RowKit
set_option linter.unusedVariables false

/-- The groups behind a full prefix: at most f of them, the next one's weight s, what is read so far n, the place p. -/
def gpf : Nat → List Int → Int → Int → Int → Int × Int × Bool
  | 0, _, _, _, _ => (0, 0, false)
  | _ + 1, [], _, _, _ => (0, 0, false)
  | f + 1, c :: r, s, n, p => if c < 128 then (if n + c % 128 * s ≤ 16777216 then (n + c % 128 * s, p + 1, true) else (0, 0, false)) else gpf f r (s * 128) (n + c % 128 * s) (p + 1)

/-- What GetPrefix answers. -/
def getPfx (zs : List Int) (at_ bits : Int) : Int × Int × Bool :=
  if 1 ≤ bits ∧ bits ≤ 8 ∧ 0 ≤ at_ ∧ at_ < (zs.length : Int) then
    (if zs.getD at_.toNat 0 % 2 ^ bits.toNat < 2 ^ bits.toNat - 1 then (zs.getD at_.toNat 0 % 2 ^ bits.toNat, at_ + 1, true) else gpf 4 (zs.drop (at_.toNat + 1)) 1 (2 ^ bits.toNat - 1) (at_ + 1))
  else (0, 0, false)

theorem gpf_step (f C n : Nat) (r : List Int) (S : Nat) (p : Int) : gpf (f + 1) ((C : Int) :: r) (S : Int) (n : Int) p =
    if C < 128 then (if n + C % 128 * S ≤ 16777216 then (((n + C % 128 * S : Nat) : Int), p + 1, true) else (0, 0, false)) else gpf f r ((S * 128 : Nat) : Int) ((n + C % 128 * S : Nat) : Int) (p + 1) := by
  have e : (n : Int) + (C : Int) % 128 * (S : Int) = ((n + C % 128 * S : Nat) : Int) := by
    rw [Int.natCast_add, Int.natCast_mul]
    have : ((C % 128 : Nat) : Int) = (C : Int) % 128 := by omega
    rw [this]
  have e2 : ((S * 128 : Nat) : Int) = (S : Int) * 128 := by omega
  rw [gpf, e, e2]
  by_cases hC : C < 128
  · rw [if_pos hC, if_pos (by omega)]
    by_cases hle : n + C % 128 * S ≤ 16777216
    · rw [if_pos hle, if_pos (by omega)]
    · rw [if_neg hle, if_neg (by omega)]
  · rw [if_neg hC, if_neg (by omega)]

theorem and_mod (x : Nat) (B : Nat) (hx : x ≤ 255) (hB : B ≤ 8) : bits .and .i64 (x : Int) ((2 ^ B - 1 : Nat) : Int) = ((x % 2 ^ B : Nat) : Int) := by
  have h2 : 2 ^ B ≤ 2 ^ 8 := Nat.pow_le_pow_right (by decide) hB
  rw [i64_and_nat x _ (by omega) (by omega), Nat.and_two_pow_sub_one_eq_mod]

end Go.Proofs.Ytghakpcagacdaal

namespace Go.Proofs.Ytghakpcagacdaal
open Go.RowKit
set_option linter.unusedVariables false

theorem gpf_nil (f : Nat) (s n p : Int) : gpf f [] s n p = (0, 0, false) := by cases f <;> rfl

theorem gpf_back (f : Nat) : ∀ (g v S n0 : Nat) (p : Int), 1 ≤ f → f ≤ g → v < 128 ^ f →
    gpf f (grp g v) (S : Int) (n0 : Int) p = if n0 + v * S ≤ 16777216 then (((n0 + v * S : Nat) : Int), p + ((grp g v).length : Int), true) else (0, 0, false) := by
  induction f with
  | zero => intro g v S n0 p h; omega
  | succ f ih =>
    intro g v S n0 p _ hg hv
    obtain ⟨g', rfl⟩ : ∃ g', g = g' + 1 := ⟨g - 1, by omega⟩
    by_cases h : 127 < v
    · have e : grp (g' + 1) v = ((v % 128 + 128 : Nat) : Int) :: grp g' (v / 128) := by rw [grp, if_pos h]
      have hf : 1 ≤ f := by
        rcases Nat.eq_zero_or_pos f with rfl | hf
        · simp at hv; omega
        · exact hf
      have hq : v / 128 < 128 ^ f := by rw [Nat.pow_succ] at hv; omega
      rw [e, gpf_step, if_neg (by omega), ih g' (v / 128) (S * 128) _ (p + 1) hf (by omega) hq]
      have hm : (v % 128 + 128) % 128 = v % 128 := by omega
      have hs : n0 + (v % 128 + 128) % 128 * S + v / 128 * (S * 128) = n0 + v * S := by
        rw [hm, Nat.add_assoc]
        have : v / 128 * (S * 128) = (v / 128 * 128) * S := by rw [Nat.mul_comm S 128, ← Nat.mul_assoc]
        rw [this, ← Nat.add_mul]
        have : v % 128 + v / 128 * 128 = v := by omega
        rw [this]
      rw [hs]
      have hp : p + 1 + ((grp g' (v / 128)).length : Int) = p + (((((v % 128 + 128 : Nat) : Int) :: grp g' (v / 128)).length : Nat) : Int) := by simp; omega
      rw [hp]
    · have e : grp (g' + 1) v = [(v : Int)] := by rw [grp, if_neg h]
      rw [e, gpf_step, if_pos (by omega), Nat.mod_eq_of_lt (by omega)]
      simp

theorem grp_ne (g v : Nat) (h : 1 ≤ g) : grp g v ≠ [] := by
  obtain ⟨g', rfl⟩ : ∃ g', g = g' + 1 := ⟨g - 1, by omega⟩
  rw [grp]; split <;> simp

theorem gpf_cut (f : Nat) : ∀ (g v S n0 : Nat) (p : Int), gpf f (grp g v).dropLast (S : Int) (n0 : Int) p = (0, 0, false) := by
  induction f with
  | zero => intro g v S n0 p; rfl
  | succ f ih =>
    intro g v S n0 p
    cases g with
    | zero => rfl
    | succ g' =>
      by_cases h : 127 < v
      · have e : grp (g' + 1) v = ((v % 128 + 128 : Nat) : Int) :: grp g' (v / 128) := by rw [grp, if_pos h]
        rw [e]
        cases g' with
        | zero => exact gpf_nil _ _ _ _
        | succ g2 =>
          rw [List.dropLast_cons_of_ne_nil (grp_ne (g2 + 1) (v / 128) (by omega)), gpf_step, if_neg (by omega)]
          exact ih _ _ _ _ _
      · have e : grp (g' + 1) v = [(v : Int)] := by rw [grp, if_neg h]
        rw [e]
        rfl

/-- The first byte of a prefixed number. -/
theorem pfx_head (zs : List Int) (B F n : Nat) : (zs ++ pfx B F n).getD zs.length 0 = ((F / 2 ^ B * 2 ^ B + min n (2 ^ B - 1) : Nat) : Int) := by
  unfold pfx
  generalize F / 2 ^ B * 2 ^ B = f
  generalize 2 ^ B - 1 = m
  split
  · rename_i h; simp [List.getD_eq_getElem?_getD]; omega
  · rename_i h; simp [List.getD_eq_getElem?_getD]; omega

theorem head_mod (B F k : Nat) (hB : 1 ≤ B) (hk : k < 2 ^ B) : (((F / 2 ^ B * 2 ^ B + k : Nat) : Int) % 2 ^ B = (k : Int)) := by
  have : ((2 : Int) ^ B) = ((2 ^ B : Nat) : Int) := by simp
  rw [this, ← Int.natCast_emod, Nat.mul_add_mod', Nat.mod_eq_of_lt hk]

theorem head_div (B F k : Nat) (hk : k < 2 ^ B) : (F / 2 ^ B * 2 ^ B + k) / 2 ^ B = F / 2 ^ B := by
  have h0 : 0 < 2 ^ B := by omega
  rw [Nat.add_comm, Nat.add_mul_div_right _ _ h0, Nat.div_eq_of_lt hk, Nat.zero_add]

theorem pfx_back (zs : List Int) (B F n : Nat) (h1 : 1 ≤ B) (h8 : B ≤ 8) (hn : n ≤ 16777216) :
    getPfx (zs ++ pfx B F n) (zs.length : Int) (B : Int) = ((n : Int), ((zs ++ pfx B F n).length : Int), true) := by
  obtain ⟨hp1, hp2⟩ := pow_small B h1 h8
  have hlen : 0 < (pfx B F n).length := by unfold pfx; split <;> simp
  have hpow : ((2 : Int) ^ B) = ((2 ^ B : Nat) : Int) := by simp
  rw [getPfx, if_pos ⟨by omega, by omega, by omega, by simp; omega⟩, Int.toNat_natCast, Int.toNat_natCast, pfx_head, head_mod B F _ h1 (by omega)]
  by_cases h : n < 2 ^ B - 1
  · rw [if_pos (by rw [hpow]; omega), Nat.min_eq_left (by omega)]
    have e : (pfx B F n).length = 1 := by unfold pfx; rw [if_pos h]; rfl
    simp [e]
  · rw [if_neg (by rw [hpow]; omega)]
    have e : pfx B F n = ((F / 2 ^ B * 2 ^ B + (2 ^ B - 1) : Nat) : Int) :: grp 5 (n - (2 ^ B - 1)) := by unfold pfx; rw [if_neg h]
    have ed : (zs ++ pfx B F n).drop (zs.length + 1) = grp 5 (n - (2 ^ B - 1)) := by
      rw [e, List.drop_append]; simp
    have em : ((2 : Int) ^ B - 1) = ((2 ^ B - 1 : Nat) : Int) := by rw [hpow]; omega
    have hb := gpf_back 4 5 (n - (2 ^ B - 1)) 1 (2 ^ B - 1) ((zs.length : Int) + 1) (by decide) (by decide) (by omega)
    rw [ed, em]
    have e1 : ((1 : Nat) : Int) = 1 := rfl
    rw [e1] at hb
    rw [hb]
    have es : 2 ^ B - 1 + (n - (2 ^ B - 1)) * 1 = n := by omega
    rw [es, if_pos hn, e]
    simp
    omega

theorem pfx_cut (zs : List Int) (B F n : Nat) (h1 : 1 ≤ B) (h8 : B ≤ 8) :
    getPfx ((zs ++ pfx B F n).take ((zs ++ pfx B F n).length - 1)) (zs.length : Int) (B : Int) = (0, 0, false) := by
  obtain ⟨hp1, hp2⟩ := pow_small B h1 h8
  have hpow : ((2 : Int) ^ B) = ((2 ^ B : Nat) : Int) := by simp
  rw [← List.dropLast_eq_take]
  by_cases h : n < 2 ^ B - 1
  · have e : pfx B F n = [((F / 2 ^ B * 2 ^ B + n : Nat) : Int)] := by unfold pfx; rw [if_pos h]
    rw [e, List.dropLast_concat, getPfx, if_neg (by omega)]
  · have e : pfx B F n = ((F / 2 ^ B * 2 ^ B + (2 ^ B - 1) : Nat) : Int) :: grp 5 (n - (2 ^ B - 1)) := by unfold pfx; rw [if_neg h]
    have ed : (zs ++ pfx B F n).dropLast = zs ++ (((F / 2 ^ B * 2 ^ B + (2 ^ B - 1) : Nat) : Int) :: (grp 5 (n - (2 ^ B - 1))).dropLast) := by
      rw [e, List.dropLast_append_of_ne_nil (by simp), List.dropLast_cons_of_ne_nil (grp_ne _ _ (by decide))]
    rw [ed, getPfx, if_pos ⟨by omega, by omega, by omega, by simp; omega⟩, Int.toNat_natCast, Int.toNat_natCast]
    have eh : (zs ++ (((F / 2 ^ B * 2 ^ B + (2 ^ B - 1) : Nat) : Int) :: (grp 5 (n - (2 ^ B - 1))).dropLast)).getD zs.length 0 = ((F / 2 ^ B * 2 ^ B + (2 ^ B - 1) : Nat) : Int) := by simp [List.getD_eq_getElem?_getD]
    rw [eh, head_mod B F _ h1 (by omega), if_neg (by rw [hpow]; omega)]
    have em : ((2 : Int) ^ B - 1) = ((2 ^ B - 1 : Nat) : Int) := by rw [hpow]; omega
    have edr : (zs ++ (((F / 2 ^ B * 2 ^ B + (2 ^ B - 1) : Nat) : Int) :: (grp 5 (n - (2 ^ B - 1))).dropLast)).drop (zs.length + 1) = (grp 5 (n - (2 ^ B - 1))).dropLast := by
      rw [List.drop_append]; simp
    rw [edr, em]
    exact gpf_cut 4 5 _ 1 _ _

end Go.Proofs.Ytghakpcagacdaal

namespace Go.Proofs.Ytghakpcagacdaal
open Go.RowKit
set_option linter.unusedVariables false

/-- The lengths of the codes of 0 .. 255, and of the end. -/
def lensI : List Int := [
  13, 23, 28, 28, 28, 28, 28, 28, 28, 24, 30, 28, 28, 30, 28, 28,
  28, 28, 28, 28, 28, 28, 30, 28, 28, 28, 28, 28, 28, 28, 28, 28,
  6, 10, 10, 12, 13, 6, 8, 11, 10, 10, 8, 11, 8, 6, 6, 6,
  5, 5, 5, 6, 6, 6, 6, 6, 6, 6, 7, 8, 15, 6, 12, 10,
  13, 6, 7, 7, 7, 7, 7, 7, 7, 7, 7, 7, 7, 7, 7, 7,
  7, 7, 7, 7, 7, 7, 7, 7, 8, 7, 8, 13, 19, 13, 14, 6,
  15, 5, 6, 5, 6, 5, 6, 6, 6, 5, 7, 7, 6, 6, 6, 5,
  6, 7, 6, 5, 5, 6, 7, 7, 7, 7, 7, 15, 11, 14, 13, 28,
  20, 22, 20, 20, 22, 22, 22, 23, 22, 23, 23, 23, 23, 23, 24, 23,
  24, 24, 22, 23, 24, 23, 23, 23, 23, 21, 22, 23, 22, 23, 23, 24,
  22, 21, 20, 22, 22, 23, 23, 21, 23, 22, 22, 24, 21, 22, 23, 23,
  21, 21, 22, 21, 23, 22, 23, 23, 20, 22, 22, 22, 23, 22, 22, 23,
  26, 26, 20, 19, 22, 23, 22, 25, 26, 26, 26, 27, 27, 26, 24, 25,
  19, 21, 26, 27, 27, 26, 27, 24, 21, 21, 26, 26, 28, 27, 27, 27,
  20, 24, 20, 21, 22, 21, 21, 23, 22, 22, 25, 25, 24, 24, 26, 23,
  26, 27, 26, 26, 27, 27, 27, 27, 27, 28, 27, 27, 27, 27, 27, 26,
  30]

/-- The codes. -/
def codesI : List Int := [
  8184, 8388568, 268435426, 268435427, 268435428, 268435429, 268435430, 268435431, 268435432, 16777194, 1073741820, 268435433, 268435434, 1073741821, 268435435, 268435436,
  268435437, 268435438, 268435439, 268435440, 268435441, 268435442, 1073741822, 268435443, 268435444, 268435445, 268435446, 268435447, 268435448, 268435449, 268435450, 268435451,
  20, 1016, 1017, 4090, 8185, 21, 248, 2042, 1018, 1019, 249, 2043, 250, 22, 23, 24,
  0, 1, 2, 25, 26, 27, 28, 29, 30, 31, 92, 251, 32764, 32, 4091, 1020,
  8186, 33, 93, 94, 95, 96, 97, 98, 99, 100, 101, 102, 103, 104, 105, 106,
  107, 108, 109, 110, 111, 112, 113, 114, 252, 115, 253, 8187, 524272, 8188, 16380, 34,
  32765, 3, 35, 4, 36, 5, 37, 38, 39, 6, 116, 117, 40, 41, 42, 7,
  43, 118, 44, 8, 9, 45, 119, 120, 121, 122, 123, 32766, 2044, 16381, 8189, 268435452,
  1048550, 4194258, 1048551, 1048552, 4194259, 4194260, 4194261, 8388569, 4194262, 8388570, 8388571, 8388572, 8388573, 8388574, 16777195, 8388575,
  16777196, 16777197, 4194263, 8388576, 16777198, 8388577, 8388578, 8388579, 8388580, 2097116, 4194264, 8388581, 4194265, 8388582, 8388583, 16777199,
  4194266, 2097117, 1048553, 4194267, 4194268, 8388584, 8388585, 2097118, 8388586, 4194269, 4194270, 16777200, 2097119, 4194271, 8388587, 8388588,
  2097120, 2097121, 4194272, 2097122, 8388589, 4194273, 8388590, 8388591, 1048554, 4194274, 4194275, 4194276, 8388592, 4194277, 4194278, 8388593,
  67108832, 67108833, 1048555, 524273, 4194279, 8388594, 4194280, 33554412, 67108834, 67108835, 67108836, 134217694, 134217695, 67108837, 16777201, 33554413,
  524274, 2097123, 67108838, 134217696, 134217697, 67108839, 134217698, 16777202, 2097124, 2097125, 67108840, 67108841, 268435453, 134217699, 134217700, 134217701,
  1048556, 16777203, 1048557, 2097126, 4194281, 2097127, 2097128, 8388595, 4194282, 4194283, 33554414, 33554415, 16777204, 16777205, 67108842, 8388596,
  67108843, 134217702, 67108844, 67108845, 134217703, 134217704, 134217705, 134217706, 134217707, 268435454, 134217708, 134217709, 134217710, 134217711, 134217712, 67108846,
  1073741823]

theorem lens_len : lensI.length = 257 := by decide +kernel
theorem codes_len : codesI.length = 257 := by decide +kernel

/-- What one symbol of length l does, where codes of length n are made: the last code, its length, the codes so far. -/
def cone (n l : Int) (i : Nat) (s : Int × Int × List Int) : Int × Int × List Int :=
  if l = n then
    (if 0 < s.2.1 then (wrap64 (wrap64 (s.1 + 1) * 2 ^ (n - s.2.1).toNat), n, s.2.2.set i (wrap64 (wrap64 (s.1 + 1) * 2 ^ (n - s.2.1).toNat))) else (s.1, n, s.2.2.set i s.1))
  else s

/-- All symbols of a list of lengths, the first of which has the number i. -/
def cin (n : Int) : List Int → Nat → Int × Int × List Int → Int × Int × List Int
  | [], _, s => s
  | l :: ls, i, s => cin n ls (i + 1) (cone n l i s)

theorem cin_snoc (n l : Int) (ls : List Int) : ∀ (i : Nat) (s : Int × Int × List Int), cin n (ls ++ [l]) i s = cone n l (i + ls.length) (cin n ls i s) := by
  induction ls with
  | nil => intro i s; rfl
  | cons a ls ih =>
    intro i s
    rw [List.cons_append, cin, ih, cin, List.length_cons]
    congr 1
    omega

theorem take_next (k : Nat) (hk : k < lensI.length) : lensI.take (k + 1) = lensI.take k ++ [lensI.getD k 0] := by
  rw [List.take_add_one]
  simp [List.getD_eq_getElem?_getD, hk]

/-- The codes of all lengths up to m. -/
def cout : Nat → Int × Int × List Int
  | 0 => (0, 0, List.replicate 257 0)
  | m + 1 => cin ((m + 1 : Nat) : Int) lensI 0 (cout m)

set_option maxRecDepth 100000 in
theorem codes_all : (cout 30).2.2 = codesI := by decide +kernel

theorem cone_len (n l : Int) (i : Nat) (s : Int × Int × List Int) : (cone n l i s).2.2.length = s.2.2.length := by
  unfold cone
  split
  · split <;> simp
  · rfl

theorem cone_last (n l : Int) (i : Nat) (s : Int × Int × List Int) (h0 : 0 ≤ s.2.1) (h1 : s.2.1 ≤ n) : 0 ≤ (cone n l i s).2.1 ∧ (cone n l i s).2.1 ≤ n := by
  unfold cone
  split
  · split <;> (dsimp only; omega)
  · exact ⟨h0, h1⟩

set_option maxRecDepth 100000 in
theorem lens_range : ∀ k : Nat, k < 257 → 5 ≤ lensI.getD k 0 ∧ lensI.getD k 0 ≤ 30 := by decide +kernel

set_option maxRecDepth 100000 in
theorem codes_range : ∀ k : Nat, k < 257 → 0 ≤ codesI.getD k 0 ∧ codesI.getD k 0 < 2 ^ (lensI.getD k 0).toNat := by decide +kernel

end Go.Proofs.Ytghakpcagacdaal
