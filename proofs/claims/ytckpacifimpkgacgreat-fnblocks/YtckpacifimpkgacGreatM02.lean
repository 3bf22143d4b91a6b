/- What GetPrefix reads: a number of a prefix and of groups behind it; no program in it. A prefixed number comes back of its bytes; cut by one byte it does not; no program in it. The table of the lengths of Huffman's code, and the codes as the specification makes them, step by step; no program in it. Bits of numbers and of texts in Huffman's code: a text has one list of bytes, a list of bytes at most one text; no program in it. Reading bits one by one: what stays when a bit is read, and when there is no text; no program in it. -/
import Derived.Test.YtckpacifimpkgacGreatM01
import Derived.WalkKit
namespace Go.Proofs.YtckpacifimpkgacGreat
open Go.RowKit
set_option linter.unusedVariables false

/-- The groups behind a full prefix: at most f of them, the next one's weight s, what is read so far n, the place p. -/
def gpf : Nat → List Int → Int → Int → Int → Int × Int × Bool
  | 0, _, _, _, _ => (0, 0, false)
  | _ + 1, [], _, _, _ => (0, 0, false)
  | f + 1, c :: r, s, n, p => if c < 128 then (if n + c % 128 * s ≤ 16777216 then (n + c % 128 * s, p + 1, true) else (0, 0, false)) else gpf f r (s * 128) (n + c % 128 * s) (p + 1)

/-- What GetPrefix answers. -/
def getPfx (zs : List Int) (at_ bits : Int) : Int × Int × Bool :=
  if 1 ≤ bits ∧ bits ≤ 8 ∧ 0 ≤ at_ ∧ at_ < (zs.length : Int) then
    (if zs.getD at_.toNat 0 % 2 ^ bits.toNat < 2 ^ bits.toNat - 1 then (zs.getD at_.toNat 0 % 2 ^ bits.toNat, at_ + 1, true) else gpf 4 (zs.drop (at_.toNat + 1)) 1 (2 ^ bits.toNat - 1) (at_ + 1))
  else (0, 0, false)

theorem gpf_step (f C n : Nat) (r : List Int) (S : Nat) (p : Int) : gpf (f + 1) ((C : Int) :: r) (S : Int) (n : Int) p =
    if C < 128 then (if n + C % 128 * S ≤ 16777216 then (((n + C % 128 * S : Nat) : Int), p + 1, true) else (0, 0, false)) else gpf f r ((S * 128 : Nat) : Int) ((n + C % 128 * S : Nat) : Int) (p + 1) := by
  have e : (n : Int) + (C : Int) % 128 * (S : Int) = ((n + C % 128 * S : Nat) : Int) := by
    rw [Int.natCast_add, Int.natCast_mul]
    have : ((C % 128 : Nat) : Int) = (C : Int) % 128 := by omega
    rw [this]
  have e2 : ((S * 128 : Nat) : Int) = (S : Int) * 128 := by omega
  rw [gpf, e, e2]
  by_cases hC : C < 128
  · rw [if_pos hC, if_pos (by omega)]
    by_cases hle : n + C % 128 * S ≤ 16777216
    · rw [if_pos hle, if_pos (by omega)]
    · rw [if_neg hle, if_neg (by omega)]
  · rw [if_neg hC, if_neg (by omega)]

theorem and_mod (x : Nat) (B : Nat) (hx : x ≤ 255) (hB : B ≤ 8) : bits .and .i64 (x : Int) ((2 ^ B - 1 : Nat) : Int) = ((x % 2 ^ B : Nat) : Int) := by
  have h2 : 2 ^ B ≤ 2 ^ 8 := Nat.pow_le_pow_right (by decide) hB
  rw [i64_and_nat x _ (by omega) (by omega), Nat.and_two_pow_sub_one_eq_mod]

end Go.Proofs.YtckpacifimpkgacGreat

namespace Go.Proofs.YtckpacifimpkgacGreat
open Go.RowKit
set_option linter.unusedVariables false

theorem gpf_nil (f : Nat) (s n p : Int) : gpf f [] s n p = (0, 0, false) := by cases f <;> rfl

theorem gpf_back (f : Nat) : ∀ (g v S n0 : Nat) (p : Int), 1 ≤ f → f ≤ g → v < 128 ^ f →
    gpf f (grp g v) (S : Int) (n0 : Int) p = if n0 + v * S ≤ 16777216 then (((n0 + v * S : Nat) : Int), p + ((grp g v).length : Int), true) else (0, 0, false) := by
  induction f with
  | zero => intro g v S n0 p h; omega
  | succ f ih =>
    intro g v S n0 p _ hg hv
    obtain ⟨g', rfl⟩ : ∃ g', g = g' + 1 := ⟨g - 1, by omega⟩
    by_cases h : 127 < v
    · have e : grp (g' + 1) v = ((v % 128 + 128 : Nat) : Int) :: grp g' (v / 128) := by rw [grp, if_pos h]
      have hf : 1 ≤ f := by
        rcases Nat.eq_zero_or_pos f with rfl | hf
        · simp at hv; omega
        · exact hf
      have hq : v / 128 < 128 ^ f := by rw [Nat.pow_succ] at hv; omega
      rw [e, gpf_step, if_neg (by omega), ih g' (v / 128) (S * 128) _ (p + 1) hf (by omega) hq]
      have hm : (v % 128 + 128) % 128 = v % 128 := by omega
      have hs : n0 + (v % 128 + 128) % 128 * S + v / 128 * (S * 128) = n0 + v * S := by
        rw [hm, Nat.add_assoc]
        have : v / 128 * (S * 128) = (v / 128 * 128) * S := by rw [Nat.mul_comm S 128, ← Nat.mul_assoc]
        rw [this, ← Nat.add_mul]
        have : v % 128 + v / 128 * 128 = v := by omega
        rw [this]
      rw [hs]
      have hp : p + 1 + ((grp g' (v / 128)).length : Int) = p + (((((v % 128 + 128 : Nat) : Int) :: grp g' (v / 128)).length : Nat) : Int) := by simp; omega
      rw [hp]
    · have e : grp (g' + 1) v = [(v : Int)] := by rw [grp, if_neg h]
      rw [e, gpf_step, if_pos (by omega), Nat.mod_eq_of_lt (by omega)]
      simp

theorem grp_ne (g v : Nat) (h : 1 ≤ g) : grp g v ≠ [] := by
  obtain ⟨g', rfl⟩ : ∃ g', g = g' + 1 := ⟨g - 1, by omega⟩
  rw [grp]; split <;> simp

theorem gpf_cut (f : Nat) : ∀ (g v S n0 : Nat) (p : Int), gpf f (grp g v).dropLast (S : Int) (n0 : Int) p = (0, 0, false) := by
  induction f with
  | zero => intro g v S n0 p; rfl
  | succ f ih =>
    intro g v S n0 p
    cases g with
    | zero => rfl
    | succ g' =>
      by_cases h : 127 < v
      · have e : grp (g' + 1) v = ((v % 128 + 128 : Nat) : Int) :: grp g' (v / 128) := by rw [grp, if_pos h]
        rw [e]
        cases g' with
        | zero => exact gpf_nil _ _ _ _
        | succ g2 =>
          rw [List.dropLast_cons_of_ne_nil (grp_ne (g2 + 1) (v / 128) (by omega)), gpf_step, if_neg (by omega)]
          exact ih _ _ _ _ _
      · have e : grp (g' + 1) v = [(v : Int)] := by rw [grp, if_neg h]
        rw [e]
        rfl

/-- The first byte of a prefixed number. -/
theorem pfx_head (zs : List Int) (B F n : Nat) : (zs ++ pfx B F n).getD zs.length 0 = ((F / 2 ^ B * 2 ^ B + min n (2 ^ B - 1) : Nat) : Int) := by
  unfold pfx
  generalize F / 2 ^ B * 2 ^ B = f
  generalize 2 ^ B - 1 = m
  split
  · rename_i h; simp [List.getD_eq_getElem?_getD]; omega
  · rename_i h; simp [List.getD_eq_getElem?_getD]; omega

theorem head_mod (B F k : Nat) (hB : 1 ≤ B) (hk : k < 2 ^ B) : (((F / 2 ^ B * 2 ^ B + k : Nat) : Int) % 2 ^ B = (k : Int)) := by
  have : ((2 : Int) ^ B) = ((2 ^ B : Nat) : Int) := by simp
  rw [this, ← Int.natCast_emod, Nat.mul_add_mod', Nat.mod_eq_of_lt hk]

theorem head_div (B F k : Nat) (hk : k < 2 ^ B) : (F / 2 ^ B * 2 ^ B + k) / 2 ^ B = F / 2 ^ B := by
  have h0 : 0 < 2 ^ B := by omega
  rw [Nat.add_comm, Nat.add_mul_div_right _ _ h0, Nat.div_eq_of_lt hk, Nat.zero_add]

theorem pfx_back (zs : List Int) (B F n : Nat) (h1 : 1 ≤ B) (h8 : B ≤ 8) (hn : n ≤ 16777216) :
    getPfx (zs ++ pfx B F n) (zs.length : Int) (B : Int) = ((n : Int), ((zs ++ pfx B F n).length : Int), true) := by
  obtain ⟨hp1, hp2⟩ := pow_small B h1 h8
  have hlen : 0 < (pfx B F n).length := by unfold pfx; split <;> simp
  have hpow : ((2 : Int) ^ B) = ((2 ^ B : Nat) : Int) := by simp
  rw [getPfx, if_pos ⟨by omega, by omega, by omega, by simp; omega⟩, Int.toNat_natCast, Int.toNat_natCast, pfx_head, head_mod B F _ h1 (by omega)]
  by_cases h : n < 2 ^ B - 1
  · rw [if_pos (by rw [hpow]; omega), Nat.min_eq_left (by omega)]
    have e : (pfx B F n).length = 1 := by unfold pfx; rw [if_pos h]; rfl
    simp [e]
  · rw [if_neg (by rw [hpow]; omega)]
    have e : pfx B F n = ((F / 2 ^ B * 2 ^ B + (2 ^ B - 1) : Nat) : Int) :: grp 5 (n - (2 ^ B - 1)) := by unfold pfx; rw [if_neg h]
    have ed : (zs ++ pfx B F n).drop (zs.length + 1) = grp 5 (n - (2 ^ B - 1)) := by
      rw [e, List.drop_append]; simp
    have em : ((2 : Int) ^ B - 1) = ((2 ^ B - 1 : Nat) : Int) := by rw [hpow]; omega
    have hb := gpf_back 4 5 (n - (2 ^ B - 1)) 1 (2 ^ B - 1) ((zs.length : Int) + 1) (by decide) (by decide) (by omega)
    rw [ed, em]
    have e1 : ((1 : Nat) : Int) = 1 := rfl
    rw [e1] at hb
    rw [hb]
    have es : 2 ^ B - 1 + (n - (2 ^ B - 1)) * 1 = n := by omega
    rw [es, if_pos hn, e]
    simp
    omega

theorem pfx_cut (zs : List Int) (B F n : Nat) (h1 : 1 ≤ B) (h8 : B ≤ 8) :
    getPfx ((zs ++ pfx B F n).take ((zs ++ pfx B F n).length - 1)) (zs.length : Int) (B : Int) = (0, 0, false) := by
  obtain ⟨hp1, hp2⟩ := pow_small B h1 h8
  have hpow : ((2 : Int) ^ B) = ((2 ^ B : Nat) : Int) := by simp
  rw [← List.dropLast_eq_take]
  by_cases h : n < 2 ^ B - 1
  · have e : pfx B F n = [((F / 2 ^ B * 2 ^ B + n : Nat) : Int)] := by unfold pfx; rw [if_pos h]
    rw [e, List.dropLast_concat, getPfx, if_neg (by omega)]
  · have e : pfx B F n = ((F / 2 ^ B * 2 ^ B + (2 ^ B - 1) : Nat) : Int) :: grp 5 (n - (2 ^ B - 1)) := by unfold pfx; rw [if_neg h]
    have ed : (zs ++ pfx B F n).dropLast = zs ++ (((F / 2 ^ B * 2 ^ B + (2 ^ B - 1) : Nat) : Int) :: (grp 5 (n - (2 ^ B - 1))).dropLast) := by
      rw [e, List.dropLast_append_of_ne_nil (by simp), List.dropLast_cons_of_ne_nil (grp_ne _ _ (by decide))]
    rw [ed, getPfx, if_pos ⟨by omega, by omega, by omega, by simp; omega⟩, Int.toNat_natCast, Int.toNat_natCast]
    have eh : (zs ++ (((F / 2 ^ B * 2 ^ B + (2 ^ B - 1) : Nat) : Int) :: (grp 5 (n - (2 ^ B - 1))).dropLast)).getD zs.length 0 = ((F / 2 ^ B * 2 ^ B + (2 ^ B - 1) : Nat) : Int) := by simp [List.getD_eq_getElem?_getD]
    rw [eh, head_mod B F _ h1 (by omega), if_neg (by rw [hpow]; omega)]
    have em : ((2 : Int) ^ B - 1) = ((2 ^ B - 1 : Nat) : Int) := by rw [hpow]; omega
    have edr : (zs ++ (((F / 2 ^ B * 2 ^ B + (2 ^ B - 1) : Nat) : Int) :: (grp 5 (n - (2 ^ B - 1))).dropLast)).drop (zs.length + 1) = (grp 5 (n - (2 ^ B - 1))).dropLast := by
      rw [List.drop_append]; simp
    rw [edr, em]
    exact gpf_cut 4 5 _ 1 _ _

end Go.Proofs.YtckpacifimpkgacGreat

namespace Go.Proofs.YtckpacifimpkgacGreat
open Go.RowKit
set_option linter.unusedVariables false

/-- The lengths of the codes of 0 .. 255, and of the end. -/
def lensI : List Int := [
  13, 23, 28, 28, 28, 28, 28, 28, 28, 24, 30, 28, 28, 30, 28, 28,
  28, 28, 28, 28, 28, 28, 30, 28, 28, 28, 28, 28, 28, 28, 28, 28,
  6, 10, 10, 12, 13, 6, 8, 11, 10, 10, 8, 11, 8, 6, 6, 6,
  5, 5, 5, 6, 6, 6, 6, 6, 6, 6, 7, 8, 15, 6, 12, 10,
  13, 6, 7, 7, 7, 7, 7, 7, 7, 7, 7, 7, 7, 7, 7, 7,
  7, 7, 7, 7, 7, 7, 7, 7, 8, 7, 8, 13, 19, 13, 14, 6,
  15, 5, 6, 5, 6, 5, 6, 6, 6, 5, 7, 7, 6, 6, 6, 5,
  6, 7, 6, 5, 5, 6, 7, 7, 7, 7, 7, 15, 11, 14, 13, 28,
  20, 22, 20, 20, 22, 22, 22, 23, 22, 23, 23, 23, 23, 23, 24, 23,
  24, 24, 22, 23, 24, 23, 23, 23, 23, 21, 22, 23, 22, 23, 23, 24,
  22, 21, 20, 22, 22, 23, 23, 21, 23, 22, 22, 24, 21, 22, 23, 23,
  21, 21, 22, 21, 23, 22, 23, 23, 20, 22, 22, 22, 23, 22, 22, 23,
  26, 26, 20, 19, 22, 23, 22, 25, 26, 26, 26, 27, 27, 26, 24, 25,
  19, 21, 26, 27, 27, 26, 27, 24, 21, 21, 26, 26, 28, 27, 27, 27,
  20, 24, 20, 21, 22, 21, 21, 23, 22, 22, 25, 25, 24, 24, 26, 23,
  26, 27, 26, 26, 27, 27, 27, 27, 27, 28, 27, 27, 27, 27, 27, 26,
  30]

/-- The codes. -/
def codesI : List Int := [
  8184, 8388568, 268435426, 268435427, 268435428, 268435429, 268435430, 268435431, 268435432, 16777194, 1073741820, 268435433, 268435434, 1073741821, 268435435, 268435436,
  268435437, 268435438, 268435439, 268435440, 268435441, 268435442, 1073741822, 268435443, 268435444, 268435445, 268435446, 268435447, 268435448, 268435449, 268435450, 268435451,
  20, 1016, 1017, 4090, 8185, 21, 248, 2042, 1018, 1019, 249, 2043, 250, 22, 23, 24,
  0, 1, 2, 25, 26, 27, 28, 29, 30, 31, 92, 251, 32764, 32, 4091, 1020,
  8186, 33, 93, 94, 95, 96, 97, 98, 99, 100, 101, 102, 103, 104, 105, 106,
  107, 108, 109, 110, 111, 112, 113, 114, 252, 115, 253, 8187, 524272, 8188, 16380, 34,
  32765, 3, 35, 4, 36, 5, 37, 38, 39, 6, 116, 117, 40, 41, 42, 7,
  43, 118, 44, 8, 9, 45, 119, 120, 121, 122, 123, 32766, 2044, 16381, 8189, 268435452,
  1048550, 4194258, 1048551, 1048552, 4194259, 4194260, 4194261, 8388569, 4194262, 8388570, 8388571, 8388572, 8388573, 8388574, 16777195, 8388575,
  16777196, 16777197, 4194263, 8388576, 16777198, 8388577, 8388578, 8388579, 8388580, 2097116, 4194264, 8388581, 4194265, 8388582, 8388583, 16777199,
  4194266, 2097117, 1048553, 4194267, 4194268, 8388584, 8388585, 2097118, 8388586, 4194269, 4194270, 16777200, 2097119, 4194271, 8388587, 8388588,
  2097120, 2097121, 4194272, 2097122, 8388589, 4194273, 8388590, 8388591, 1048554, 4194274, 4194275, 4194276, 8388592, 4194277, 4194278, 8388593,
  67108832, 67108833, 1048555, 524273, 4194279, 8388594, 4194280, 33554412, 67108834, 67108835, 67108836, 134217694, 134217695, 67108837, 16777201, 33554413,
  524274, 2097123, 67108838, 134217696, 134217697, 67108839, 134217698, 16777202, 2097124, 2097125, 67108840, 67108841, 268435453, 134217699, 134217700, 134217701,
  1048556, 16777203, 1048557, 2097126, 4194281, 2097127, 2097128, 8388595, 4194282, 4194283, 33554414, 33554415, 16777204, 16777205, 67108842, 8388596,
  67108843, 134217702, 67108844, 67108845, 134217703, 134217704, 134217705, 134217706, 134217707, 268435454, 134217708, 134217709, 134217710, 134217711, 134217712, 67108846,
  1073741823]

theorem lens_len : lensI.length = 257 := by decide +kernel
theorem codes_len : codesI.length = 257 := by decide +kernel

/-- What one symbol of length l does, where codes of length n are made: the last code, its length, the codes so far. -/
def cone (n l : Int) (i : Nat) (s : Int × Int × List Int) : Int × Int × List Int :=
  if l = n then
    (if 0 < s.2.1 then (wrap64 (wrap64 (s.1 + 1) * 2 ^ (n - s.2.1).toNat), n, s.2.2.set i (wrap64 (wrap64 (s.1 + 1) * 2 ^ (n - s.2.1).toNat))) else (s.1, n, s.2.2.set i s.1))
  else s

/-- All symbols of a list of lengths, the first of which has the number i. -/
def cin (n : Int) : List Int → Nat → Int × Int × List Int → Int × Int × List Int
  | [], _, s => s
  | l :: ls, i, s => cin n ls (i + 1) (cone n l i s)

theorem cin_snoc (n l : Int) (ls : List Int) : ∀ (i : Nat) (s : Int × Int × List Int), cin n (ls ++ [l]) i s = cone n l (i + ls.length) (cin n ls i s) := by
  induction ls with
  | nil => intro i s; rfl
  | cons a ls ih =>
    intro i s
    rw [List.cons_append, cin, ih, cin, List.length_cons]
    congr 1
    omega

theorem take_next (k : Nat) (hk : k < lensI.length) : lensI.take (k + 1) = lensI.take k ++ [lensI.getD k 0] := by
  rw [List.take_add_one]
  simp [List.getD_eq_getElem?_getD, hk]

/-- The codes of all lengths up to m. -/
def cout : Nat → Int × Int × List Int
  | 0 => (0, 0, List.replicate 257 0)
  | m + 1 => cin ((m + 1 : Nat) : Int) lensI 0 (cout m)

set_option maxRecDepth 100000 in
theorem codes_all : (cout 30).2.2 = codesI := by decide +kernel

theorem cone_len (n l : Int) (i : Nat) (s : Int × Int × List Int) : (cone n l i s).2.2.length = s.2.2.length := by
  unfold cone
  split
  · split <;> simp
  · rfl

theorem cone_last (n l : Int) (i : Nat) (s : Int × Int × List Int) (h0 : 0 ≤ s.2.1) (h1 : s.2.1 ≤ n) : 0 ≤ (cone n l i s).2.1 ∧ (cone n l i s).2.1 ≤ n := by
  unfold cone
  split
  · split <;> (dsimp only; omega)
  · exact ⟨h0, h1⟩

set_option maxRecDepth 100000 in
theorem lens_range : ∀ k : Nat, k < 257 → 5 ≤ lensI.getD k 0 ∧ lensI.getD k 0 ≤ 30 := by decide +kernel

set_option maxRecDepth 100000 in
theorem codes_range : ∀ k : Nat, k < 257 → 0 ≤ codesI.getD k 0 ∧ codesI.getD k 0 < 2 ^ (lensI.getD k 0).toNat := by decide +kernel

end Go.Proofs.YtckpacifimpkgacGreat

namespace Go.Proofs.YtckpacifimpkgacGreat
open Go.RowKit
set_option linter.unusedVariables false

/-- The lowest n bits of x, the highest first. -/
def bitsN : Nat → Nat → List Bool
  | 0, _ => []
  | n + 1, x => (x / 2 ^ n % 2 == 1) :: bitsN n x

theorem bitsN_len (n x : Nat) : (bitsN n x).length = n := by
  induction n with
  | zero => rfl
  | succ n ih => simp [bitsN, ih]

theorem bitsN_join (n m x y : Nat) (hy : y < 2 ^ m) : bitsN (n + m) (x * 2 ^ m + y) = bitsN n x ++ bitsN m y := by
  have hm : 0 < 2 ^ m := Nat.pow_pos (by decide)
  have low : ∀ k, k ≤ m → bitsN k (x * 2 ^ m + y) = bitsN k y := by
    intro k
    induction k with
    | zero => intro _; rfl
    | succ k ih =>
      intro hk
      have e : (x * 2 ^ m + y) / 2 ^ k % 2 = y / 2 ^ k % 2 := by
        obtain ⟨d, rfl⟩ : ∃ d, m = k + 1 + d := ⟨m - k - 1, by omega⟩
        have hk0 : 0 < 2 ^ k := Nat.pow_pos (by decide)
        have e1 : x * 2 ^ (k + 1 + d) + y = y + (x * 2 ^ d * 2) * 2 ^ k := by
          rw [Nat.pow_add, Nat.pow_succ, Nat.add_comm]
          congr 1
          rw [Nat.mul_comm (2 ^ k) 2, Nat.mul_assoc 2 (2 ^ k) (2 ^ d), Nat.mul_comm (2 ^ k) (2 ^ d), ← Nat.mul_assoc 2 (2 ^ d) (2 ^ k), ← Nat.mul_assoc x, ← Nat.mul_assoc x, Nat.mul_comm x 2, Nat.mul_assoc 2 x, Nat.mul_comm 2 (x * 2 ^ d)]
        rw [e1, Nat.add_mul_div_right _ _ hk0, Nat.add_mul_mod_self_right]
      rw [bitsN, bitsN, e, ih (by omega)]
  induction n with
  | zero => rw [Nat.zero_add, low m (Nat.le_refl _)]; rfl
  | succ n ih =>
    have e : (x * 2 ^ m + y) / 2 ^ (n + m) = x / 2 ^ n := by
      rw [Nat.add_comm n m, Nat.pow_add, ← Nat.div_div_eq_div_mul, Nat.add_comm (x * 2 ^ m), Nat.add_mul_div_right _ _ hm, Nat.div_eq_of_lt hy, Nat.zero_add]
    have e2 : n + 1 + m = n + m + 1 := by omega
    rw [e2, bitsN, bitsN, e, ih]
    rfl

theorem bits_val (n x : Nat) : ∀ a, (bitsN n x).foldl (fun a b => 2 * a + b.toNat) a = a * 2 ^ n + x % 2 ^ n := by
  induction n with
  | zero => intro a; simp [bitsN, Nat.mod_one]
  | succ n ih =>
    intro a
    rw [bitsN, List.foldl_cons, ih, Nat.mod_pow_succ]
    have hb : ((x / 2 ^ n % 2 == 1).toNat : Nat) = x / 2 ^ n % 2 := by
      have : x / 2 ^ n % 2 = 0 ∨ x / 2 ^ n % 2 = 1 := by omega
      rcases this with h | h <;> simp [h]
    rw [hb, Nat.pow_succ]
    generalize x / 2 ^ n % 2 = b
    generalize 2 ^ n = P
    rw [Nat.add_mul]
    have e1 : 2 * a * P = a * (P * 2) := by rw [Nat.mul_comm 2 a, Nat.mul_assoc, Nat.mul_comm 2 P]
    have e2 : b * P = P * b := Nat.mul_comm _ _
    omega

theorem bitsN_inj (n x y : Nat) (hx : x < 2 ^ n) (hy : y < 2 ^ n) (h : bitsN n x = bitsN n y) : x = y := by
  have h1 := bits_val n x 0
  have h2 := bits_val n y 0
  rw [h] at h1
  rw [h1, Nat.mod_eq_of_lt hx, Nat.mod_eq_of_lt hy] at h2
  omega

theorem bitsN_ones (n : Nat) : bitsN n (2 ^ n - 1) = List.replicate n true := by
  induction n with
  | zero => rfl
  | succ n ih =>
    have hp : 0 < 2 ^ n := Nat.pow_pos (by decide)
    have e : 2 ^ (n + 1) - 1 = 1 * 2 ^ n + (2 ^ n - 1) := by rw [Nat.pow_succ]; omega
    have hj := bitsN_join 1 n 1 (2 ^ n - 1) (by omega)
    rw [Nat.add_comm 1 n] at hj
    rw [e, hj, ih, List.replicate_succ]
    rfl

/-- A number whose bits are all 1. -/
theorem ones_of (n x : Nat) (hx : x < 2 ^ n) (h : bitsN n x = List.replicate n true) : x = 2 ^ n - 1 := by
  have hp : 0 < 2 ^ n := Nat.pow_pos (by decide)
  exact bitsN_inj n x _ hx (by omega) (h.trans (bitsN_ones n).symm)

/-- The length and the code of a byte. -/
def lenOf (c : UInt8) : Nat := (lensI.getD c.toNat 0).toNat
def codeOfB (c : UInt8) : Nat := (codesI.getD c.toNat 0).toNat

theorem lenOf_range (c : UInt8) : 5 ≤ lenOf c ∧ lenOf c ≤ 30 := by
  have hc : c.toNat < 256 := c.toNat_lt
  have := lens_range c.toNat (by omega)
  unfold lenOf
  omega

theorem codeOf_lt (c : UInt8) : codeOfB c < 2 ^ lenOf c := by
  have hc : c.toNat < 256 := c.toNat_lt
  have h := codes_range c.toNat (by omega)
  have h2 : (((2 : Nat) ^ lenOf c : Nat) : Int) = (2 : Int) ^ (lensI.getD c.toNat 0).toNat := by simp [lenOf]
  have h3 : (codesI.getD c.toNat 0) < ((2 ^ lenOf c : Nat) : Int) := by rw [h2]; exact h.2
  unfold codeOfB
  omega

def codeBits (c : UInt8) : List Bool := bitsN (lenOf c) (codeOfB c)
def textBits (l : List UInt8) : List Bool := l.flatMap codeBits

theorem textBits_snoc (l : List UInt8) (c : UInt8) : textBits (l ++ [c]) = textBits l ++ codeBits c := by simp [textBits]
theorem textBits_cons (c : UInt8) (l : List UInt8) : textBits (c :: l) = codeBits c ++ textBits l := by simp [textBits]

/-- Two codes, of which neither is the beginning of the other. -/
def apart (a b : Nat × Nat) : Bool := if a.1 ≤ b.1 then b.2 / 2 ^ (b.1 - a.1) != a.2 else a.2 / 2 ^ (a.1 - b.1) != b.2
def allApart : List (Nat × Nat) → Bool
  | [] => true
  | a :: r => r.all (apart a) && allApart r

def pairs : List (Nat × Nat) := (lensI.zip codesI).map fun p => (p.1.toNat, p.2.toNat)

set_option maxRecDepth 100000 in
theorem pairs_apart : allApart pairs = true := by decide +kernel

theorem apart_at (T : List (Nat × Nat)) (h : allApart T = true) : ∀ i j (hi : i < j) (hj : j < T.length), apart T[i] T[j] = true := by
  induction T with
  | nil => intro i j hi hj; simp at hj
  | cons a r ih =>
    intro i j hi hj
    rw [allApart, Bool.and_eq_true] at h
    obtain ⟨j', rfl⟩ : ∃ j', j = j' + 1 := ⟨j - 1, by omega⟩
    have hj' : j' < r.length := by simpa using hj
    cases i with
    | zero =>
      have := List.all_eq_true.1 h.1 r[j'] (List.getElem_mem hj')
      simpa using this
    | succ i' =>
      have := ih h.2 i' j' (by omega) hj'
      simpa using this

theorem pairs_len : pairs.length = 257 := by decide +kernel

theorem zip_at (A B : List Int) (i : Nat) (h1 : i < A.length) (h2 : i < B.length) (h : i < ((A.zip B).map fun p => (p.1.toNat, p.2.toNat)).length) : ((A.zip B).map fun p => (p.1.toNat, p.2.toNat))[i] = ((A.getD i 0).toNat, (B.getD i 0).toNat) := by
  simp [List.getD_eq_getElem?_getD, h1, h2]

theorem pairs_at (c : UInt8) (h : c.toNat < pairs.length) : pairs[c.toNat] = (lenOf c, codeOfB c) := by
  have hc : c.toNat < 256 := c.toNat_lt
  exact zip_at lensI codesI c.toNat (by rw [lens_len]; omega) (by rw [codes_len]; omega) h

theorem code_apart (a b : UInt8) (hne : a ≠ b) (hle : lenOf a ≤ lenOf b) : codeOfB b / 2 ^ (lenOf b - lenOf a) ≠ codeOfB a := by
  have ha : a.toNat < 256 := a.toNat_lt
  have hb : b.toNat < 256 := b.toNat_lt
  have hn : a.toNat ≠ b.toNat := fun e => hne (UInt8.toNat_inj.1 e)
  have hla : a.toNat < pairs.length := by rw [pairs_len]; omega
  have hlb : b.toNat < pairs.length := by rw [pairs_len]; omega
  rcases Nat.lt_or_gt_of_ne hn with h | h
  · have := apart_at pairs pairs_apart a.toNat b.toNat h hlb
    rw [pairs_at a hla, pairs_at b hlb, apart, if_pos hle] at this
    simpa using this
  · have := apart_at pairs pairs_apart b.toNat a.toNat h hla
    rw [pairs_at a hla, pairs_at b hlb, apart] at this
    by_cases he : lenOf b ≤ lenOf a
    · rw [if_pos he] at this
      have e : lenOf a = lenOf b := by omega
      dsimp only at this
      rw [e] at this ⊢
      simp at this ⊢
      exact fun x => this x.symm
    · rw [if_neg he] at this
      simpa using this

/-- No code is the beginning of another one. -/
theorem prefix_free (a b : UInt8) (h : codeBits a <+: codeBits b) : a = b := by
  by_cases hne : a = b
  · exact hne
  · exfalso
    have hlen : lenOf a ≤ lenOf b := by
      have := h.length_le
      simpa [codeBits, bitsN_len] using this
    have hp : 0 < 2 ^ (lenOf b - lenOf a) := Nat.pow_pos (by decide)
    have hlt : codeOfB b / 2 ^ (lenOf b - lenOf a) < 2 ^ lenOf a := by
      rw [Nat.div_lt_iff_lt_mul hp, ← Nat.pow_add]
      have e : lenOf a + (lenOf b - lenOf a) = lenOf b := by omega
      rw [e]
      exact codeOf_lt b
    have hj := bitsN_join (lenOf a) (lenOf b - lenOf a) (codeOfB b / 2 ^ (lenOf b - lenOf a)) (codeOfB b % 2 ^ (lenOf b - lenOf a)) (Nat.mod_lt _ hp)
    have e1 : codeOfB b / 2 ^ (lenOf b - lenOf a) * 2 ^ (lenOf b - lenOf a) + codeOfB b % 2 ^ (lenOf b - lenOf a) = codeOfB b := by rw [Nat.mul_comm]; exact Nat.div_add_mod _ _
    have e2 : lenOf a + (lenOf b - lenOf a) = lenOf b := by omega
    rw [e1, e2] at hj
    unfold codeBits at h
    rw [hj] at h
    have h2 := List.prefix_of_prefix_length_le h (List.prefix_append _ _) (by simp [bitsN_len])
    have h3 := h2.eq_of_length (by simp [bitsN_len])
    exact code_apart a b hne hlen (bitsN_inj _ _ _ hlt (codeOf_lt a) h3.symm)

/-- A list of bits that no code is the beginning of. -/
def Free (x : List Bool) : Prop := ∀ c, ¬ codeBits c <+: x

set_option maxRecDepth 100000 in
theorem ones_tab : ∀ k : Nat, k < 256 → (codesI.getD k 0).toNat ≠ 2 ^ (lensI.getD k 0).toNat - 1 := by decide +kernel

theorem free_ones (p : Nat) : Free (List.replicate p true) := by
  intro c h
  have h1 : codeBits c = List.replicate (lenOf c) true := by
    rw [List.prefix_replicate_iff] at h
    have := h.2
    rw [codeBits, bitsN_len] at this
    exact this
  have h2 := ones_of (lenOf c) (codeOfB c) (codeOf_lt c) h1
  exact ones_tab c.toNat c.toNat_lt h2

/-- Texts with something behind them that no code is the beginning of: they are the same text, and the same is behind them. -/
theorem sync (l : List UInt8) : ∀ (m : List UInt8) (x y : List Bool), Free x → Free y → textBits l ++ x = textBits m ++ y → l = m ∧ x = y := by
  induction l with
  | nil =>
    intro m x y hx hy h
    cases m with
    | nil => exact ⟨rfl, by simpa [textBits] using h⟩
    | cons d m =>
      exfalso
      refine hx d ⟨textBits m ++ y, ?_⟩
      rw [textBits_cons] at h
      simpa [textBits] using h.symm
  | cons c l ih =>
    intro m x y hx hy h
    cases m with
    | nil =>
      exfalso
      refine hy c ⟨textBits l ++ x, ?_⟩
      rw [textBits_cons] at h
      simpa [textBits] using h
    | cons d m =>
      rw [textBits_cons, textBits_cons, List.append_assoc, List.append_assoc] at h
      have hcd : c = d := by
        have p1 : codeBits c <+: codeBits d ++ (textBits m ++ y) := ⟨_, h⟩
        have p2 : codeBits d <+: codeBits d ++ (textBits m ++ y) := List.prefix_append _ _
        rcases Nat.le_total (codeBits c).length (codeBits d).length with hl | hl
        · exact prefix_free c d (List.prefix_of_prefix_length_le p1 p2 hl)
        · exact (prefix_free d c (List.prefix_of_prefix_length_le p2 p1 hl)).symm
      subst hcd
      obtain ⟨e1, e2⟩ := ih m x y hx hy (List.append_cancel_left h)
      exact ⟨by rw [e1], e2⟩

/-- All bits of a list of bytes. -/
def byteBits (o : List Int) : List Bool := o.flatMap fun x => bitsN 8 x.toNat

theorem byteBits_len (o : List Int) : (byteBits o).length = 8 * o.length := by
  induction o with
  | nil => rfl
  | cons x o ih => rw [byteBits, List.flatMap_cons, List.length_append, bitsN_len]; simp only [byteBits] at ih; rw [ih, List.length_cons]; omega

theorem byteBits_snoc (o : List Int) (x : Int) : byteBits (o ++ [x]) = byteBits o ++ bitsN 8 x.toNat := by simp [byteBits]

theorem byteBits_inj (o : List Int) : ∀ u : List Int, (∀ x ∈ o, 0 ≤ x ∧ x ≤ 255) → (∀ x ∈ u, 0 ≤ x ∧ x ≤ 255) → byteBits o = byteBits u → o = u := by
  induction o with
  | nil =>
    intro u _ _ h
    have := congrArg List.length h
    rw [byteBits_len, byteBits_len] at this
    cases u with
    | nil => rfl
    | cons _ _ => simp at this
  | cons x o ih =>
    intro u ho hu h
    cases u with
    | nil =>
      have := congrArg List.length h
      rw [byteBits_len, byteBits_len] at this
      simp at this
    | cons y u =>
      have hx := ho x (by simp)
      have hy := hu y (by simp)
      have h' : bitsN 8 x.toNat ++ byteBits o = bitsN 8 y.toNat ++ byteBits u := h
      obtain ⟨e1, e2⟩ := List.append_inj h' (by rw [bitsN_len, bitsN_len])
      have e3 := bitsN_inj 8 x.toNat y.toNat (by omega) (by omega) e1
      rw [ih u (fun z hz => ho z (by simp [hz])) (fun z hz => hu z (by simp [hz])) e2]
      congr 1
      omega

/-- These bytes are the code of this text: its bits, and at most seven bits 1 behind them. -/
def HuffOf (l : List UInt8) (o : List Int) : Prop := (∀ x ∈ o, 0 ≤ x ∧ x ≤ 255) ∧ ∃ p, p < 8 ∧ byteBits o = textBits l ++ List.replicate p true

theorem HuffOf.one {l : List UInt8} {o u : List Int} (h : HuffOf l o) (k : HuffOf l u) : o = u := by
  obtain ⟨h1, p, hp, e⟩ := h
  obtain ⟨k1, q, hq, f⟩ := k
  have le := congrArg List.length e
  have lf := congrArg List.length f
  rw [byteBits_len, List.length_append, List.length_replicate] at le lf
  have hpq : p = q := by omega
  subst hpq
  exact byteBits_inj o u h1 k1 (e.trans f.symm)

theorem HuffOf.text {l m : List UInt8} {o : List Int} (h : HuffOf l o) (k : HuffOf m o) : l = m := by
  obtain ⟨_, p, _, e⟩ := h
  obtain ⟨_, q, _, f⟩ := k
  exact (sync l m _ _ (free_ones p) (free_ones q) (e.symm.trans f)).1

/-- How many bits a text's code has. -/
def bitLen (l : List UInt8) : Nat := (textBits l).length
theorem bitLen_snoc (l : List UInt8) (c : UInt8) : bitLen (l ++ [c]) = bitLen l + lenOf c := by simp [bitLen, textBits_snoc, codeBits, bitsN_len]
theorem bitLen_le (l : List UInt8) : bitLen l ≤ 30 * l.length := by
  induction l with
  | nil => simp [bitLen, textBits]
  | cons c l ih =>
    have h := lenOf_range c
    have e : bitLen (c :: l) = lenOf c + bitLen l := by simp [bitLen, textBits_cons, codeBits, bitsN_len]
    rw [e, List.length_cons]
    omega

theorem HuffOf.len {l : List UInt8} {o : List Int} (h : HuffOf l o) : o.length = (bitLen l + 7) / 8 := by
  obtain ⟨_, p, hp, e⟩ := h
  have le := congrArg List.length e
  rw [byteBits_len, List.length_append, List.length_replicate] at le
  unfold bitLen
  omega

end Go.Proofs.YtckpacifimpkgacGreat

namespace Go.Proofs.YtckpacifimpkgacGreat
open Go.RowKit
set_option linter.unusedVariables false

theorem bitsN_get (n x : Nat) : ∀ i, i < n → (bitsN n x)[i]? = some (x / 2 ^ (n - 1 - i) % 2 == 1) := by
  induction n with
  | zero => intro i h; omega
  | succ n ih =>
    intro i h
    cases i with
    | zero => simp [bitsN]
    | succ i =>
      have e : n + 1 - 1 - (i + 1) = n - 1 - i := by omega
      rw [bitsN, List.getElem?_cons_succ, ih i (by omega), e]

theorem byteBits_get (zs : List Int) : ∀ i, i < 8 * zs.length → (byteBits zs)[i]? = some ((zs.getD (i / 8) 0).toNat / 2 ^ (7 - i % 8) % 2 == 1) := by
  induction zs with
  | nil => intro i h; simp at h
  | cons z zs ih =>
    intro i h
    have e : byteBits (z :: zs) = bitsN 8 z.toNat ++ byteBits zs := rfl
    rw [e]
    by_cases h8 : i < 8
    · rw [List.getElem?_append_left (by rw [bitsN_len]; exact h8), bitsN_get 8 _ i h8]
      have e1 : i / 8 = 0 := by omega
      have e2 : i % 8 = i := by omega
      have e3 : 8 - 1 - i = 7 - i := by omega
      rw [e1, e2, e3]
      rfl
    · rw [List.getElem?_append_right (by rw [bitsN_len]; omega), bitsN_len, ih (i - 8) (by rw [List.length_cons] at h; omega)]
      have e1 : i / 8 = (i - 8) / 8 + 1 := by omega
      have e2 : (i - 8) % 8 = i % 8 := by omega
      rw [e1, e2]
      simp

/-- The bit i of a list of bytes, as a number. -/
def bitAt (zs : List Int) (i : Nat) : Nat := (zs.getD (i / 8) 0).toNat / 2 ^ (7 - i % 8) % 2

theorem bitAt_le (zs : List Int) (i : Nat) : bitAt zs i ≤ 1 := by unfold bitAt; omega

theorem take_bit (zs : List Int) (i : Nat) (h : i < 8 * zs.length) : (byteBits zs).take (i + 1) = (byteBits zs).take i ++ bitsN 1 (bitAt zs i) := by
  rw [List.take_add_one, byteBits_get zs i h]
  congr 1
  simp [bitsN, bitAt]

theorem push_bit (N A b : Nat) (hb : b ≤ 1) : bitsN (N + 1) (A * 2 + b) = bitsN N A ++ bitsN 1 b := by
  have := bitsN_join N 1 A b (by omega)
  simpa using this

theorem free_nil : Free [] := by
  intro c h
  have h1 := h.length_le
  have h2 := lenOf_range c
  rw [codeBits, bitsN_len] at h1
  simp at h1
  omega

/-- Where no code is just these bits, none is their beginning. -/
theorem free_push (N A b : Nat) (hA : A * 2 + b < 2 ^ (N + 1)) (hb : b ≤ 1) (hf : Free (bitsN N A)) (hn : ∀ c : UInt8, ¬ (lenOf c = N + 1 ∧ codeOfB c = A * 2 + b)) : Free (bitsN (N + 1) (A * 2 + b)) := by
  intro c h
  have hl : lenOf c ≤ N + 1 := by
    have := h.length_le
    simpa [codeBits, bitsN_len] using this
  by_cases he : lenOf c = N + 1
  · have e := h.eq_of_length (by rw [codeBits, bitsN_len, bitsN_len, he])
    rw [codeBits, he] at e
    have hc := codeOf_lt c
    rw [he] at hc
    exact hn c ⟨he, bitsN_inj _ _ _ hc hA e⟩
  · rw [push_bit N A b hb] at h
    exact hf c (List.prefix_of_prefix_length_le h (List.prefix_append _ _) (by rw [codeBits, bitsN_len, bitsN_len]; omega))

/-- A free list of 30 bits stays free with one bit more. -/
theorem free_long (N A b : Nat) (hN : 30 ≤ N) (hb : b ≤ 1) (hf : Free (bitsN N A)) (r : List Bool) : Free (bitsN (N + 1) (A * 2 + b) ++ r) := by
  intro c h
  have hl := lenOf_range c
  rw [push_bit N A b hb, List.append_assoc] at h
  exact hf c (List.prefix_of_prefix_length_le h (List.prefix_append _ _) (by rw [codeBits, bitsN_len, bitsN_len]; omega))

theorem no_text (zs : List Int) (u : List UInt8) (x : List Bool) (hx : Free x) (he : byteBits zs = textBits u ++ x) (hn : ∀ p, p < 8 → x ≠ List.replicate p true) : ∀ l, ¬ HuffOf l zs := by
  rintro l ⟨_, p, hp, e⟩
  exact hn p hp (sync l u _ _ (free_ones p) hx (e.symm.trans he)).2.symm

theorem found (N A b : Nat) (c : UInt8) (h1 : lenOf c = N + 1) (h2 : codeOfB c = A * 2 + b) : bitsN (N + 1) (A * 2 + b) = codeBits c := by rw [codeBits, h1, h2]

end Go.Proofs.YtckpacifimpkgacGreat
