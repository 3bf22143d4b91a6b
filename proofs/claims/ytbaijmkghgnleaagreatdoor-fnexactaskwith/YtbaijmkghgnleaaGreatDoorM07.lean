/- The rows of the lengths, the codes and the symbols in the order of their codes, as the program makes them, step by step; no program in it. -/
import Derived.Test.YtbaijmkghgnleaaGreatDoorM03
namespace Go.Proofs.YtbaijmkghgnleaaGreatDoor
open Go.RowKit
set_option linter.unusedVariables false

/-- For each length 0 .. 30: how many codes it has, the least of them, how many codes are shorter. -/
def rowsI : List Int := [
  0, 0, 0, 0, 0, 0, 0, 0, 0, 0, 0, 0, 0, 0, 0, 10, 0, 0, 26, 20, 10, 32, 92, 36,
  6, 248, 68, 0, 508, 74, 5, 1016, 74, 3, 2042, 79, 2, 4090, 82, 6, 8184, 84, 2, 16380, 90, 3, 32764, 92,
  0, 65534, 95, 0, 131068, 95, 0, 262136, 95, 3, 524272, 95, 8, 1048550, 98, 13, 2097116, 106, 26, 4194258, 119, 29, 8388568, 145,
  12, 16777194, 174, 4, 33554412, 186, 15, 67108832, 190, 19, 134217694, 205, 29, 268435426, 224, 0, 536870910, 253, 4, 1073741820, 253]

/-- The symbols in the order of their codes. -/
def rankI : List Int := [
  48, 49, 50, 97, 99, 101, 105, 111, 115, 116, 32, 37, 45, 46, 47, 51, 52, 53, 54, 55, 56, 57, 61, 65,
  95, 98, 100, 102, 103, 104, 108, 109, 110, 112, 114, 117, 58, 66, 67, 68, 69, 70, 71, 72, 73, 74, 75, 76,
  77, 78, 79, 80, 81, 82, 83, 84, 85, 86, 87, 89, 106, 107, 113, 118, 119, 120, 121, 122, 38, 42, 44, 59,
  88, 90, 33, 34, 40, 41, 63, 39, 43, 124, 35, 62, 0, 36, 64, 91, 93, 126, 94, 125, 60, 96, 123, 92,
  195, 208, 128, 130, 131, 162, 184, 194, 224, 226, 153, 161, 167, 172, 176, 177, 179, 209, 216, 217, 227, 229, 230, 129,
  132, 133, 134, 136, 146, 154, 156, 160, 163, 164, 169, 170, 173, 178, 181, 185, 186, 187, 189, 190, 196, 198, 228, 232,
  233, 1, 135, 137, 138, 139, 140, 141, 143, 147, 149, 150, 151, 152, 155, 157, 158, 165, 166, 168, 174, 175, 180, 182,
  183, 188, 191, 197, 231, 239, 9, 142, 144, 145, 148, 159, 171, 206, 215, 225, 236, 237, 199, 207, 234, 235, 192, 193,
  200, 201, 202, 205, 210, 213, 218, 219, 238, 240, 242, 243, 255, 203, 204, 211, 212, 214, 221, 222, 223, 241, 244, 245,
  246, 247, 248, 250, 251, 252, 253, 254, 2, 3, 4, 5, 6, 7, 8, 11, 12, 14, 15, 16, 17, 18, 19, 20,
  21, 23, 24, 25, 26, 27, 28, 29, 30, 31, 127, 220, 249, 10, 13, 22, 256]

theorem rowsI_len : rowsI.length = 93 := by decide +kernel
theorem rankI_len : rankI.length = 257 := by decide +kernel

/-- One length more is counted. -/
def rone (l : Int) (R : List Int) : List Int := R.set (l.toNat * 3) (wrap64 (R.getD (l.toNat * 3) 0 + 1))
def rcnt : List Int → List Int → List Int
  | [], R => R
  | l :: ls, R => rcnt ls (rone l R)
theorem rcnt_snoc (l : Int) (ls : List Int) : ∀ R, rcnt (ls ++ [l]) R = rone l (rcnt ls R) := by
  induction ls with
  | nil => intro R; rfl
  | cons a ls ih => intro R; rw [List.cons_append, rcnt, ih, rcnt]
theorem rone_len (l : Int) (R : List Int) : (rone l R).length = R.length := by simp [rone]
theorem rcnt_len (ls : List Int) : ∀ R, (rcnt ls R).length = R.length := by
  induction ls with
  | nil => intro R; rfl
  | cons a ls ih => intro R; rw [rcnt, ih, rone_len]

/-- The row behind row m. -/
def rstep (m : Nat) (R : List Int) : List Int :=
  (R.set ((m + 1) * 3 + 1) (wrap64 (wrap64 (R.getD (m * 3 + 1) 0 + R.getD (m * 3) 0) * 2))).set ((m + 1) * 3 + 2) (wrap64 (R.getD (m * 3 + 2) 0 + R.getD (m * 3) 0))
def rmade : Nat → List Int
  | 0 => rcnt lensI (List.replicate 93 0)
  | m + 1 => rstep m (rmade m)
theorem rmade_len (m : Nat) : (rmade m).length = 93 := by
  induction m with
  | zero => rw [rmade, rcnt_len, List.length_replicate]
  | succ m ih => rw [rmade, rstep, List.length_set, List.length_set, ih]

set_option maxRecDepth 100000 in
theorem rows_all : rmade 30 = rowsI := by decide +kernel

/-- The rows and the codes, one symbol more. -/
def cstep (l : Int) (i : Nat) (s : List Int × List Int) : List Int × List Int :=
  (s.1.set (l.toNat * 3 + 1) (wrap64 (s.1.getD (l.toNat * 3 + 1) 0 + 1)), s.2.set i (s.1.getD (l.toNat * 3 + 1) 0))
def cmade : List Int → Nat → List Int × List Int → List Int × List Int
  | [], _, s => s
  | l :: ls, i, s => cmade ls (i + 1) (cstep l i s)
theorem cmade_snoc (l : Int) (ls : List Int) : ∀ (i : Nat) (s : List Int × List Int), cmade (ls ++ [l]) i s = cstep l (i + ls.length) (cmade ls i s) := by
  induction ls with
  | nil => intro i s; rfl
  | cons a ls ih =>
    intro i s
    rw [List.cons_append, cmade, ih, cmade, List.length_cons]
    congr 1
    omega
theorem cmade_len (ls : List Int) : ∀ (i : Nat) (s : List Int × List Int), (cmade ls i s).1.length = s.1.length ∧ (cmade ls i s).2.length = s.2.length := by
  induction ls with
  | nil => intro i s; exact ⟨rfl, rfl⟩
  | cons a ls ih =>
    intro i s
    rw [cmade]
    have := ih (i + 1) (cstep a i s)
    simpa [cstep] using this

set_option maxRecDepth 100000 in
theorem codes_made : (cmade lensI 0 (rowsI, List.replicate 257 0)).2 = codesI := by decide +kernel

/-- The rows and the symbols in their order, one symbol more. -/
def kstep (l : Int) (i : Nat) (s : List Int × List Int) : List Int × List Int :=
  (s.1.set (l.toNat * 3 + 2) (wrap64 (s.1.getD (l.toNat * 3 + 2) 0 + 1)), s.2.set (s.1.getD (l.toNat * 3 + 2) 0).toNat (i : Int))
def kmade : List Int → Nat → List Int × List Int → List Int × List Int
  | [], _, s => s
  | l :: ls, i, s => kmade ls (i + 1) (kstep l i s)
def kin : List Int → Nat → List Int × List Int → Bool
  | [], _, _ => true
  | l :: ls, i, s => decide (0 ≤ s.1.getD (l.toNat * 3 + 2) 0 ∧ s.1.getD (l.toNat * 3 + 2) 0 < 257) && kin ls (i + 1) (kstep l i s)
theorem kmade_snoc (l : Int) (ls : List Int) : ∀ (i : Nat) (s : List Int × List Int), kmade (ls ++ [l]) i s = kstep l (i + ls.length) (kmade ls i s) := by
  induction ls with
  | nil => intro i s; rfl
  | cons a ls ih =>
    intro i s
    rw [List.cons_append, kmade, ih, kmade, List.length_cons]
    congr 1
    omega
theorem kmade_len (ls : List Int) : ∀ (i : Nat) (s : List Int × List Int), (kmade ls i s).1.length = s.1.length ∧ (kmade ls i s).2.length = s.2.length := by
  induction ls with
  | nil => intro i s; exact ⟨rfl, rfl⟩
  | cons a ls ih =>
    intro i s
    rw [kmade]
    have := ih (i + 1) (kstep a i s)
    simpa [kstep] using this
theorem kin_at (l : Int) (bs : List Int) (ls : List Int) : ∀ (i : Nat) (s : List Int × List Int), kin (ls ++ l :: bs) i s = true → 0 ≤ (kmade ls i s).1.getD (l.toNat * 3 + 2) 0 ∧ (kmade ls i s).1.getD (l.toNat * 3 + 2) 0 < 257 := by
  induction ls with
  | nil =>
    intro i s h
    rw [List.nil_append, kin, Bool.and_eq_true] at h
    exact of_decide_eq_true h.1
  | cons a ls ih =>
    intro i s h
    rw [List.cons_append, kin, Bool.and_eq_true] at h
    exact ih _ _ h.2

set_option maxRecDepth 100000 in
theorem ranks_made : (kmade lensI 0 (rowsI, List.replicate 257 0)).2 = rankI := by decide +kernel
set_option maxRecDepth 100000 in
theorem ranks_in : kin lensI 0 (rowsI, List.replicate 257 0) = true := by decide +kernel

theorem lens_split (k : Nat) (hk : k < lensI.length) : lensI = lensI.take k ++ lensI.getD k 0 :: lensI.drop (k + 1) := by
  conv => lhs; rw [← List.take_append_drop k lensI, List.drop_eq_getElem_cons hk]
  simp [List.getD_eq_getElem?_getD, hk]

theorem rank_at (k : Nat) (hk : k < 257) : 0 ≤ (kmade (lensI.take k) 0 (rowsI, List.replicate 257 0)).1.getD ((lensI.getD k 0).toNat * 3 + 2) 0 ∧ (kmade (lensI.take k) 0 (rowsI, List.replicate 257 0)).1.getD ((lensI.getD k 0).toNat * 3 + 2) 0 < 257 := by
  have h := ranks_in
  rw [lens_split k (by rw [lens_len]; exact hk)] at h
  exact kin_at _ _ _ _ _ h

/-- The least code of n bits, how many there are, how many codes are shorter. -/
def firstN (n : Nat) : Nat := (rowsI.getD (n * 3 + 1) 0).toNat
def countN (n : Nat) : Nat := (rowsI.getD (n * 3) 0).toNat
def shortN (n : Nat) : Nat := (rowsI.getD (n * 3 + 2) 0).toNat

set_option maxRecDepth 100000 in
theorem rows_nat : ∀ k : Nat, k < 93 → 0 ≤ rowsI.getD k 0 ∧ rowsI.getD k 0 ≤ 1073741824 := by decide +kernel
set_option maxRecDepth 100000 in
theorem first_next : ∀ n : Nat, n < 30 → firstN (n + 1) = 2 * (firstN n + countN n) := by decide +kernel
theorem first_all : firstN 30 + countN 30 = 1073741824 := by decide +kernel
set_option maxRecDepth 100000 in
theorem rank_sym : ∀ n : Nat, n < 31 → ∀ j : Nat, j < countN n → shortN n + j < 257 ∧ 0 ≤ rankI.getD (shortN n + j) 0 ∧ rankI.getD (shortN n + j) 0 < 257 ∧ lensI.getD (rankI.getD (shortN n + j) 0).toNat 0 = (n : Int) ∧ codesI.getD (rankI.getD (shortN n + j) 0).toNat 0 = ((firstN n + j : Nat) : Int) := by decide +kernel
set_option maxRecDepth 100000 in
theorem codes_top : ∀ k : Nat, k < 257 → (codesI.getD k 0).toNat < firstN (lensI.getD k 0).toNat + countN (lensI.getD k 0).toNat := by decide +kernel

end Go.Proofs.YtbaijmkghgnleaaGreatDoor
