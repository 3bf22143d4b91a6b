/- A client that hears an answer stays right; what it asks is right: no statement of the program. -/
import Derived.Test.YtlalebaaabdihagDoorNums
import Derived.Test.YtlalebaaabdihagDoorClNs
namespace Go.Proofs.YtlalebaaabdihagDoor
open Go.RowKit

def crc1 (x : Nat) : Nat := if x % 2 = 1 then (x / 2) ^^^ 2197175160 else x / 2
def crcN : Nat → Nat → Nat
  | 0, x => x
  | n + 1, x => crc1 (crcN n x)
def crcL (l : List Int) : Nat := l.foldl (fun x b => crcN 8 (x ^^^ b.toNat)) 4294967295

theorem crc1_lt (x : Nat) (h : x < 4294967296) : crc1 x < 4294967296 := by
  unfold crc1
  split
  · have : x / 2 ^^^ 2197175160 < 2 ^ 32 := Nat.xor_lt_two_pow (by omega) (by omega)
    omega
  · omega
theorem crcN_lt (n x : Nat) (h : x < 4294967296) : crcN n x < 4294967296 := by
  induction n with
  | zero => exact h
  | succ n ih => exact crc1_lt _ ih
theorem xor_lt32 (a b : Nat) (ha : a < 4294967296) (hb : b < 4294967296) : a ^^^ b < 4294967296 := by
  have : a ^^^ b < 2 ^ 32 := Nat.xor_lt_two_pow (by omega) (by omega)
  omega
theorem crcL_snoc (l : List Int) (b : Int) : crcL (l ++ [b]) = crcN 8 (crcL l ^^^ b.toNat) := by simp [crcL, List.foldl_append]
theorem crcF_lt (l : List Int) : ∀ x, x < 4294967296 → (∀ n ∈ l, 0 ≤ n ∧ n ≤ 255) → l.foldl (fun x b => crcN 8 (x ^^^ b.toNat)) x < 4294967296 := by
  induction l with
  | nil => intro x hx _; simpa using hx
  | cons b l ih =>
    intro x hx h
    have hb := h b (by simp)
    rw [List.foldl_cons]
    exact ih _ (crcN_lt _ _ (xor_lt32 _ _ hx (by omega))) (fun n hn => h n (by simp [hn]))
theorem crcL_lt (l : List Int) (h : ∀ n ∈ l, 0 ≤ n ∧ n ≤ 255) : crcL l < 4294967296 := crcF_lt l _ (by omega) h
theorem take_snoc (zs : List Int) (j : Nat) (h : j < zs.length) : zs.take (j + 1) = zs.take j ++ [zs.getD j 0] := by
  rw [List.take_add_one, List.getD_eq_getElem?_getD, List.getElem?_eq_getElem h]
  rfl

theorem u32_xor_int (a : Nat) (b : Int) (ha : a < 4294967296) (hb : 0 ≤ b) (hb2 : b < 4294967296) : bits .xor .u32 (a : Int) b = ((a ^^^ b.toNat : Nat) : Int) := by
  obtain ⟨B, rfl⟩ := Int.eq_ofNat_of_zero_le hb
  rw [Int.toNat_natCast]
  exact u32_xor_nat a B ha (by omega)
theorem i64_xor_int (a : Nat) (b : Int) (ha : a < 4294967296) (hb : 0 ≤ b) (hb2 : b < 4294967296) : bits .xor .i64 (a : Int) b = ((a ^^^ b.toNat : Nat) : Int) := by
  obtain ⟨B, rfl⟩ := Int.eq_ofNat_of_zero_le hb
  rw [Int.toNat_natCast]
  exact i64_xor_nat a B (by omega) (by omega)
theorem u32_and1 (a : Nat) (ha : a < 4294967296) : bits .and .u32 (a : Int) 1 = (a : Int) % 2 := by
  have := u32_and_nat a 1 ha (by omega)
  rw [show ((1 : Nat) : Int) = 1 from rfl] at this
  rw [this, Nat.and_one_is_mod]
  omega
theorem i64_and1 (a : Nat) (ha : a < 4294967296) : bits .and .i64 (a : Int) 1 = (a : Int) % 2 := by
  have := i64_and_nat a 1 (by omega) (by omega)
  rw [show ((1 : Nat) : Int) = 1 from rfl] at this
  rw [this, Nat.and_one_is_mod]
  omega
theorem half_cast (a : Nat) : (a : Int) / 2 = ((a / 2 : Nat) : Int) := by omega
theorem u32_turn (a : Nat) (ha : a < 4294967296) : bits .xor .u32 ((a : Int) / 2) 2197175160 = ((a / 2 ^^^ 2197175160 : Nat) : Int) := by
  rw [half_cast]
  exact u32_xor_int (a / 2) 2197175160 (by omega) (by omega) (by omega)
theorem i64_turn (a : Nat) (ha : a < 4294967296) : bits .xor .i64 ((a : Int) / 2) 2197175160 = ((a / 2 ^^^ 2197175160 : Nat) : Int) := by
  rw [half_cast]
  exact i64_xor_int (a / 2) 2197175160 (by omega) (by omega) (by omega)

theorem u32_not (a : Nat) (ha : a < 4294967296) : bits .xor .u32 IntKind.u32.max (a : Int) = ((a ^^^ 4294967295 : Nat) : Int) := by
  have e : IntKind.u32.max = ((4294967295 : Nat) : Int) := by decide
  rw [e, u32_xor_nat _ _ (by omega) ha, Nat.xor_comm]

end Go.Proofs.YtlalebaaabdihagDoor

namespace Go.Proofs.YtlalebaaabdihagDoor
open Go.RowKit
set_option linter.unusedVariables false

/-- The next bytes of the file. -/
def pieceC (zs : List Int) (off : Int) : List Int := (zs.drop off.toNat).take 24
/-- How many these are. -/
def pieceK (n : Nat) (off : Int) : Nat := min 24 (n - off.toNat)

theorem pieceC_len {zs : List Int} {n : Nat} {off : Int} (h : zs.length = n) : (pieceC zs off).length = pieceK n off := by
  unfold pieceC pieceK
  rw [List.length_take, List.length_drop, h]

def askOp (id : ByteArray) (n : Nat) (st off : Int) : Int := if wayC id n st off = true then st else 0
def askI (id : ByteArray) (n : Nat) (st off : Int) : ByteArray := if wayC id n st off = true then id else ⟨#[]⟩
def askN (id : ByteArray) (n : Nat) (zs : List Int) (st off : Int) : Int := if wayC id n st off = true then (if st = 1 then (n : Int) else if st = 3 then off else if st = 4 then ((crcL zs ^^^ 4294967295 : Nat) : Int) else 0) else 0
def askK (id : ByteArray) (n : Nat) (st off : Int) : Nat := if wayC id n st off = true ∧ st = 3 then pieceK n off else 0
def askZ (id : ByteArray) (n : Nat) (zs : List Int) (st off : Int) : List Int := if wayC id n st off = true ∧ st = 3 then pieceC zs off else []

end Go.Proofs.YtlalebaaabdihagDoor

namespace Go.Proofs.YtlalebaaabdihagDoor
open Go.RowKit
set_option linter.unusedVariables false

theorem lookT_range (st q : Int) : ∀ (l : List (Int × Int × Int)), (∀ x ∈ l, 0 ≤ x.2.2 ∧ x.2.2 ≤ 6) → 0 ≤ lookT l st q ∧ lookT l st q ≤ 6
  | [], _ => by simp [lookT]
  | (a, b, c) :: l, h => by
    rw [lookT]
    split
    · exact h (a, b, c) (by simp)
    · exact lookT_range st q l fun x hx => h x (List.mem_cons_of_mem _ hx)

theorem nextC_range (st q : Int) : 0 ≤ nextC st q ∧ nextC st q ≤ 6 := lookT_range st q turnL (by decide)

theorem okC_hear {id : ByteArray} {n : Nat} {st off q r : Int} (h : okC id n st off = true) : okC id n (hearC id n st off q r).1 (hearC id n st off q r).2 = true := by
  obtain ⟨h1, h2, h3, h4⟩ := okC_iff.1 h
  unfold hearC
  split
  · unfold heardC
    split
    · unfold farC
      split
      · exact okC_iff.2 ⟨h1, h2, by show (1 : Int) ≤ 6 ∧ (6 : Int) ≤ 6; omega, h4⟩
      · split
        · exact okC_iff.2 ⟨h1, h2, by show (1 : Int) ≤ 4 ∧ (4 : Int) ≤ 6; omega, by show 0 ≤ r ∧ r ≤ (n : Int); omega⟩
        · exact okC_iff.2 ⟨h1, h2, by show (1 : Int) ≤ 3 ∧ (3 : Int) ≤ 6; omega, by show 0 ≤ r ∧ r ≤ (n : Int); omega⟩
    · rename_i hne
      have := nextC_range st q
      exact okC_iff.2 ⟨h1, h2, by show 1 ≤ nextC st q ∧ nextC st q ≤ 6; omega, h4⟩
  · exact h

theorem crc_bound (zs : List Int) (hz : ∀ x ∈ zs, 0 ≤ x ∧ x ≤ 255) : ((crcL zs ^^^ 4294967295 : Nat) : Int) ≤ 4294967295 := by
  have h := crcL_lt zs hz
  have : crcL zs ^^^ 4294967295 < 2 ^ 32 := Nat.xor_lt_two_pow (by omega) (by omega)
  omega

theorem reqB_next {id : ByteArray} {n : Nat} {zs : List Int} {st off : Int} (hz : ∀ x ∈ zs, 0 ≤ x ∧ x ≤ 255) (h : wayC id n st off = true) : reqB st id.data.toList (askN id n zs st off) = true := by
  have hk := okC_iff.1 (wayC_iff.1 h).1
  have hc := crc_bound zs hz
  rw [askN, if_pos h]
  rcases wayC_step h with rfl | rfl | rfl | rfl
  · simp [reqB, mostR, hk.1]
    omega
  · simp [reqB, mostR, hk.1]
  · simp [reqB, mostR, hk.1]
    omega
  · simp [reqB, mostR, hk.1]
    omega

end Go.Proofs.YtlalebaaabdihagDoor
