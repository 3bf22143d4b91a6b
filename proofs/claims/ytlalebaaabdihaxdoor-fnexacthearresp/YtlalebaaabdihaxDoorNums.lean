/- Plain arithmetic of bytes and bits: numbers out of bytes, the bits of small numbers; no program in it. -/
import Derived.WalkKit
import Derived.Laws.BitsAllLaws
namespace Go.Proofs.YtlalebaaabdihaxDoor
open Go.RowKit

theorem wrap_i64_small (n : Nat) (h : n < 9223372036854775808) : IntKind.i64.wrap (n : Int) = (n : Int) := by
  simp [IntKind.wrap, IntKind.bits, IntKind.signed]
  omega

theorem ofInt64 (a : Nat) (ha : a < 18446744073709551616) : (BitVec.ofInt 64 (a : Int)).toNat = a := by
  rw [BitVec.ofInt_natCast, BitVec.toNat_ofNat]; exact Nat.mod_eq_of_lt (by omega)

theorem i64_or_nat (a b : Nat) (ha : a < 9223372036854775808) (hb : b < 9223372036854775808) : bits .or .i64 (a : Int) (b : Int) = ((a ||| b : Nat) : Int) := by
  have hx : a ||| b < 2 ^ 63 := Nat.or_lt_two_pow (by omega) (by omega)
  show IntKind.i64.wrap ((BitVec.ofInt 64 (a : Int) ||| BitVec.ofInt 64 (b : Int)).toNat : Int) = _
  rw [BitVec.toNat_or, ofInt64 a (by omega), ofInt64 b (by omega), wrap_i64_small _ (by omega)]

theorem i64_xor_nat (a b : Nat) (ha : a < 9223372036854775808) (hb : b < 9223372036854775808) : bits .xor .i64 (a : Int) (b : Int) = ((a ^^^ b : Nat) : Int) := by
  have hx : a ^^^ b < 2 ^ 63 := Nat.xor_lt_two_pow (by omega) (by omega)
  show IntKind.i64.wrap ((BitVec.ofInt 64 (a : Int) ^^^ BitVec.ofInt 64 (b : Int)).toNat : Int) = _
  rw [BitVec.toNat_xor, ofInt64 a (by omega), ofInt64 b (by omega), wrap_i64_small _ (by omega)]

theorem i64_and_nat (a b : Nat) (ha : a < 9223372036854775808) (hb : b < 9223372036854775808) : bits .and .i64 (a : Int) (b : Int) = ((a &&& b : Nat) : Int) := by
  have hx : a &&& b < 2 ^ 63 := Nat.and_lt_two_pow _ (by omega)
  show IntKind.i64.wrap ((BitVec.ofInt 64 (a : Int) &&& BitVec.ofInt 64 (b : Int)).toNat : Int) = _
  rw [BitVec.toNat_and, ofInt64 a (by omega), ofInt64 b (by omega), wrap_i64_small _ (by omega)]

/-- A number joined with a byte in its lowest eight bits. -/
theorem join8 (m x : Int) (h0 : 0 ≤ m) (h1 : m < 36028797018963968) (h2 : 0 ≤ x) (h3 : x ≤ 255) : bits .or .i64 (m * 256) x = m * 256 + x := by
  obtain ⟨a, rfl⟩ := Int.eq_ofNat_of_zero_le h0
  obtain ⟨b, rfl⟩ := Int.eq_ofNat_of_zero_le h2
  have e : ((a : Int) * 256) = ((a * 256 : Nat) : Int) := by omega
  rw [e, i64_or_nat _ _ (by omega) (by omega)]
  have := Nat.shiftLeft_add_eq_or_of_lt (b := b) (i := 8) (by omega) a
  rw [Nat.shiftLeft_eq] at this
  rw [show a * 256 = a * 2 ^ 8 from rfl, ← this]
  omega

/-- The number that bytes make, the highest first. -/
def gb (l : List Int) : Int := l.foldl (fun m x => m * 256 + x) 0

theorem gb_snoc (l : List Int) (x : Int) : gb (l ++ [x]) = gb l * 256 + x := by simp [gb, List.foldl_append]

theorem fold_bound (l : List Int) : ∀ (m : Int) (M : Nat), 0 ≤ m → m < (M : Int) → (∀ n ∈ l, 0 ≤ n ∧ n ≤ 255) → 0 ≤ l.foldl (fun m x => m * 256 + x) m ∧ l.foldl (fun m x => m * 256 + x) m < ((M * 256 ^ l.length : Nat) : Int) := by
  induction l with
  | nil => intro m M h0 h1 _; simpa using ⟨h0, h1⟩
  | cons x l ih =>
    intro m M h0 h1 h
    have h2 := h x (by simp)
    have h3 := ih (m * 256 + x) (M * 256) (by omega) (by omega) (fun n hn => h n (by simp [hn]))
    rw [List.foldl_cons, List.length_cons, Nat.pow_succ]
    rw [show M * (256 ^ l.length * 256) = M * 256 * 256 ^ l.length from by rw [Nat.mul_comm (256 ^ l.length) 256, Nat.mul_assoc]]
    exact h3

theorem gb_bound (l : List Int) (h : ∀ n ∈ l, 0 ≤ n ∧ n ≤ 255) : 0 ≤ gb l ∧ gb l < ((256 ^ l.length : Nat) : Int) := by
  have e := fold_bound l 0 1 (by omega) (by omega) h
  rw [Nat.one_mul] at e
  exact e

theorem drop_take_snoc (zs : List Int) (at_ j : Nat) (h : at_ + j < zs.length) : (zs.drop at_).take (j + 1) = (zs.drop at_).take j ++ [zs.getD (at_ + j) 0] := by
  rw [List.take_add_one, List.getElem?_drop, List.getD_eq_getElem?_getD, List.getElem?_eq_getElem h]
  rfl

theorem gb_part_bound (zs : List Int) (at_ j : Nat) (h : ∀ n ∈ zs, 0 ≤ n ∧ n ≤ 255) (hj : j ≤ 7) : 0 ≤ gb ((zs.drop at_).take j) ∧ gb ((zs.drop at_).take j) < 72057594037927936 := by
  have h1 := gb_bound ((zs.drop at_).take j) (fun n hn => h n (List.mem_of_mem_drop (List.mem_of_mem_take hn)))
  have h2 : ((zs.drop at_).take j).length ≤ 7 := by simp; omega
  have h3 : 256 ^ ((zs.drop at_).take j).length ≤ 256 ^ 7 := Nat.pow_le_pow_right (by decide) h2
  have h4 : 256 ^ 7 = 72057594037927936 := by decide
  omega

theorem gb_part_small (zs : List Int) (at_ j : Nat) (h : ∀ n ∈ zs, 0 ≤ n ∧ n ≤ 255) (hj : j ≤ 6) : gb ((zs.drop at_).take j) < 281474976710656 := by
  have h1 := gb_bound ((zs.drop at_).take j) (fun n hn => h n (List.mem_of_mem_drop (List.mem_of_mem_take hn)))
  have h2 : ((zs.drop at_).take j).length ≤ 6 := by simp; omega
  have h3 : 256 ^ ((zs.drop at_).take j).length ≤ 256 ^ 6 := Nat.pow_le_pow_right (by decide) h2
  have h4 : 256 ^ 6 = 281474976710656 := by decide
  omega

end Go.Proofs.YtlalebaaabdihaxDoor
