/- Shifts of words of 64 bits, and their bits; no program in it. -/
import Derived.Test.YtcicboolbeognalHufRead
import Derived.Laws.BitsAllLaws
namespace Go.Proofs.Ytcicboolbeognal
open Go.RowKit
set_option linter.unusedVariables false

theorem bitsN_mod (m x : Nat) : bitsN m (x % 2 ^ m) = bitsN m x := by
  have hp : 0 < 2 ^ m := Nat.pow_pos (by decide)
  have h := bitsN_join 0 m (x / 2 ^ m) (x % 2 ^ m) (Nat.mod_lt _ hp)
  have e : x / 2 ^ m * 2 ^ m + x % 2 ^ m = x := by rw [Nat.mul_comm]; exact Nat.div_add_mod _ _
  rw [e, Nat.zero_add] at h
  rw [h]
  rfl

theorem bitsN_same (m x y : Nat) (h : x % 2 ^ m = y % 2 ^ m) : bitsN m x = bitsN m y := by rw [← bitsN_mod m x, h, bitsN_mod]

theorem shl_bits (N L H c : Nat) (hN : N + L ≤ 64) (hc : c < 2 ^ L) : bitsN (N + L) (H * 2 ^ L % 18446744073709551616 + c) = bitsN N H ++ bitsN L c := by
  rw [← bitsN_join N L H c hc]
  refine bitsN_same _ _ _ ?_
  have hd : 2 ^ (N + L) ∣ 18446744073709551616 := Nat.pow_dvd_pow (n := 64) 2 hN
  rw [Nat.add_mod, Nat.mod_mod_of_dvd _ hd, ← Nat.add_mod]

theorem shr_bits (M H : Nat) : bitsN (M + 8) H = bitsN 8 (H / 2 ^ M % 256) ++ bitsN M H := by
  have hp : 0 < 2 ^ M := Nat.pow_pos (by decide)
  have h := bitsN_join 8 M (H / 2 ^ M) (H % 2 ^ M) (Nat.mod_lt _ hp)
  have e : H / 2 ^ M * 2 ^ M + H % 2 ^ M = H := by rw [Nat.mul_comm]; exact Nat.div_add_mod _ _
  rw [e, bitsN_mod, Nat.add_comm 8 M] at h
  rw [h]
  congr 1
  exact (bitsN_mod 8 _).symm

theorem shl_mult (H L : Nat) (hL : L ≤ 64) : H * 2 ^ L % 18446744073709551616 = (H % 2 ^ (64 - L)) * 2 ^ L := by
  have e : 18446744073709551616 = 2 ^ L * 2 ^ (64 - L) := by
    rw [← Nat.pow_add, show L + (64 - L) = 64 by omega]
  rw [e, Nat.mul_comm H, Nat.mul_mod_mul_left, Nat.mul_comm]

theorem shl_room (H L c : Nat) (hL : L ≤ 64) (hc : c < 2 ^ L) : H * 2 ^ L % 18446744073709551616 + c < 18446744073709551616 := by
  rw [shl_mult H L hL]
  have hp : 0 < 2 ^ (64 - L) := Nat.pow_pos (by decide)
  have h1 : H % 2 ^ (64 - L) + 1 ≤ 2 ^ (64 - L) := Nat.mod_lt _ hp
  have h2 := Nat.mul_le_mul_right (2 ^ L) h1
  rw [← Nat.pow_add, show 64 - L + L = 64 by omega, Nat.add_mul, Nat.one_mul] at h2
  omega

theorem or_shl (H L c : Nat) (hL : L ≤ 64) (hc : c < 2 ^ L) : bits .or .u64 ((H * 2 ^ L % 18446744073709551616 : Nat) : Int) (c : Int) = ((H * 2 ^ L % 18446744073709551616 + c : Nat) : Int) := by
  have hr := shl_room H L c hL hc
  rw [u64_or_nat _ _ (Nat.mod_lt _ (by decide)) (by omega), shl_mult H L hL]
  have := Nat.shiftLeft_add_eq_or_of_lt (b := c) (i := L) hc (H % 2 ^ (64 - L))
  rw [Nat.shiftLeft_eq] at this
  rw [← this]

theorem last_byte (N P H : Nat) (h : N + P = 8) : bitsN 8 ((H * 2 ^ P % 18446744073709551616 + (2 ^ P - 1)) % 256) = bitsN N H ++ List.replicate P true := by
  have hp : 0 < 2 ^ P := Nat.pow_pos (by decide)
  have h1 := bitsN_mod 8 (H * 2 ^ P % 18446744073709551616 + (2 ^ P - 1))
  have h2 := shl_bits N P H (2 ^ P - 1) (by omega) (by omega)
  rw [h, bitsN_ones] at h2
  rw [← h2]
  exact h1

end Go.Proofs.Ytcicboolbeognal
