/- A byte of the code, or 0. -/
import Derived.Test.YtpjldfpipchmjadDoorOwn
namespace Go.Proofs.YtpjldfpipchmjadDoor
open Go.RowKit
set_option linter.unusedVariables false

set_option maxRecDepth 10000 in
set_option maxHeartbeats 400000 in
theorem at_any (a : Option Addr) (len cap i : Nat) (zs : List Int) (w : World) (hs : Seg w a len zs) (hl : len ≤ 1099511627776) (hi : i ≤ 1000) :
    Calls Tryd.prog 8 #[.slice a len cap, .int .i64 i] w fun e w' => ∃ c : UInt8, e = .returned (.int .i64 (c.toNat : Int)) ∧ w' = w := by
  have HS : Hid (Seg w a len zs) := hs
  clear hs
  by_cases hlt : i < len
  · obtain ⟨b, off, rfl, hcell⟩ : ∃ b off, a = some ⟨b, off, none⟩ ∧ w.cell? ⟨b, off + i, none⟩ = some (.int .u8 (zs.getD i 0)) := by
      rcases HS.out.2.2 with h0 | ⟨b, off, e, hb, hc⟩
      · omega
      · exact ⟨b, off, e, hc i hlt⟩
    obtain ⟨h0, h1⟩ := HS.out.range i
    obtain ⟨X, hX⟩ := Int.eq_ofNat_of_zero_le h0
    rw [hX] at hcell h1
    have hx1 : (X : Int) ≤ 255 := h1
    clear h0 h1 hX
    go_enter Tryd.func8, Tryd.ntmps8
    go_wp2_with fail
    go_ret
    refine ⟨UInt8.ofNat X, ret_int ?_, rfl⟩
    have : X < 256 := by omega
    simp
    omega
  · have hli : ¬ (i : Int) < (len : Int) := by omega
    have hln : (len : Int) ≤ 1099511627776 := by omega
    have hii : (i : Int) ≤ 1000 := by omega
    go_enter Tryd.func8, Tryd.ntmps8
    go_wp2_with fail
    go_ret
    have hx : ((UInt8.ofNat ((i * 31 + len * 7) % 256)).toNat : Int) = ((i : Int) * 31 + (len : Int) * 7) % 256 := by
      simp
    first | exact ⟨UInt8.ofNat ((i * 31 + len * 7) % 256), ret_int hx.symm, rfl⟩ | exact ⟨⟨UInt8.ofNat ((i * 31 + len * 7) % 256), ret_int hx.symm⟩, rfl⟩

end Go.Proofs.YtpjldfpipchmjadDoor
