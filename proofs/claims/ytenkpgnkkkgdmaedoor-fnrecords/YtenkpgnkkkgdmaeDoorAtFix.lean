/- A byte of the code, or one that is reckoned, the same in every world that has the code. -/
import Derived.Test.YtenkpgnkkkgdmaeDoorOwn
namespace Go.Proofs.YtenkpgnkkkgdmaeDoor
open Go.RowKit
set_option linter.unusedVariables false

set_option maxRecDepth 10000 in
set_option maxHeartbeats 400000 in
theorem at_fix (a : Option Addr) (len cap i : Nat) (ii : Int) (hii : ii = (i : Int)) (zs : List Int) (hr : ∀ x ∈ zs, 0 ≤ x ∧ x ≤ 255) (hl : len ≤ 1099511627776) (hi : i ≤ 1000) :
    ∃ k : Nat, k ≤ 255 ∧ ∀ w : World, Seg w a len zs → Calls Tryd.prog 22 #[.slice a len cap, .int .i64 ii] w fun e w' => e = .returned (.int .i64 (k : Int)) ∧ w' = w := by
  subst hii
  by_cases hlt : i < len
  · refine ⟨(zs.getD i 0).toNat, ?_, fun w hs => ?_⟩
    · rw [List.getD_eq_getElem?_getD]
      cases h : zs[i]? with
      | none => simp
      | some x => have := hr x (List.mem_of_getElem? h); simp; omega
    · obtain ⟨b, off, rfl, hcell⟩ : ∃ b off, a = some ⟨b, off, none⟩ ∧ w.cell? ⟨b, off + i, none⟩ = some (.int .u8 (zs.getD i 0)) := by
        rcases hs.2.2 with h0 | ⟨b, off, e, hb, hc⟩
        · omega
        · exact ⟨b, off, e, hc i hlt⟩
      obtain ⟨h0, h1⟩ := hs.range i
      obtain ⟨X, hX⟩ := Int.eq_ofNat_of_zero_le h0
      rw [hX] at hcell h1
      rw [hX, Int.toNat_natCast]
      have hx1 : (X : Int) ≤ 255 := h1
      clear h0 h1 hX hs
      go_enter Tryd.func22, Tryd.ntmps22
      go_wp2_with fail
      go_ret
      exact ⟨rfl, rfl⟩
  · refine ⟨(i * 31 + len * 7) % 256, by omega, fun w hs => ?_⟩
    have hli : ¬ (i : Int) < (len : Int) := by omega
    have hln : (len : Int) ≤ 1099511627776 := by omega
    have hii : (i : Int) ≤ 1000 := by omega
    have hx : (((i * 31 + len * 7) % 256 : Nat) : Int) = ((i : Int) * 31 + (len : Int) * 7) % 256 := by omega
    rw [hx]
    clear hs hx
    go_enter Tryd.func22, Tryd.ntmps22
    go_wp2_with fail
    go_ret
    exact ⟨rfl, rfl⟩

end Go.Proofs.YtenkpgnkkkgdmaeDoor
