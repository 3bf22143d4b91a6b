/- What the program's WindowOf answers: the number of four bytes without its highest bit, and whether it is one; nothing is written. -/
import Derived.Test.YtghakpcagacdaadBigB
namespace Go.Proofs.Ytghakpcagacdaad
open Go.RowKit
set_option linter.unusedVariables false

/-- What WindowOf answers. -/
def winR (zs : List Int) : Int × Bool :=
  if zs.length = 4 ∧ bits .and .i64 (gb (zs.take 4)) 2147483647 ≠ 0 then (bits .and .i64 (gb (zs.take 4)) 2147483647, true) else (0, false)

theorem gbr_there (zs : List Int) (at_ k : Nat) (h1 : 1 ≤ k) (h7 : k ≤ 7) (h : at_ + k ≤ zs.length) : gbr zs (at_ : Int) (k : Int) = (gb ((zs.drop at_).take k), true) := by
  rw [gbr, if_pos ⟨by omega, by omega, by omega, by omega⟩, Int.toNat_natCast, Int.toNat_natCast]

theorem gbr_gone (zs : List Int) (at_ k : Nat) (h : zs.length < at_ + k) : gbr zs (at_ : Int) (k : Int) = (0, false) := by
  rw [gbr, if_neg (by omega)]

set_option maxHeartbeats 400000 in
theorem implWin_any (a : Option Addr) (len cap : Nat) (zs : List Int) (w : World) (hs : Seg w a len zs) (hcap : len ≤ cap) (hl : len ≤ 1099511627776) :
    Calls Try.prog 8 #[.slice a len cap] w fun e w' => e = .returned (.tuple #[.int .i64 (winR zs).1, .bool (winR zs).2]) ∧ w' = w := by
  have HS : Hid (Seg w a len zs) := hs
  have hz : Hid (zs.length = len) := hs.1
  clear hs
  by_cases h4 : len = 4
  · subst h4
    have hg := gbr_there zs 0 4 (by omega) (by omega) (by rw [hz.out]; omega)
    rw [List.drop_zero] at hg
    obtain ⟨n, hn⟩ : ∃ n, bits .and .i64 (gb (zs.take 4)) 2147483647 = n := ⟨_, rfl⟩
    have HN : Hid (bits .and .i64 (gb (zs.take 4)) 2147483647 = n) := hn
    have hw : Hid (winR zs = if n ≠ 0 then (n, true) else (0, false)) := by
      show _ = _
      rw [winR, hn, hz.out]
      by_cases h : n = 0 <;> simp [h]
    have HG : Hid (gbr zs (0 : Int) (4 : Int) = (gb (zs.take 4), true)) := hg
    clear hg hn
    rw [hw.out]
    by_cases h0 : n = 0
    · rw [if_neg (by simpa using h0)]
      subst h0
      go_enter Try.func8, Try.ntmps8
      go_wp2_with fail
      refine (implGet_any a 4 cap 0 4 zs w HS.out hcap hl (by omega) (by omega)).mono ?_
      rintro e w' ⟨rfl, rfl⟩
      rw [HG.out]
      dsimp only
      have hn := HN.out
      generalize gb (zs.take 4) = m at *
      go_wp2_with fail
      go_ret2
      exact ⟨rfl, rfl⟩
    · rw [if_pos h0]
      have hb : (n != 0) = true := by simpa using h0
      go_enter Try.func8, Try.ntmps8
      go_wp2_with fail
      refine (implGet_any a 4 cap 0 4 zs w HS.out hcap hl (by omega) (by omega)).mono ?_
      rintro e w' ⟨rfl, rfl⟩
      rw [HG.out]
      dsimp only
      have hn := HN.out
      generalize gb (zs.take 4) = m at *
      go_wp2_with fail
      go_ret2
      exact ⟨rfl, rfl⟩
  · have hne : ((len : Int) != 4) = true := by simp; omega
    have hw : winR zs = (0, false) := by rw [winR, if_neg (by rw [hz.out]; omega)]
    rw [hw]
    go_enter Try.func8, Try.ntmps8
    go_wp2_with fail
    go_ret2
    exact ⟨rfl, rfl⟩

end Go.Proofs.Ytghakpcagacdaad
