/- What the specification's WindowOf answers: the number of four bytes without its highest bit, and whether it is one; nothing is written. -/
import Derived.Test.YtghakpcagacdaanWin
import Derived.Test.YtghakpcagacdaanBigS
namespace Go.Proofs.Ytghakpcagacdaan
open Go.RowKit
set_option linter.unusedVariables false

set_option maxHeartbeats 400000 in
theorem specWin_any (a : Option Addr) (len cap : Nat) (zs : List Int) (w : World) (hs : Seg w a len zs) (hl : len ≤ 1099511627776) :
    Calls Try.prog 16 #[.slice a len cap] w fun e w' => e = .returned (.tuple #[.int .i64 (winR zs).1, .bool (winR zs).2]) ∧ w' = w := by
  have HS : Hid (Seg w a len zs) := hs
  have hz : Hid (zs.length = len) := hs.1
  clear hs
  by_cases h4 : 4 ≤ len
  · have hg := gbr_there zs 0 4 (by omega) (by omega) (by rw [hz.out]; omega)
    rw [List.drop_zero] at hg
    obtain ⟨n, hn⟩ : ∃ n, bits .and .i64 (gb (zs.take 4)) 2147483647 = n := ⟨_, rfl⟩
    have HN : Hid (bits .and .i64 (gb (zs.take 4)) 2147483647 = n) := hn
    have hw : Hid (winR zs = if len = 4 ∧ n ≠ 0 then (n, true) else (0, false)) := by
      show _ = _
      rw [winR, hn, hz.out]
    have HG : Hid (gbr zs (0 : Int) (4 : Int) = (gb (zs.take 4), true)) := hg
    clear hg hn
    rw [hw.out]
    by_cases h5 : len = 4
    · subst h5
      by_cases h0 : n = 0
      · rw [if_neg (by simp [h0])]
        subst h0
        go_enter Try.func16, Try.ntmps16
        go_wp2_with fail
        refine (specGet_any a 4 cap 0 4 zs w HS.out hl (by omega) (by omega)).mono ?_
        rintro e w' ⟨rfl, rfl⟩
        rw [HG.out]
        dsimp only
        have hn := HN.out
        generalize gb (zs.take 4) = m at *
        go_wp2_with fail
        go_ret2
        exact ⟨rfl, rfl⟩
      · rw [if_pos ⟨rfl, h0⟩]
        have hb : (n == 0) = false := by simpa using h0
        go_enter Try.func16, Try.ntmps16
        go_wp2_with fail
        refine (specGet_any a 4 cap 0 4 zs w HS.out hl (by omega) (by omega)).mono ?_
        rintro e w' ⟨rfl, rfl⟩
        rw [HG.out]
        dsimp only
        have hn := HN.out
        generalize gb (zs.take 4) = m at *
        go_wp2_with fail
        go_ret2
        exact ⟨rfl, rfl⟩
    · rw [if_neg (by omega)]
      have hne : ((len : Int) != 4) = true := by simp; omega
      go_enter Try.func16, Try.ntmps16
      go_wp2_with fail
      refine (specGet_any a len cap 0 4 zs w HS.out hl (by omega) (by omega)).mono ?_
      rintro e w' ⟨rfl, rfl⟩
      rw [HG.out]
      dsimp only
      have hn := HN.out
      generalize gb (zs.take 4) = m at *
      go_wp2_with fail
      go_ret2
      exact ⟨rfl, rfl⟩
  · have hw : winR zs = (0, false) := by rw [winR, if_neg (by rw [hz.out]; omega)]
    rw [hw]
    have HG : Hid (gbr zs (0 : Int) (4 : Int) = (0, false)) := gbr_gone zs 0 4 (by rw [hz.out]; omega)
    go_enter Try.func16, Try.ntmps16
    go_wp2_with fail
    refine (specGet_any a len cap 0 4 zs w HS.out hl (by omega) (by omega)).mono ?_
    rintro e w' ⟨rfl, rfl⟩
    rw [HG.out]
    dsimp only
    go_wp2_with fail
    go_ret2
    exact ⟨rfl, rfl⟩

end Go.Proofs.Ytghakpcagacdaan
