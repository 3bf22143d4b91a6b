/- What the program's GetGoAway answers: two numbers of four bytes each, the first without its highest bit; nothing is written. -/
import Derived.Test.YtghakpcagacdaacBigB
namespace Go.Proofs.Ytghakpcagacdaac
open Go.RowKit
set_option linter.unusedVariables false

/-- What GetGoAway answers. -/
def awayR (zs : List Int) : Int × Int × Bool :=
  if 8 ≤ zs.length then (bits .and .i64 (gb (zs.take 4)) 2147483647, gb ((zs.drop 4).take 4), true) else (0, 0, false)

theorem gbr_got (zs : List Int) (at_ k : Nat) (h1 : 1 ≤ k) (h7 : k ≤ 7) (h : at_ + k ≤ zs.length) : gbr zs (at_ : Int) (k : Int) = (gb ((zs.drop at_).take k), true) := by
  rw [gbr, if_pos ⟨by omega, by omega, by omega, by omega⟩, Int.toNat_natCast, Int.toNat_natCast]

theorem gbr_lost (zs : List Int) (at_ k : Nat) (h : zs.length < at_ + k) : gbr zs (at_ : Int) (k : Int) = (0, false) := by
  rw [gbr, if_neg (by omega)]

set_option maxHeartbeats 400000 in
theorem implAway_any (a : Option Addr) (len cap : Nat) (zs : List Int) (w : World) (hs : Seg w a len zs) (hcap : len ≤ cap) (hl : len ≤ 1099511627776) :
    Calls Try.prog 32 #[.slice a len cap] w fun e w' => e = .returned (.tuple #[.int .i64 (awayR zs).1, .int .i64 (awayR zs).2.1, .bool (awayR zs).2.2]) ∧ w' = w := by
  have HS : Hid (Seg w a len zs) := hs
  have hz : Hid (zs.length = len) := hs.1
  clear hs
  have hB : Hid (∀ k, k = (0 : Int) ∨ k = 4 → Calls Try.prog 60 #[.slice a len cap, .int .i64 k, .int .i64 4] w fun e w' => e = .returned (.tuple #[.int .i64 (gbr zs k 4).1, .bool (gbr zs k 4).2]) ∧ w' = w) := fun k hk => implGet_any a len cap k 4 zs w HS.out hcap hl (by omega) (by omega)
  by_cases h8 : 8 ≤ len
  · have H0 : Hid (gbr zs (0 : Int) (4 : Int) = (gb (zs.take 4), true)) := gbr_got zs 0 4 (by omega) (by omega) (by rw [hz.out]; omega)
    have H4 : Hid (gbr zs (4 : Int) (4 : Int) = (gb ((zs.drop 4).take 4), true)) := gbr_got zs 4 4 (by omega) (by omega) (by rw [hz.out]; omega)
    have hw : awayR zs = (bits .and .i64 (gb (zs.take 4)) 2147483647, gb ((zs.drop 4).take 4), true) := by rw [awayR, if_pos (by rw [hz.out]; exact h8)]
    rw [hw]
    dsimp only
    clear hw
    generalize gb (zs.take 4) = m at *
    generalize gb ((zs.drop 4).take 4) = n at *
    go_enter Try.func32, Try.ntmps32
    go_wp2_with fail
    refine (hB.out 0 (.inl rfl)).mono ?_
    rintro e w' ⟨rfl, rfl⟩
    rw [H0.out]
    dsimp only
    go_wp2_with fail
    refine (hB.out 4 (.inr rfl)).mono ?_
    rintro e w' ⟨rfl, rfl⟩
    rw [H4.out]
    dsimp only
    go_wp2_with fail
    go_ret3
    exact ⟨rfl, rfl⟩
  · have H4 : Hid (gbr zs (4 : Int) (4 : Int) = (0, false)) := gbr_lost zs 4 4 (by rw [hz.out]; omega)
    have hw : awayR zs = (0, 0, false) := by rw [awayR, if_neg (by rw [hz.out]; exact h8)]
    rw [hw]
    dsimp only
    clear hw
    obtain ⟨⟨m, b⟩, hm⟩ : ∃ p, gbr zs 0 4 = p := ⟨_, rfl⟩
    have H0 : Hid (gbr zs (0 : Int) (4 : Int) = (m, b)) := hm
    clear hm
    go_enter Try.func32, Try.ntmps32
    go_wp2_with fail
    refine (hB.out 0 (.inl rfl)).mono ?_
    rintro e w' ⟨rfl, rfl⟩
    rw [H0.out]
    dsimp only
    go_wp2_with fail
    refine (hB.out 4 (.inr rfl)).mono ?_
    rintro e w' ⟨rfl, rfl⟩
    rw [H4.out]
    dsimp only
    cases b
    all_goals
      go_wp2_with fail
      go_ret3
      exact ⟨rfl, rfl⟩

end Go.Proofs.Ytghakpcagacdaac
