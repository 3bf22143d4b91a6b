/- What the program's StreamStep answers: the table's cell; nothing is written. -/
import Derived.Test.YtcfinhepcpjcnadDoorStmNum
namespace Go.Proofs.YtcfinhepcpjcnadDoor
open Go.RowKit
set_option linter.unusedVariables false

set_option maxRecDepth 10000 in
set_option maxHeartbeats 800000 in
theorem implStep_any (s ev : Int) (w : World) (hT : StmT w) :
    Calls Tryd.prog 17 #[.int .i64 s, .int .i64 ev] w fun e w' => e = .returned (.tuple #[.int .i64 (stepN s ev).1, .int .i64 (stepN s ev).2]) ∧ w' = w := by
  have HT : Hid (StmT w) := hT
  clear hT
  by_cases hin : 0 ≤ s ∧ s < 5 ∧ 1 ≤ ev ∧ ev < 11
  · rw [stepN_in hin]
    obtain ⟨h1, h2, h3, h4⟩ := hin
    obtain ⟨S, rfl⟩ := Int.eq_ofNat_of_zero_le h1
    obtain ⟨E, rfl⟩ := Int.eq_ofNat_of_zero_le (show 0 ≤ ev by omega)
    have hS : S < 5 := by omega
    have hE : E < 11 := by omega
    have hc := HT.out S E hS hE
    have hb := stmCell_bounds S hS E hE
    simp only [Int.toNat_natCast]
    generalize stmCell S E = c at *
    obtain ⟨hb1, hb2⟩ := hb
    by_cases hc0 : c < 0
    · rw [if_pos hc0]
      dsimp only
      go_enter Tryd.func17, Tryd.ntmps17
      go_wp2
      go_ret2
      exact ⟨rfl, rfl⟩
    · rw [if_neg hc0]
      dsimp only
      go_enter Tryd.func17, Tryd.ntmps17
      go_wp2
      go_ret2
      exact ⟨rfl, rfl⟩
  · rw [stepN_out hin]
    dsimp only
    by_cases a1 : 0 ≤ s
    · by_cases a2 : s < 5
      · by_cases a3 : 1 ≤ ev
        · have a4 : ¬ ev < 11 := by omega
          clear hin
          go_enter Tryd.func17, Tryd.ntmps17
          go_wp2
          go_ret2
          exact ⟨rfl, rfl⟩
        · clear hin
          go_enter Tryd.func17, Tryd.ntmps17
          go_wp2
          go_ret2
          exact ⟨rfl, rfl⟩
      · clear hin
        go_enter Tryd.func17, Tryd.ntmps17
        go_wp2
        go_ret2
        exact ⟨rfl, rfl⟩
    · clear hin
      go_enter Tryd.func17, Tryd.ntmps17
      go_wp2
      go_ret2
      exact ⟨rfl, rfl⟩

end Go.Proofs.YtcfinhepcpjcnadDoor
