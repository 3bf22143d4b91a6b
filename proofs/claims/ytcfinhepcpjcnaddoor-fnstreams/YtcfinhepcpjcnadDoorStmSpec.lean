/- What the specification's StreamStep answers: the same table's cell; nothing is written. -/
import Derived.Test.YtcfinhepcpjcnadDoorStmNum
import Derived.Test.YtcfinhepcpjcnadDoorL1In
namespace Go.Proofs.YtcfinhepcpjcnadDoor
open Go.RowKit
set_option linter.unusedVariables false

set_option maxHeartbeats 800000 in
theorem l9Idle_any (ev : Int) (w : World) (h1 : 1 ≤ ev) (h2 : ev < 11) :
    Calls Tryd.prog 49 #[.int .i64 ev] w fun e w' => e = .returned (.tuple #[.int .i64 (stepN 0 ev).1, .int .i64 (stepN 0 ev).2]) ∧ w' = w := by
  have h : ev = 1 ∨ ev = 2 ∨ ev = 3 ∨ ev = 4 ∨ ev = 5 ∨ ev = 6 ∨ ev = 7 ∨ ev = 8 ∨ ev = 9 ∨ ev = 10 := by omega
  rcases h with rfl | rfl | rfl | rfl | rfl | rfl | rfl | rfl | rfl | rfl
  all_goals
    go_enter Tryd.func49, Tryd.ntmps49
    go_wp2
    go_ret2
    exact ⟨rfl, rfl⟩

set_option maxHeartbeats 800000 in
theorem l9Open_any (ev : Int) (w : World) (h1 : 1 ≤ ev) (h2 : ev < 11) :
    Calls Tryd.prog 50 #[.int .i64 ev] w fun e w' => e = .returned (.tuple #[.int .i64 (stepN 1 ev).1, .int .i64 (stepN 1 ev).2]) ∧ w' = w := by
  have h : ev = 1 ∨ ev = 2 ∨ ev = 3 ∨ ev = 4 ∨ ev = 5 ∨ ev = 6 ∨ ev = 7 ∨ ev = 8 ∨ ev = 9 ∨ ev = 10 := by omega
  rcases h with rfl | rfl | rfl | rfl | rfl | rfl | rfl | rfl | rfl | rfl
  all_goals
    go_enter Tryd.func50, Tryd.ntmps50
    go_wp2
    go_ret2
    exact ⟨rfl, rfl⟩

set_option maxHeartbeats 800000 in
theorem l9There_any (ev : Int) (w : World) (h1 : 1 ≤ ev) (h2 : ev < 11) :
    Calls Tryd.prog 51 #[.int .i64 ev] w fun e w' => e = .returned (.tuple #[.int .i64 (stepN 2 ev).1, .int .i64 (stepN 2 ev).2]) ∧ w' = w := by
  have h : ev = 1 ∨ ev = 2 ∨ ev = 3 ∨ ev = 4 ∨ ev = 5 ∨ ev = 6 ∨ ev = 7 ∨ ev = 8 ∨ ev = 9 ∨ ev = 10 := by omega
  rcases h with rfl | rfl | rfl | rfl | rfl | rfl | rfl | rfl | rfl | rfl
  all_goals
    go_enter Tryd.func51, Tryd.ntmps51
    go_wp2
    go_ret2
    exact ⟨rfl, rfl⟩

set_option maxHeartbeats 800000 in
theorem l9Here_any (ev : Int) (w : World) (h1 : 1 ≤ ev) (h2 : ev < 11) :
    Calls Tryd.prog 52 #[.int .i64 ev] w fun e w' => e = .returned (.tuple #[.int .i64 (stepN 3 ev).1, .int .i64 (stepN 3 ev).2]) ∧ w' = w := by
  have h : ev = 1 ∨ ev = 2 ∨ ev = 3 ∨ ev = 4 ∨ ev = 5 ∨ ev = 6 ∨ ev = 7 ∨ ev = 8 ∨ ev = 9 ∨ ev = 10 := by omega
  rcases h with rfl | rfl | rfl | rfl | rfl | rfl | rfl | rfl | rfl | rfl
  all_goals
    go_enter Tryd.func52, Tryd.ntmps52
    go_wp2
    go_ret2
    exact ⟨rfl, rfl⟩

set_option maxRecDepth 10000 in
set_option maxHeartbeats 1600000 in
theorem specStep_any (s ev : Int) (w : World) :
    Calls Tryd.prog 18 #[.int .i64 s, .int .i64 ev] w fun e w' => e = .returned (.tuple #[.int .i64 (stepN s ev).1, .int .i64 (stepN s ev).2]) ∧ w' = w := by
  by_cases he : 1 ≤ ev ∧ ev < 11
  · obtain ⟨h1, h2⟩ := he
    have h3 : ev ≤ 10 := by omega
    by_cases c0 : s = 0
    · subst c0
      go_enter Tryd.func18, Tryd.ntmps18
      go_wp2_with fail
      refine (l1In_yes ev 1 10 _ h1 h3).mono ?_
      rintro e w' ⟨rfl, rfl⟩
      go_wp2_with fail
      refine (l9Idle_any ev _ h1 h2).mono ?_
      rintro e w' ⟨rfl, rfl⟩
      go_wp2_with fail
      go_ret2
      exact ⟨rfl, rfl⟩
    by_cases c1 : s = 1
    · subst c1
      go_enter Tryd.func18, Tryd.ntmps18
      go_wp2_with fail
      refine (l1In_yes ev 1 10 _ h1 h3).mono ?_
      rintro e w' ⟨rfl, rfl⟩
      go_wp2_with fail
      refine (l9Open_any ev _ h1 h2).mono ?_
      rintro e w' ⟨rfl, rfl⟩
      go_wp2_with fail
      go_ret2
      exact ⟨rfl, rfl⟩
    by_cases c2 : s = 2
    · subst c2
      go_enter Tryd.func18, Tryd.ntmps18
      go_wp2_with fail
      refine (l1In_yes ev 1 10 _ h1 h3).mono ?_
      rintro e w' ⟨rfl, rfl⟩
      go_wp2_with fail
      refine (l9There_any ev _ h1 h2).mono ?_
      rintro e w' ⟨rfl, rfl⟩
      go_wp2_with fail
      go_ret2
      exact ⟨rfl, rfl⟩
    by_cases c3 : s = 3
    · subst c3
      go_enter Tryd.func18, Tryd.ntmps18
      go_wp2_with fail
      refine (l1In_yes ev 1 10 _ h1 h3).mono ?_
      rintro e w' ⟨rfl, rfl⟩
      go_wp2_with fail
      refine (l9Here_any ev _ h1 h2).mono ?_
      rintro e w' ⟨rfl, rfl⟩
      go_wp2_with fail
      go_ret2
      exact ⟨rfl, rfl⟩
    by_cases c4 : s = 4
    · subst c4
      have h : ev = 1 ∨ ev = 2 ∨ ev = 3 ∨ ev = 4 ∨ ev = 5 ∨ ev = 6 ∨ ev = 7 ∨ ev = 8 ∨ ev = 9 ∨ ev = 10 := by omega
      clear h1 h2 h3
      rcases h with rfl | rfl | rfl | rfl | rfl | rfl | rfl | rfl | rfl | rfl
      all_goals
        go_enter Tryd.func18, Tryd.ntmps18
        go_wp2
        go_ret2
        exact ⟨rfl, rfl⟩
    · rw [stepN_out (by omega)]
      dsimp only
      go_enter Tryd.func18, Tryd.ntmps18
      go_wp2
      go_ret2
      exact ⟨rfl, rfl⟩
  · rw [stepN_out (by omega)]
    dsimp only
    by_cases a1 : 1 ≤ ev
    · have a2 : ¬ ev ≤ 10 := by omega
      clear he
      go_enter Tryd.func18, Tryd.ntmps18
      go_wp2
      go_ret2
      exact ⟨rfl, rfl⟩
    · clear he
      go_enter Tryd.func18, Tryd.ntmps18
      go_wp2
      go_ret2
      exact ⟨rfl, rfl⟩

end Go.Proofs.YtcfinhepcpjcnadDoor
