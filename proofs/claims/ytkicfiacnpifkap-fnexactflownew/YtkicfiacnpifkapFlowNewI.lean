/- What the program's FlowNew answers: a flow without lanes. -/
import Derived.Test.YtkicfiacnpifkapFlowNewS
import Derived.Test.YtkicfiacnpifkapFlowWrong
import Derived.Test.YtkicfiacnpifkapLaneSrc
namespace Go.Proofs.Ytkicfiacnpifkap
open Go.RowKit
set_option linter.unusedVariables false

set_option maxRecDepth 10000 in
set_option maxHeartbeats 800000 in
theorem implFnew_any (n : Int) (w : World) :
    Calls Try.prog 15 #[.int .i64 n] w fun e w' => (∃ A C, e = .returned (.agg #[.int .i64 (newF n).1, .int .i64 (newF n).2, .slice A 0 C]) ∧ OwnL w' w.heap.size A 0 C []) ∧ Below w.heap.size w w' := by
  by_cases hn : 0 ≤ n ∧ n ≤ 2147483647
  · rw [newF, if_pos hn]
    dsimp only
    have HN : Hid (decide (0 ≤ n ∧ n ≤ 2147483647) = true) := by show _ = _; simpa using hn
    clear hn
    go_enter Try.func15, Try.ntmps15
    go_wp2_with fail
    refine (implWin_any n _).mono ?_
    rintro e x ⟨rfl, rfl⟩
    rw [HN.out]
    go_wp2
    refine bodyPost_ret (v := .agg #[.int .i64 65535, .int .i64 n, .slice (some ⟨w.heap.size + 1, 0, none⟩) 0 0]) (by simp [results, Try.f15, go_sem]) rfl ?_
    refine ⟨⟨_, 0, rfl, ⟨?_, by simp⟩⟩, ((Below.refl _ _).alloc (Nat.le_refl _) _).alloc (by simp) _⟩
    have h := World.ownsRow_lit (e := 43) (size := 2) (w.alloc (.cells #[.int .i64 65535, .int .i64 n, .slice (some ⟨w.heap.size + 1, 0, none⟩) 0 0] 29)) #[] 0 (Nat.le_refl _) (Nat.zero_le _) rfl
    rw [World.size_alloc] at h
    exact own_low h (by omega)
  · rw [newF, if_neg hn]
    dsimp only
    have HN : Hid (decide (0 ≤ n ∧ n ≤ 2147483647) = false) := by show _ = _; simpa using hn
    clear hn
    go_enter Try.func15, Try.ntmps15
    go_wp2_with fail
    refine (implWin_any n _).mono ?_
    rintro e x ⟨rfl, rfl⟩
    rw [HN.out]
    go_wp2
    refine bodyPost_ret (v := .agg #[.int .i64 0, .int .i64 0, .slice none 0 0]) (by simp [results, Try.f15, go_sem]) rfl ?_
    exact ⟨⟨none, 0, rfl, ⟨World.ownsRow_nil _ _ _ _, by simp⟩⟩, by first | exact (Below.refl _ _).alloc (Nat.le_refl _) _ | exact ((Below.refl _ _).alloc (Nat.le_refl _) _).alloc (by simp) _⟩

end Go.Proofs.Ytkicfiacnpifkap
