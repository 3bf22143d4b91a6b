/- What holds of each step and of each run: no statement of the program; no condition. -/
import Derived.Test.YtcfinhepcpjcnadDoorStmRunN
namespace Go.Proofs.YtcfinhepcpjcnadDoor
open Go.RowKit
set_option linter.unusedVariables false

theorem stmCell_all : ∀ j, j < 5 → ∀ i, i < 11 → 1 ≤ i → (j = 4 → stmCell j i < 0 ∨ stmCell j i = 4) ∧ (stmCell j i < 0 ∨ (j : Int) ≤ stmCell j i) := by decide +kernel

/-- What is refused leaves the state; a closed stream stays so; no good step goes back. -/
theorem stepN_said (s ev : Int) : ((stepN s ev).2 ≠ 0 → (stepN s ev).1 = s) ∧ (s = 4 → (stepN s ev).1 = 4) ∧ ((stepN s ev).2 = 0 → s ≤ (stepN s ev).1) := by
  by_cases h : 0 ≤ s ∧ s < 5 ∧ 1 ≤ ev ∧ ev < 11
  · rw [stepN_in h]
    have h1 := stmCell_all s.toNat (by omega) ev.toNat (by omega) (by omega)
    generalize stmCell s.toNat ev.toNat = c at *
    by_cases hc : c < 0
    · rw [if_pos hc]
      dsimp only
      omega
    · rw [if_neg hc]
      dsimp only
      omega
  · rw [stepN_out h]
    dsimp only
    omega

/-- A run's place is reached by good steps alone. -/
theorem AtRun.good {zs : List Int} {k : Nat} {s : Int} (h : AtRun zs k s) (hk : k < (runN 0 zs).2) : (stepN s (zs.getD k 0)).2 = 0 := by
  have hl := runN_len zs 0
  by_cases hg : (stepN s (zs.getD k 0)).2 = 0
  · exact hg
  · have h1 := h.stop (by omega) hg
    rw [h1] at hk
    exact absurd hk (Nat.lt_irrefl _)

/-- At a run's place stands its state, and the next event, if there is one, is refused. -/
theorem AtRun.end {zs : List Int} {s : Int} (h : AtRun zs (runN 0 zs).2 s) : s = (runN 0 zs).1 ∧ ((runN 0 zs).2 < zs.length → (stepN s (zs.getD (runN 0 zs).2 0)).2 ≠ 0) := by
  obtain ⟨st, p, hp⟩ : ∃ (st : Int) (p : Nat), runN 0 zs = (st, p) := ⟨_, _, rfl⟩
  rw [hp] at h ⊢
  dsimp only at h ⊢
  obtain ⟨hl, h⟩ := h
  rw [hp] at h
  injection h with h1 h2
  by_cases hlt : p < zs.length
  · rw [drop_at hlt] at h1 h2
    unfold runN at h1 h2
    split at h2
    · exact absurd h2 (by omega)
    · rename_i hg
      rw [if_neg hg] at h1
      exact ⟨h1.symm, fun _ => hg⟩
  · rw [List.drop_of_length_le (by omega)] at h1
    exact ⟨h1.symm, fun h => absurd h hlt⟩

end Go.Proofs.YtcfinhepcpjcnadDoor
