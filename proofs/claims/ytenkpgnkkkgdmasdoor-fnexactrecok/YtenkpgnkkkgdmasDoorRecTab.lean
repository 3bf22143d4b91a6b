/- The program's table of kinds of records, as it lies in memory. -/
import Derived.Test.YtenkpgnkkkgdmasDoorRecN
import Derived.Test.YtenkpgnkkkgdmasDoorBase
namespace Go.Proofs.YtenkpgnkkkgdmasDoor
open Go.RowKit
set_option linter.unusedVariables false

/-- The greatest N of a kind; the fewest and the most bytes of data. -/
def rMost (k : Nat) : Int := if k = 1 ∨ k = 2 then 1000000000 else 0
def rLo (k : Nat) : Int := if k = 2 then 1 else 0
def rHi (k : Nat) : Int := if k = 2 then 24 else 0

/-- The variable holds the table: five rows of three numbers. -/
def RecT (w : World) : Prop := 0 < w.heap.size ∧ ∀ k : Nat, k ≤ 4 → w.cell? ⟨0, k * 3, none⟩ = some (.int .i64 (rMost k)) ∧ w.cell? ⟨0, k * 3 + 1, none⟩ = some (.int .i64 (rLo k)) ∧ w.cell? ⟨0, k * 3 + 2, none⟩ = some (.int .i64 (rHi k))

theorem RecT.below {w W : World} (h : RecT w) (hb : Below w.heap.size w W) : RecT W :=
  ⟨Nat.lt_of_lt_of_le h.1 hb.size, fun k hk => ⟨(hb.cell (p := ⟨0, k * 3, none⟩) h.1).trans (h.2 k hk).1, (hb.cell (p := ⟨0, k * 3 + 1, none⟩) h.1).trans (h.2 k hk).2.1, (hb.cell (p := ⟨0, k * 3 + 2, none⟩) h.1).trans (h.2 k hk).2.2⟩⟩

/-- Which numbers and how many bytes fit a kind, by the table. -/
theorem kindB_tab (k : Nat) (h1 : 1 ≤ k) (h4 : k ≤ 4) (n : Int) (d : Nat) : kindB (k : Int) n d = decide (0 ≤ n ∧ n ≤ rMost k ∧ rLo k ≤ (d : Int) ∧ (d : Int) ≤ rHi k) := by
  have hk : k = 1 ∨ k = 2 ∨ k = 3 ∨ k = 4 := by omega
  rw [Bool.eq_iff_iff]
  rcases hk with rfl | rfl | rfl | rfl
  all_goals
    simp [kindB, rMost, rLo, rHi]
    omega

theorem kindB_out (k : Int) (h : ¬ (1 ≤ k ∧ k ≤ 4)) (n : Int) (d : Nat) : kindB k n d = false := by
  rw [kindB, if_neg (by omega), if_neg (by omega), if_neg (by omega)]

end Go.Proofs.YtenkpgnkkkgdmasDoor
