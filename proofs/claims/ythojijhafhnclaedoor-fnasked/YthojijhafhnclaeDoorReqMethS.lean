/- What the specification's l11Method and l11Name answer: a method, and the name of an op's number. -/
import Derived.Test.YthojijhafhnclaeDoorMethNs
import Derived.Test.YthojijhafhnclaeDoorBox3
namespace Go.Proofs.YthojijhafhnclaeDoor
open Go.RowKit
set_option linter.unusedVariables false

set_option maxRecDepth 10000 in
theorem specMeth_any (op : Int) (w : World) (h : 1 ≤ op ∧ op ≤ 6) : Calls Tryd.prog 32 #[.int .i64 op] w fun e w' => e = .returned (.string (methT op)) ∧ Below w.heap.size w w' := by
  have hop : op = 1 ∨ op = 2 ∨ op = 3 ∨ op = 4 ∨ op = 5 ∨ op = 6 := by omega
  clear h
  have HB : Hid (Below w.heap.size w (w.alloc (.cells #[.string ⟨#[]⟩, .string ⟨#[80, 79, 83, 84]⟩, .string ⟨#[72, 69, 65, 68]⟩, .string ⟨#[80, 65, 84, 67, 72]⟩, .string ⟨#[80, 85, 84]⟩, .string ⟨#[71, 69, 84]⟩, .string ⟨#[68, 69, 76, 69, 84, 69]⟩] 9))) := (Below.refl _ _).alloc (Nat.le_refl _) _
  rcases hop with rfl | rfl | rfl | rfl | rfl | rfl
  all_goals
    go_enter Tryd.func32, Tryd.ntmps32
    go_wp2
    go_ret
    exact ⟨rfl, HB.out⟩

theorem specName_any (op : Int) (w : World) : Calls Tryd.prog 35 #[.int .i64 op] w fun e w' => e = .returned (.string (nameT op)) ∧ w' = w := by
  by_cases h1 : op = 1
  · subst h1
    go_enter Tryd.func35, Tryd.ntmps35
    go_wp2
    go_ret
    exact ⟨rfl, rfl⟩
  by_cases h3 : op = 3
  · subst h3
    go_enter Tryd.func35, Tryd.ntmps35
    go_wp2
    go_ret
    exact ⟨rfl, rfl⟩
  by_cases h4 : op = 4
  · subst h4
    go_enter Tryd.func35, Tryd.ntmps35
    go_wp2
    go_ret
    exact ⟨rfl, rfl⟩
  have HM : Hid (nameT op = ⟨#[]⟩) := by show _ = _; rw [nameT, if_neg h1, if_neg h3, if_neg h4]
  have k1 : (op == 1) = false := by simpa using h1
  have k3 : (op == 3) = false := by simpa using h3
  have k4 : (op == 4) = false := by simpa using h4
  rw [HM.out]
  go_enter Tryd.func35, Tryd.ntmps35
  go_wp2
  go_ret
  exact ⟨rfl, rfl⟩

end Go.Proofs.YthojijhafhnclaeDoor
