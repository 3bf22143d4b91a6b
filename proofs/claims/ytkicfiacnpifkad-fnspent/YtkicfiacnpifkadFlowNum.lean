/- Flows: whether one is right, where a lane lies: no statement of the program; no condition. -/
import Derived.Test.YtkicfiacnpifkadLaneRow
namespace Go.Proofs.Ytkicfiacnpifkad
open Go.RowKit
set_option linter.unusedVariables false

/-- The lane at a place. -/
def laneAt (l : List Lane) (k : Nat) : Lane := l.getD k (0, 0)

theorem laneAt_some {l : List Lane} {k : Nat} {x y : Int} (h : l[k]? = some (x, y)) : laneAt l k = (x, y) := by simp [laneAt, List.getD_eq_getElem?_getD, h]

/-- A lane that is wrong: its number, what is left, or the order. -/
def badAt (l : List Lane) (k : Nat) : Prop :=
  (laneAt l k).1 < 1 ∨ ¬ (-2147483647 ≤ (laneAt l k).2 ∧ (laneAt l k).2 ≤ 2147483647) ∨ (0 < k ∧ (laneAt l k).1 ≤ (laneAt l (k - 1)).1)

/-- A flow that is right. -/
def okF (c i : Int) (l : List Lane) : Prop := (∀ k, k < l.length → ¬ badAt l k) ∧ (0 ≤ c ∧ c ≤ 2147483647) ∧ (0 ≤ i ∧ i ≤ 2147483647) ∧ l.length ≤ 100

/-- Whether it is. -/
noncomputable def okB (c i : Int) (l : List Lane) : Bool := @decide (okF c i l) (Classical.propDecidable _)

theorem okB_iff {c i : Int} {l : List Lane} : okB c i l = true ↔ okF c i l := by simp [okB]

theorem okB_yes {c i : Int} {l : List Lane} (h : okF c i l) : okB c i l = true := okB_iff.2 h

theorem okB_no {c i : Int} {l : List Lane} (h : ¬ okF c i l) : okB c i l = false := by
  cases hb : okB c i l
  · rfl
  · exact absurd (okB_iff.1 hb) h

/-- Where the first lane of this number lies; -1: nowhere. -/
def atL (id : Int) : List Lane → Int
  | [] => -1
  | x :: r => if x.1 = id then 0 else if atL id r < 0 then -1 else atL id r + 1

theorem atL_none {id : Int} : ∀ {l : List Lane}, (∀ k, k < l.length → (laneAt l k).1 ≠ id) → atL id l = -1
  | [], _ => rfl
  | x :: r, h => by
    have h0 : x.1 ≠ id := by simpa [laneAt] using h 0 (by simp)
    have h1 : atL id r = -1 := atL_none fun k hk => by simpa [laneAt] using h (k + 1) (by simpa using hk)
    rw [atL, if_neg h0, h1]
    rfl

theorem atL_some {id : Int} : ∀ {l : List Lane} {k : Nat}, k < l.length → (laneAt l k).1 = id → (∀ j, j < k → (laneAt l j).1 ≠ id) → atL id l = k
  | [], k, hk, _, _ => by simp at hk
  | x :: r, 0, _, h, _ => by
    have h0 : x.1 = id := by simpa [laneAt] using h
    rw [atL, if_pos h0]
    rfl
  | x :: r, k + 1, hk, h, hn => by
    have h0 : x.1 ≠ id := by simpa [laneAt] using hn 0 (by omega)
    have h1 : atL id r = k := atL_some (by simpa using hk) (by simpa [laneAt] using h) fun j hj => by simpa [laneAt] using hn (j + 1) (by omega)
    rw [atL, if_neg h0, h1, if_neg (by omega)]
    simp

end Go.Proofs.Ytkicfiacnpifkad
