/- Bounds of what the calls on a flow answer: no statement of the program; no condition. -/
import Derived.Test.YtkicfiacnpifkadFlowOpenN
import Derived.Test.YtkicfiacnpifkadFlowInitN
import Derived.Test.YtkicfiacnpifkadFlowGrantN
namespace Go.Proofs.Ytkicfiacnpifkad
open Go.RowKit
set_option linter.unusedVariables false

/-- Whatever a call ends with has numbers of 64 bits. -/
theorem endsF_b {c i c' i' : Int} {l l' : List Lane} {ok : Bool} (hc : i64b c) (hi : i64b i) : i64b (endsF c i l c' i' l' ok).1.1 ∧ i64b (endsF c i l c' i' l' ok).1.2.1 := by
  unfold endsF
  split
  · rename_i h
    simp only [Bool.and_eq_true, okB_iff] at h
    have := h.2
    unfold okF at this
    unfold i64b
    dsimp only
    omega
  · exact ⟨hc, hi⟩

/-- It has the lanes of one of the two. -/
theorem endsF_l {c i c' i' : Int} {l l' : List Lane} {ok : Bool} {m : Nat} (h : l.length ≤ m) (h' : l'.length ≤ m) : (endsF c i l c' i' l' ok).1.2.2.length ≤ m := by
  unfold endsF
  split
  · exact h'
  · exact h

theorem spendR_b {c i : Int} {l : List Lane} (id n : Int) (hc : i64b c) (hi : i64b i) : i64b (spendR c i l id n).1.1 ∧ i64b (spendR c i l id n).1.2.1 := by
  unfold spendR
  split
  · exact ⟨hc, hi⟩
  · exact endsF_b hc hi

theorem spendR_l (c i : Int) (l : List Lane) (id n : Int) : (spendR c i l id n).1.2.2.length ≤ l.length := by
  unfold spendR
  split
  · exact Nat.le_refl _
  · exact endsF_l (Nat.le_refl _) (by simp [leftTo])

theorem grantR_b {c i : Int} {l : List Lane} (id n : Int) (hc : i64b c) (hi : i64b i) : i64b (grantR c i l id n).1.1 ∧ i64b (grantR c i l id n).1.2.1 := by
  unfold grantR
  split
  · exact ⟨hc, hi⟩
  · split
    · exact endsF_b hc hi
    · exact endsF_b hc hi

theorem grantR_l (c i : Int) (l : List Lane) (id n : Int) : (grantR c i l id n).1.2.2.length ≤ l.length := by
  unfold grantR
  split
  · exact Nat.le_refl _
  · split
    · exact endsF_l (Nat.le_refl _) (Nat.le_refl _)
    · exact endsF_l (Nat.le_refl _) (by simp [leftTo])

theorem openR_b {c i : Int} {l : List Lane} (id : Int) (hc : i64b c) (hi : i64b i) : i64b (openR c i l id).1.1 ∧ i64b (openR c i l id).1.2.1 := endsF_b hc hi

theorem initR_b {c i : Int} {l : List Lane} (n : Int) (hc : i64b c) (hi : i64b i) : i64b (initR c i l n).1.1 ∧ i64b (initR c i l n).1.2.1 := endsF_b hc hi

theorem openR_l (c i : Int) (l : List Lane) (id : Int) : (openR c i l id).1.2.2.length ≤ l.length + 1 := by
  unfold openR
  exact endsF_l (by omega) (by have := lessL_le id l; simp; omega)

theorem closeR_l (c i : Int) (l : List Lane) (id : Int) : (closeR c i l id).1.2.2.length ≤ l.length := by
  unfold closeR
  split
  · exact Nat.le_refl _
  · exact endsF_l (Nat.le_refl _) (by simp; omega)

theorem initR_l (c i : Int) (l : List Lane) (n : Int) : (initR c i l n).1.2.2.length ≤ l.length := by
  unfold initR
  exact endsF_l (Nat.le_refl _) (by split <;> simp)

end Go.Proofs.Ytkicfiacnpifkad
