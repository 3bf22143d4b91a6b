/- Disks that are right, and what is read off them; no program in it. -/
import Derived.Test.YtogopmngbjkcjauBase
namespace Go.Proofs.Ytogopmngbjkcjau
open Go.RowKit
set_option linter.unusedVariables false

/-- Whether a sector may be as it is. -/
def fitsD (x : ByteArray) : Bool := decide (x.size ≤ 64)

/-- A disk that is right. -/
def okD (xs ys : List ByteArray) : Bool := decide (xs.length = ys.length ∧ xs.length ≤ 200) && (xs.all fitsD && ys.all fitsD)

theorem okD_len {xs ys : List ByteArray} (h : ¬ (xs.length = ys.length ∧ xs.length ≤ 200)) : okD xs ys = false := by
  rw [okD, decide_eq_false h, Bool.false_and]

theorem okD_bad {xs ys : List ByteArray} {k : Nat} {x y : ByteArray} (hx : xs[k]? = some x) (hy : ys[k]? = some y) (h : 64 < x.size ∨ 64 < y.size) : okD xs ys = false := by
  rcases h with h | h
  · have : xs.all fitsD = false := by
      rw [List.all_eq_false]
      exact ⟨x, List.mem_of_getElem? hx, by simp [fitsD]; omega⟩
    rw [okD, this, Bool.false_and, Bool.and_false]
  · have : ys.all fitsD = false := by
      rw [List.all_eq_false]
      exact ⟨y, List.mem_of_getElem? hy, by simp [fitsD]; omega⟩
    rw [okD, this, Bool.and_false, Bool.and_false]

theorem okD_good {xs ys : List ByteArray} (hl : xs.length = ys.length) (hb : xs.length ≤ 200) (h : ∀ (i : Nat) (x y : ByteArray), xs[i]? = some x → ys[i]? = some y → x.size ≤ 64 ∧ y.size ≤ 64) : okD xs ys = true := by
  have h1 : xs.all fitsD = true := by
    rw [List.all_eq_true]
    intro x hx
    obtain ⟨i, hi, rfl⟩ := List.mem_iff_getElem.1 hx
    have := (h i _ _ (List.getElem?_eq_getElem hi) (List.getElem?_eq_getElem (by omega))).1
    simp [fitsD, this]
  have h2 : ys.all fitsD = true := by
    rw [List.all_eq_true]
    intro y hy
    obtain ⟨i, hi, rfl⟩ := List.mem_iff_getElem.1 hy
    have := (h i _ _ (List.getElem?_eq_getElem (by omega)) (List.getElem?_eq_getElem hi)).2
    simp [fitsD, this]
  rw [okD, h1, h2, decide_eq_true ⟨hl, hb⟩]
  rfl

theorem okD_iff {xs ys : List ByteArray} : okD xs ys = true ↔ xs.length = ys.length ∧ xs.length ≤ 200 ∧ (∀ x ∈ xs, x.size ≤ 64) ∧ ∀ y ∈ ys, y.size ≤ 64 := by
  simp [okD, fitsD, List.all_eq_true, and_assoc]

/-- The sector at i. -/
def secAt (xs : List ByteArray) (i : Int) : ByteArray := if 0 ≤ i ∧ i < xs.length then xs.getD i.toNat ⟨#[]⟩ else ⟨#[]⟩

end Go.Proofs.Ytogopmngbjkcjau
