/- The newest fields of a table, as many as fit: there is just one such number; no program in it. -/
import Derived.Test.YthojijhafhnclaeDoorTabs
namespace Go.Proofs.YthojijhafhnclaeDoor
open Go.RowKit
set_option linter.unusedVariables false

/-- The bytes of fields. -/
def fldBytes (fs : List Fld) : Nat := (fs.map fun f => f.1.size + f.2.size).sum

theorem fldBytes_step (fs : List Fld) (k : Nat) (x y : ByteArray) (h : fs[k]? = some (x, y)) : fldBytes (fs.take (k + 1)) = fldBytes (fs.take k) + (x.size + y.size) := by
  rw [List.take_add_one, h]
  simp [fldBytes]

theorem fldBytes_take (xs : List Fld) (k : Nat) : fldBytes (xs.take k) ≤ fldBytes xs := by
  have : fldBytes (xs.take k) + fldBytes (xs.drop k) = fldBytes xs := by
    rw [fldBytes, fldBytes, fldBytes, ← List.sum_append, ← List.map_append, List.take_append_drop]
  omega

/-- What fields count for: their bytes, and 32 each. -/
def szL (xs : List Fld) : Nat := 32 * xs.length + fldBytes xs

theorem szL_nil : szL [] = 0 := rfl
theorem szL_cons (f : Fld) (xs : List Fld) : szL (f :: xs) = 32 + f.1.size + f.2.size + szL xs := by
  simp [szL, fldBytes]
  omega

theorem szL_take_step (xs : List Fld) (k : Nat) (hk : k < xs.length) : szL (xs.take (k + 1)) = szL (xs.take k) + (32 + (xs[k]).1.size + (xs[k]).2.size) := by
  have h := fldBytes_step xs k (xs[k]).1 (xs[k]).2 (by rw [List.getElem?_eq_getElem hk])
  simp only [szL, List.length_take]
  rw [h]
  omega

theorem szL_take_mono (xs : List Fld) (j k : Nat) (hjk : j ≤ k) : szL (xs.take j) ≤ szL (xs.take k) := by
  induction k with
  | zero => obtain rfl : j = 0 := by omega
            exact Nat.le_refl _
  | succ k ih =>
    by_cases h : j = k + 1
    · rw [h]; exact Nat.le_refl _
    · have h1 := ih (by omega)
      by_cases hk : k < xs.length
      · have := szL_take_step xs k hk
        omega
      · rw [List.take_of_length_le (by omega : xs.length ≤ k)] at h1
        rw [List.take_of_length_le (by omega : xs.length ≤ k + 1)]
        exact h1

theorem szL_take_le (xs : List Fld) (k : Nat) : szL (xs.take k) ≤ szL xs := by
  by_cases h : k ≤ xs.length
  · have := szL_take_mono xs k xs.length h
    rwa [List.take_length] at this
  · rw [List.take_of_length_le (by omega)]
    exact Nat.le_refl _

/-- Just k of the fields fit into m. -/
def FitN (m : Nat) (xs : List Fld) (k : Nat) : Prop := k ≤ xs.length ∧ szL (xs.take k) ≤ m ∧ (k = xs.length ∨ m < szL (xs.take (k + 1)))

theorem FitN.one {m : Nat} {xs : List Fld} {j k : Nat} (h : FitN m xs j) (g : FitN m xs k) : j = k := by
  obtain ⟨h1, h2, h3⟩ := h
  obtain ⟨g1, g2, g3⟩ := g
  rcases Nat.lt_trichotomy j k with hl | he | hg
  · exfalso
    rcases h3 with h3 | h3
    · omega
    · have := szL_take_mono xs (j + 1) k (by omega)
      omega
  · exact he
  · exfalso
    rcases g3 with g3 | g3
    · omega
    · have := szL_take_mono xs (k + 1) j (by omega)
      omega

/-- A table that is right. -/
def okT (m : Int) (xs : List Fld) : Bool := decide (0 ≤ m ∧ m ≤ 4096 ∧ (szL xs : Int) ≤ m)

/-- What FirstField answers. -/
def firstAns (i : Int) : Fld × Bool := if 1 ≤ i ∧ i ≤ 61 then (firstL.getD (i - 1).toNat (⟨#[]⟩, ⟨#[]⟩), true) else ((⟨#[]⟩, ⟨#[]⟩), false)

end Go.Proofs.YthojijhafhnclaeDoor
