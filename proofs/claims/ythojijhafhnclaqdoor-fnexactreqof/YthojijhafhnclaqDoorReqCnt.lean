/- How many fields bear a name, and the value of the first: no statement of the program; no condition. -/
import Derived.Test.YthojijhafhnclaqDoorTabs
import Derived.Test.YthojijhafhnclaqDoorOwn
import Derived.Lib.Strings
namespace Go.Proofs.YthojijhafhnclaqDoor
open Go.RowKit
set_option linter.unusedVariables false

/-- How many fields bear this name. -/
def cntF (nm : List UInt8) (xs : List Fld) : Nat := xs.countP fun f => f.1.toList == nm

/-- The value of the first of them; nothing, where there is none. -/
def valF (nm : List UInt8) : List Fld → ByteArray
  | [] => ⟨#[]⟩
  | f :: r => if f.1.toList == nm then f.2 else valF nm r

theorem cntF_next {nm : List UInt8} {xs : List Fld} {k : Nat} {x y : ByteArray} (h : xs[k]? = some (x, y)) : cntF nm (xs.take (k + 1)) = cntF nm (xs.take k) + (if x.toList == nm then 1 else 0) := by
  rw [cntF, cntF, List.take_add_one, h, List.countP_append]
  cases hb : x.toList == nm <;> simp [hb]

theorem cntF_le (nm : List UInt8) (xs : List Fld) : cntF nm xs ≤ xs.length := List.countP_le_length

theorem valF_some {nm : List UInt8} : ∀ {xs : List Fld} {k : Nat} {x y : ByteArray}, xs[k]? = some (x, y) → (x.toList == nm) = true → (∀ j x' y', j < k → xs[j]? = some (x', y') → (x'.toList == nm) = false) → valF nm xs = y
  | [], k, x, y, h, _, _ => by simp at h
  | f :: r, 0, x, y, h, hx, _ => by
    obtain rfl : f = (x, y) := by simpa using h
    rw [valF, if_pos hx]
  | f :: r, k + 1, x, y, h, hx, hn => by
    have h0 := hn 0 f.1 f.2 (by omega) (by simp)
    rw [valF, if_neg (by rw [h0]; simp)]
    exact valF_some (by simpa using h) hx fun j x' y' hj hjx => hn (j + 1) x' y' (by omega) (by simpa using hjx)

theorem valF_none {nm : List UInt8} : ∀ {xs : List Fld}, (∀ (j : Nat) (x' y' : ByteArray), xs[j]? = some (x', y') → (x'.toList == nm) = false) → valF nm xs = ⟨#[]⟩
  | [], _ => rfl
  | f :: r, hn => by
    have h0 := hn 0 f.1 f.2 (by simp)
    rw [valF, if_neg (by rw [h0]; simp)]
    exact valF_none fun j x' y' hjx => hn (j + 1) x' y' (by simpa using hjx)

end Go.Proofs.YthojijhafhnclaqDoor
