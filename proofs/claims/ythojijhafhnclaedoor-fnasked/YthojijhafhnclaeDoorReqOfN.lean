/- The request that fields are, or a fault: no statement of the program; no condition. -/
import Derived.Test.YthojijhafhnclaeDoorFormNs
import Derived.Test.YthojijhafhnclaeDoorNumNs
import Derived.Test.YthojijhafhnclaeDoorMethNs
namespace Go.Proofs.YthojijhafhnclaeDoor
open Go.RowKit
set_option linter.unusedVariables false

/-- The op of a method, among the first ones; 0: none of them. -/
def opTo (m : List UInt8) : Nat → Int
  | 0 => 0
  | k + 1 => if (methT ((k + 1 : Nat) : Int)).toList == m then ((k + 1 : Nat) : Int) else opTo m k

theorem opTo_le (m : List UInt8) : ∀ k, 0 ≤ opTo m k ∧ opTo m k ≤ k
  | 0 => ⟨Int.le_refl _, Int.le_refl _⟩
  | k + 1 => by
    have := opTo_le m k
    unfold opTo
    split <;> omega

def zeroR : Int × ByteArray × Int := (0, ⟨#[]⟩, 0)

/-- A path's beginning. -/
def bU : List UInt8 := [47, 117, 112, 47]

/-- Whether a path is one. -/
def pathB (p : ByteArray) : Bool := decide (5 ≤ p.size) && ((p.extract 0 4).toList == bU) && idB (p.extract 4 p.size).data.toList

/-- What ReqOf answers. -/
noncomputable def reqOfR (xs : List Fld) : (Int × ByteArray × Int) × Int :=
  if formB xs = false then (zeroR, 1) else
  if opTo (valF bM xs).toList 6 = 0 then (zeroR, 2) else
  if pathB (valF bP xs) = false then (zeroR, 3) else
  if (nameT (opTo (valF bM xs).toList 6)).toList = [] then ((opTo (valF bM xs).toList 6, (valF bP xs).extract 4 (valF bP xs).size, 0), 0) else
  if (numM (valF (nameT (opTo (valF bM xs).toList 6)).toList xs).data.toList (mostR (opTo (valF bM xs).toList 6))).2 = false ∨ cntF (nameT (opTo (valF bM xs).toList 6)).toList xs ≠ 1 then (zeroR, 4) else
  ((opTo (valF bM xs).toList 6, (valF bP xs).extract 4 (valF bP xs).size, (numM (valF (nameT (opTo (valF bM xs).toList 6)).toList xs).data.toList (mostR (opTo (valF bM xs).toList 6))).1), 0)

theorem valF_size (nm : List UInt8) : ∀ xs : List Fld, (∀ f ∈ xs, f.1.size ≤ maxLen ∧ f.2.size ≤ maxLen) → (valF nm xs).size ≤ maxLen
  | [], _ => by show (0 : Nat) ≤ _; exact Nat.zero_le _
  | f :: r, h => by
    unfold valF
    split
    · exact (h f (by simp)).2
    · exact valF_size nm r fun g hg => h g (by simp [hg])

end Go.Proofs.YthojijhafhnclaeDoor
