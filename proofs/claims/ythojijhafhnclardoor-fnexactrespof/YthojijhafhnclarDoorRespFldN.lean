/- The fields of an answer: no statement of the program; no condition. -/
import Derived.Test.YthojijhafhnclarDoorTabs
import Derived.Test.YthojijhafhnclarDoorReqNum
import Derived.Test.YthojijhafhnclarDoorNumMn
namespace Go.Proofs.YthojijhafhnclarDoor
open Go.RowKit
set_option linter.unusedVariables false

/-- A number's text. -/
def numT (n : Int) : ByteArray := ⟨(Lib.decDigits n.toNat).toArray⟩

/-- The fields of an answer. -/
def respF (st off : Int) : List Fld := if respB st off = true then (⟨#[58, 115, 116, 97, 116, 117, 115]⟩, numT st) :: (if off < 0 then [] else [(⟨#[117, 112, 108, 111, 97, 100, 45, 111, 102, 102, 115, 101, 116]⟩, numT off)]) else []

theorem numT_size {n : Int} (h : 0 ≤ n) (h2 : n ≤ 4294967295) : (numT n).size ≤ 10 := by
  have := decDigits_le 9 n.toNat (by omega)
  show (Lib.decDigits n.toNat).toArray.size ≤ 10
  simpa using this

theorem respF_len (st off : Int) : (respF st off).length ≤ 4 := by
  unfold respF
  split
  · split <;> simp
  · simp

end Go.Proofs.YthojijhafhnclarDoor
