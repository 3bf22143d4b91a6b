/- A method, and the name of an op's number: no statement of the program; no condition. -/
import Derived.Test.YthojijhafhnclaqDoorOwn
namespace Go.Proofs.YthojijhafhnclaqDoor
open Go.RowKit
set_option linter.unusedVariables false

/-- The method of an op. -/
def methT (op : Int) : ByteArray := if op = 1 then ⟨#[80, 79, 83, 84]⟩ else if op = 2 then ⟨#[72, 69, 65, 68]⟩ else if op = 3 then ⟨#[80, 65, 84, 67, 72]⟩ else if op = 4 then ⟨#[80, 85, 84]⟩ else if op = 5 then ⟨#[71, 69, 84]⟩ else if op = 6 then ⟨#[68, 69, 76, 69, 84, 69]⟩ else ⟨#[]⟩

/-- The name of the field of an op's number. -/
def nameT (op : Int) : ByteArray := if op = 1 then ⟨#[117, 112, 108, 111, 97, 100, 45, 108, 101, 110, 103, 116, 104]⟩ else if op = 3 then ⟨#[117, 112, 108, 111, 97, 100, 45, 111, 102, 102, 115, 101, 116]⟩ else if op = 4 then ⟨#[117, 112, 108, 111, 97, 100, 45, 115, 117, 109]⟩ else ⟨#[]⟩

end Go.Proofs.YthojijhafhnclaqDoor
