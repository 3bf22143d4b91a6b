/- A new client: a model; what a client asks next: a model. No program in it. -/
import Derived.Test.YtlalebaaabdihawClN
namespace Go.Proofs.Ytlalebaaabdihaw
open Go.RowKit
set_option linter.unusedVariables false

/-- Whether a client may be made of this name and so many bytes. -/
def newT (id : ByteArray) (n : Nat) : Bool := okC id n 1 0
def newI (id : ByteArray) (n : Nat) : ByteArray := if newT id n = true then id else ⟨#[]⟩
def newL (id : ByteArray) (n : Nat) : Nat := if newT id n = true then n else 0
def newZ (id : ByteArray) (n : Nat) (zs : List Int) : List Int := if newT id n = true then zs else []
def newS (id : ByteArray) (n : Nat) : Int := if newT id n = true then 1 else 0

theorem newL_le (id : ByteArray) (n : Nat) : newL id n ≤ n := by unfold newL; split <;> omega

end Go.Proofs.Ytlalebaaabdihaw
