/- What a client asks next: a model. No program in it. -/
import Derived.Test.YtlalebaaabdihaxClN
import Derived.Test.YtlalebaaabdihaxCrcNums
namespace Go.Proofs.Ytlalebaaabdihax
open Go.RowKit
set_option linter.unusedVariables false

/-- The next bytes of the file. -/
def pieceC (zs : List Int) (off : Int) : List Int := (zs.drop off.toNat).take 24
/-- How many these are. -/
def pieceK (n : Nat) (off : Int) : Nat := min 24 (n - off.toNat)

theorem pieceC_len {zs : List Int} {n : Nat} {off : Int} (h : zs.length = n) : (pieceC zs off).length = pieceK n off := by
  unfold pieceC pieceK
  rw [List.length_take, List.length_drop, h]

def askOp (id : ByteArray) (n : Nat) (st off : Int) : Int := if wayC id n st off = true then st else 0
def askI (id : ByteArray) (n : Nat) (st off : Int) : ByteArray := if wayC id n st off = true then id else ⟨#[]⟩
def askN (id : ByteArray) (n : Nat) (zs : List Int) (st off : Int) : Int := if wayC id n st off = true then (if st = 1 then (n : Int) else if st = 3 then off else if st = 4 then ((crcL zs ^^^ 4294967295 : Nat) : Int) else 0) else 0
def askK (id : ByteArray) (n : Nat) (st off : Int) : Nat := if wayC id n st off = true ∧ st = 3 then pieceK n off else 0
def askZ (id : ByteArray) (n : Nat) (zs : List Int) (st off : Int) : List Int := if wayC id n st off = true ∧ st = 3 then pieceC zs off else []

end Go.Proofs.Ytlalebaaabdihax
