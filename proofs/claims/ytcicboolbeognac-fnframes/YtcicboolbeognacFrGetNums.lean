/- What GetFrame answers; no program in it. -/
import Derived.Test.YtcicboolbeognacNums
import Derived.WalkKit
namespace Go.Proofs.Ytcicboolbeognac
open Go.RowKit
set_option linter.unusedVariables false

/-- How long the body of the frame at this place is told to be. -/
def frLen (zs : List Int) (T : Nat) : Int := gb ((zs.drop T).take 3)

/-- The stream of the frame at this place. -/
def frStream (zs : List Int) (T : Nat) : Int := bits BinOp.and IntKind.i64 (gb ((zs.drop (T + 5)).take 4)) 2147483647

/-- What GetFrame answers: the kind, the flags, the stream, the body, the place, the code. -/
def getF (zs : List Int) (at_ : Int) : Int × Int × Int × List Int × Int × Int :=
  if 0 ≤ at_ ∧ at_ + 9 ≤ (zs.length : Int) then
    if 1000 < frLen zs at_.toNat then (0, 0, 0, [], at_, 2)
    else if at_ + 9 + frLen zs at_.toNat ≤ (zs.length : Int) then (zs.getD (at_.toNat + 3) 0, zs.getD (at_.toNat + 4) 0, frStream zs at_.toNat, (zs.drop (at_.toNat + 9)).take (frLen zs at_.toNat).toNat, at_ + 9 + frLen zs at_.toNat, 0)
    else (0, 0, 0, [], at_, 1)
  else (0, 0, 0, [], at_, 1)

theorem frLen_range (zs : List Int) (T : Nat) (h : ∀ n ∈ zs, 0 ≤ n ∧ n ≤ 255) : 0 ≤ frLen zs T ∧ frLen zs T < 281474976710656 := by
  have h1 := gb_part_bound zs T 3 h (by omega)
  have h2 := gb_part_small zs T 3 h (by omega)
  unfold frLen
  omega

theorem head_take (zs : List Int) (T a b : Nat) (h : a + b ≤ 9) : ((((zs.drop T).take 9).drop a).take b) = (zs.drop (T + a)).take b := by
  rw [List.drop_take, List.take_take, List.drop_drop]
  congr 1
  omega

theorem head_get (zs : List Int) (T i : Nat) (h : i < 9) : ((zs.drop T).take 9).getD i 0 = zs.getD (T + i) 0 := by
  rw [List.getD_eq_getElem?_getD, List.getD_eq_getElem?_getD, List.getElem?_take, if_pos h, List.getElem?_drop]

end Go.Proofs.Ytcicboolbeognac
