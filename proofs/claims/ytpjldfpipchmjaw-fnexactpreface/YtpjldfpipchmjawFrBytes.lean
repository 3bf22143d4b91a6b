/- A frame's bytes; no program in it. -/
import Derived.Test.YtpjldfpipchmjawPutNums
import Derived.Test.YtpjldfpipchmjawFrOk
namespace Go.Proofs.Ytpjldfpipchmjaw
open Go.RowKit

/-- What stands ahead of a frame's body of n bytes. -/
def headB (K F S n : Nat) : List Int := pbl n 3 3 ++ pbl K 1 1 ++ pbl F 1 1 ++ pbl S 4 4

theorem headB_len (K F S n : Nat) : (headB K F S n).length = 9 := by simp [headB, pbl_len]

theorem headB_range (K F S n : Nat) : ∀ x ∈ headB K F S n, 0 ≤ x ∧ x ≤ 255 := by
  intro x hx
  simp only [headB, List.mem_append] at hx
  rcases hx with ((hx | hx) | hx) | hx <;> exact pbl_range _ _ _ x hx

/-- What PutFrame answers. -/
def putF (k f s : Int) (zs : List Int) : List Int := if okF k f s zs.length = true then headB k.toNat f.toNat s.toNat zs.length ++ zs else []

theorem putF_len (k f s : Int) (zs : List Int) : (putF k f s zs).length ≤ 1009 := by
  unfold putF
  split
  · next h =>
    have := (okF_yes h).2.2.2
    rw [List.length_append, headB_len]
    omega
  · simp

end Go.Proofs.Ytpjldfpipchmjaw
