/- The preface of a connection. No program in it. -/
import Derived.Test.YtpjldfpipchmjawFrBytes
namespace Go.Proofs.Ytpjldfpipchmjaw
open Go.RowKit

/-- Its bytes. -/
def priB : List Int := [80, 82, 73, 32, 42, 32, 72, 84, 84, 80, 47, 50, 46, 48, 13, 10, 13, 10, 83, 77, 13, 10, 13, 10]

/-- The preface, and an empty frame of settings. -/
def prefB : List Int := priB ++ putF 4 0 0 []

theorem prefF_len : (putF 4 0 0 []).length = 9 := by decide

theorem priB_range : ∀ x ∈ priB, 0 ≤ x ∧ x ≤ 255 := by decide

end Go.Proofs.Ytpjldfpipchmjaw
