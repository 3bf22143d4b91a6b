/- What is padded: the model; a row that a call has made. No function of the program. -/
import Derived.Test.YtpjldfpipchmjadDoorCopyAt
import Derived.Test.YtpjldfpipchmjadDoorBox4
import Derived.Deep.RegionWith
namespace Go.Proofs.YtpjldfpipchmjadDoor
open Go.RowKit
set_option linter.unusedVariables false

/-- The number of bytes 0 of Pad. -/
def padN (n : Int) : Nat := if n < 0 then 0 else if 255 < n then 255 else n.toNat

theorem padN_le (n : Int) : padN n ≤ 255 := by
  unfold padN
  split
  · omega
  · split <;> omega

/-- The bytes of Pad. -/
def padB (zs : List Int) (m : Nat) : List Int := (m : Int) :: (zs ++ List.replicate m 0)

theorem padB_len (zs : List Int) (m : Nat) : (padB zs m).length = 1 + zs.length + m := by simp [padB]; omega

theorem padB_range (zs : List Int) (m : Nat) (hm : m ≤ 255) (h : ∀ x ∈ zs, 0 ≤ x ∧ x ≤ 255) : ∀ x ∈ padB zs m, 0 ≤ x ∧ x ≤ 255 := by
  intro x hx
  simp only [padB, List.mem_cons, List.mem_append, List.mem_replicate] at hx
  rcases hx with rfl | hx | ⟨_, rfl⟩
  · omega
  · exact h x hx
  · omega

theorem row_block {w : World} {base g n : Nat} {xs : List Value} (h : w.ownsRow base 5 1 (.slice (some ⟨g, 0, none⟩) n n) n xs) : w.heap[g]? = some (.cells xs.toArray 5 (0, 0)) := by
  rcases h.2 with ⟨he, _⟩ | ⟨g', cap', cur, he, hb, hg, hn, hm, hc, ht⟩
  · cases he
  · injection he with e1 e2 e3
    injection e1 with e1
    injection e1 with e1
    subst e1 e3
    have : cur.toList = xs := by rw [← ht, List.take_of_length_le (by simp [hc])]
    rw [hg, ← this]

end Go.Proofs.YtpjldfpipchmjadDoor
