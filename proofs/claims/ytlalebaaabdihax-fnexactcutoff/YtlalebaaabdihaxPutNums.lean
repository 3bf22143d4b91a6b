/- The bytes that PutBig puts, the highest first; no program in it. -/
import Derived.Test.YtlalebaaabdihaxNums
namespace Go.Proofs.Ytlalebaaabdihax
open Go.RowKit

/-- The byte of n that stands i bytes from the end. -/
def byteOf (n : Nat) (i : Nat) : Int := (n : Int) / 2 ^ (8 * i) % 256

/-- The first t of the k bytes of n. -/
def pbl (n k t : Nat) : List Int := (List.range t).map fun j => byteOf n (k - 1 - j)

theorem pbl_succ (n k t : Nat) : pbl n k (t + 1) = pbl n k t ++ [byteOf n (k - 1 - t)] := by simp [pbl, List.range_succ]
theorem pbl_len (n k t : Nat) : (pbl n k t).length = t := by simp [pbl]
theorem byteOf_range (n i : Nat) : 0 ≤ byteOf n i ∧ byteOf n i ≤ 255 := by
  unfold byteOf
  generalize (n : Int) / 2 ^ (8 * i) = q
  omega
theorem byteOf_zero (i : Nat) : byteOf 0 i = 0 := by simp [byteOf]
theorem pbl_range (n k t : Nat) : ∀ x ∈ pbl n k t, 0 ≤ x ∧ x ≤ 255 := by
  intro x hx
  simp only [pbl, List.mem_map] at hx
  obtain ⟨j, _, rfl⟩ := hx
  exact byteOf_range _ _

/-- What PutBig answers. -/
def pb (zs : List Int) (n k : Int) : List Int := zs ++ (if 1 ≤ k ∧ k ≤ 8 then pbl n.toNat k.toNat k.toNat else [])

theorem pb_len (zs : List Int) (n k : Int) : (pb zs n k).length ≤ zs.length + 8 := by
  unfold pb
  split
  · rw [List.length_append, pbl_len]; omega
  · simp

end Go.Proofs.Ytlalebaaabdihax
