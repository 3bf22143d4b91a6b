/- A record comes back of its text, and a byte of its sum that is turned is told; no program in it. -/
import Derived.Test.YtenkpgnkkkgdmaeDoorRecN
namespace Go.Proofs.YtenkpgnkkkgdmaeDoor
open Go.RowKit
set_option linter.unusedVariables false

theorem putT_ok {r : R} (h : r.ok = true) : putT r.e r.q r.k r.id r.n r.zs = txU r.put := by
  rw [putT, show okRec r.e r.q r.k r.id r.n r.zs.length = true from h]
  rfl

theorem put_range {r : R} (hz : ∀ x ∈ r.zs, 0 ≤ x ∧ x ≤ 255) : ∀ x ∈ r.put, 0 ≤ x ∧ x ≤ 255 := sumB_range _ (recB_range _ _ _ _ _ _ hz)

theorem rec_back {r : R} (h : r.ok = true) (hz : ∀ x ∈ r.zs, 0 ≤ x ∧ x ≤ 255) : recOf (txU r.put) = some r := recOf_iff.2 ⟨h, (txI_txU _ (put_range hz)).symm⟩

/-- Another text of the same length that is the same but for the last four bytes is no record. -/
theorem rec_turned {r : R} (h : r.ok = true) {t : List Int} (ht : ∀ x ∈ t, 0 ≤ x ∧ x ≤ 255) (hl : t.length = r.put.length) (hs : t.take (r.put.length - 4) = r.put.take (r.put.length - 4)) (hne : t ≠ r.put) : recOf (txU t) = none := by
  cases hr : recOf (txU t) with
  | none => rfl
  | some r' =>
    exfalso
    obtain ⟨h1, h2⟩ := recOf_iff.1 hr
    rw [txI_txU t ht] at h2
    have l1 := put_len r
    have l2 := put_len r'
    have b1 : r.put.take (r.put.length - 4) = r.body := by
      rw [l1, R.put, sumB, show 16 + r.id.size + r.zs.length - 4 = r.body.length by rw [R.body, recB_len]; omega]
      exact List.take_left
    have b2 : r'.put.take (r'.put.length - 4) = r'.body := by
      rw [l2, R.put, sumB, show 16 + r'.id.size + r'.zs.length - 4 = r'.body.length by rw [R.body, recB_len]; omega]
      exact List.take_left
    have hlen : r'.put.length = r.put.length := by rw [h2, hl]
    have hb : r'.body = r.body := by rw [← b2, ← b1, hlen, h2, hs]
    exact hne (by rw [← h2, R.put, R.put, hb])

end Go.Proofs.YtenkpgnkkkgdmaeDoor
