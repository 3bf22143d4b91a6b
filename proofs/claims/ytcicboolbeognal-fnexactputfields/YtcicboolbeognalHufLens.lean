/- The specification's tables of Huffman's code: the lengths, and the codes. -/
import Derived.Test.YtcicboolbeognalTiny
import Derived.Test.YtcicboolbeognalHufTab
import Derived.Test.YtcicboolbeognalHufLit
namespace Go.Proofs.Ytcicboolbeognal
open Go.RowKit
set_option linter.unusedVariables false

/-- A table of whole numbers in a block of its own. -/
def Tab (w : World) (g : Nat) (L : List Int) : Prop := w.heap[g]? = some (.cells (L.map (Value.int .i64)).toArray 3 (0, 0))

theorem Tab.cell {w : World} {g : Nat} {L : List Int} (h : Tab w g L) (k : Nat) (hk : k < L.length) : w.cell? ⟨g, k, none⟩ = some (.int .i64 (L.getD k 0)) := by
  rw [cell_of_row w g k _ 3 (0, 0) h]
  simp [List.getD_eq_getElem?_getD, hk]
theorem Tab.lt {w : World} {g : Nat} {L : List Int} (h : Tab w g L) : g < w.heap.size := (Array.getElem?_eq_some_iff.1 h).1
theorem Tab.below {w w' : World} {g B : Nat} {L : List Int} (h : Tab w g L) (hb : Below B w w') (hg : g < B) : Tab w' g L := (hb.block g hg).trans h

theorem Try.info3 : (Try.prog.info? 3).map (fun i => (i.zero, i.size, i.bytes)) = some (some (.int .i64 0), 1, 8) := by kernel_rfl

theorem lens_fill : Instr.fill (fun i => some (i * 1, 1)) ((Array.range (lensI.length * 1)).map ((Value.int .i64 0).cells[· % (Value.int .i64 0).cells.size]!)) (litVals lensI) = some (lensI.map (Value.int .i64)).toArray := by kernel_rfl

theorem specLens_any (w : World) : Calls Try.prog 68 #[] w fun e w' => e = .returned (.slice (some ⟨w.heap.size, 0, none⟩) 257 257) ∧ w' = w.alloc (.cells (lensI.map (Value.int .i64)).toArray 3) := by
  obtain ⟨i0, hi, hz0, hz1, hz2⟩ := info_parts Try.info3
  have h := lit_calls Try.func68 96 lensI "l03_huff.go:4" "l03_huff.go:5" _ i0 (by kernel_rfl) rfl rfl Try.underlying96 hi hz1 hz0 (by rw [lens_len]; omega) (by rw [lens_len]; omega) lens_fill w
  rw [lens_len] at h
  exact h

end Go.Proofs.Ytcicboolbeognal
