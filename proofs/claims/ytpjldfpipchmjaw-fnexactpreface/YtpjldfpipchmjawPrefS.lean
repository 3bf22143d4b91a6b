/- What the specification's Preface answers. -/
import Derived.Test.YtpjldfpipchmjawPrefN
import Derived.Test.YtpjldfpipchmjawFrPutS
import Derived.Test.YtpjldfpipchmjawStrStep
import Derived.Test.YtpjldfpipchmjawSegSrc
import Derived.Test.YtpjldfpipchmjawAppFull
import Derived.Lib.SlBytesConst
namespace Go.Proofs.Ytpjldfpipchmjaw
open Go.RowKit
set_option linter.unusedVariables false

set_option maxRecDepth 10000 in
set_option maxHeartbeats 1600000 in
theorem specPref_any (w : World) :
    Calls Try.prog 4 #[] w fun e w' => ∃ g cap', e = .returned (.slice (some ⟨g, 0, none⟩) 33 cap') ∧ Owns w' w.heap.size (some ⟨g, 0, none⟩) 33 cap' prefB ∧ Below w.heap.size w w' := by
  obtain ⟨i0, hi, hz0, hz1, hz2⟩ := info_parts Try.info5
  obtain ⟨w1, hw1⟩ : ∃ w1, w.alloc (.cells #[.int .u8 80, .int .u8 82, .int .u8 73, .int .u8 32, .int .u8 42, .int .u8 32, .int .u8 72, .int .u8 84, .int .u8 84, .int .u8 80, .int .u8 47, .int .u8 50, .int .u8 46, .int .u8 48, .int .u8 13, .int .u8 10, .int .u8 13, .int .u8 10, .int .u8 83, .int .u8 77, .int .u8 13, .int .u8 10, .int .u8 13, .int .u8 10] 5 (24, 25)) = w1 := ⟨_, rfl⟩
  have HE : Hid (w.alloc (.cells #[.int .u8 80, .int .u8 82, .int .u8 73, .int .u8 32, .int .u8 42, .int .u8 32, .int .u8 72, .int .u8 84, .int .u8 84, .int .u8 80, .int .u8 47, .int .u8 50, .int .u8 46, .int .u8 48, .int .u8 13, .int .u8 10, .int .u8 13, .int .u8 10, .int .u8 83, .int .u8 77, .int .u8 13, .int .u8 10, .int .u8 13, .int .u8 10] 5 (24, 25)) = w1) := hw1
  have HB1 : Hid (Below w.heap.size w w1) := by show Below _ _ _; rw [← hw1]; exact (Below.refl _ _).alloc (Nat.le_refl _) _
  have HO1 : Hid (w1.heap[w.heap.size]? = some (.cells (priB.map (Value.int .u8)).toArray 5 (24, 25))) := by
    show _ = _
    rw [← hw1]
    exact heap_alloc_new _ _
  have hcv := Lib.run_convert_bytes_const (P := Try.prog) w 22 5 #[.int .u8 80, .int .u8 82, .int .u8 73, .int .u8 32, .int .u8 42, .int .u8 32, .int .u8 72, .int .u8 84, .int .u8 84, .int .u8 80, .int .u8 47, .int .u8 50, .int .u8 46, .int .u8 48, .int .u8 13, .int .u8 10, .int .u8 13, .int .u8 10, .int .u8 83, .int .u8 77, .int .u8 13, .int .u8 10, .int .u8 13, .int .u8 10] 24 24 Try.underlying22 Try.underlying5
  clear hw1
  have HSg : Hid (∀ W : World, Seg W none 0 []) := fun W => ⟨rfl, by simp, .inl rfl⟩
  go_enter Try.func4, Try.ntmps4
  go_wp2_with fail
  rw [HE.out]
  clear HE hcv
  refine (specPutFr_any 4 0 0 none 0 0 [] w1 (HSg.out w1)).mono ?_
  rintro e w2 ⟨a2, c2, rfl, ho2, hb2⟩
  rw [prefF_len] at ho2 ⊢
  have hlt1 : w.heap.size < w1.heap.size := (Array.getElem?_eq_some_iff.1 HO1.out).1
  have HO2 : Hid (w2.heap[w.heap.size]? = some (.cells (priB.map (Value.int .u8)).toArray 5 (24, 25))) := (hb2.block _ hlt1).trans HO1.out
  have HOc : Hid (∀ j v, (priB.map (Value.int .u8))[j]? = some v → w2.cell? ((⟨w.heap.size, 0, none⟩ : Addr).add j) = some v) := fun j v hj => by
    have h9 := cell_of_row w2 w.heap.size j _ _ (24, 25) HO2.out
    rw [List.getElem?_toArray, hj] at h9
    cases j with
    | zero => simpa [Addr.add] using h9
    | succ j => simpa [Addr.add] using h9
  have HB2 : Hid (Below w.heap.size w w2) := HB1.out.trans (hb2.mono HB1.out.size)
  have HSrc : Hid (Src Try.prog 1 22 (.slice a2 9 c2) 9 ((putF 4 0 0 []).map (Value.int .u8)) w2) := by
    show Src _ _ _ _ _ _ _
    cases a2 with
    | none => have := seg_nil ho2.seg rfl; omega
    | some ad => exact Src.ofSlice _ Try.underlying22 ad 9 c2 _ (by rw [List.length_map, prefF_len]) (seg_src ho2.seg ad rfl) (ints_one _)
  have HR : Hid (∀ x ∈ prefB, 0 ≤ x ∧ x ≤ 255) := by
    intro x hx
    rcases List.mem_append.1 hx with h | h
    · exact priB_range x h
    · exact ho2.2 x h
  clear ho2 hb2 HO1 HB1 HSg hlt1
  have HBs : Hid (w.heap.size ≤ w2.heap.size) := HB2.out.size
  go_wp2_with (at_builtin; refine wpList_append_full rfl _ _ 22 22 rfl 5 i0 (.int .u8 0) 1 1 Try.underlying22 hi hz0 hz1 hz2 rfl w.heap.size 24 (priB.map (Value.int .u8)) rfl rfl HOc.out (.slice a2 9 c2) 9 ((putF 4 0 0 []).map (Value.int .u8)) rfl HSrc.out (by omega) (by unfold maxLen; omega) (by omega) ?_; intro c4 w4 hown hbel; refine Hid.out ?_)
  refine hidden ?_
  have HF : Hid (Owns w4 w.heap.size (some ⟨w2.heap.size, 0, none⟩) 33 c4 prefB ∧ Below w.heap.size w w4) := by
    have h := hown
    rw [← List.map_append] at h
    exact ⟨⟨own_low h HBs.out, HR.out⟩, HB2.out.trans (hbel.mono HB2.out.size)⟩
  generalize w2.heap.size = g at *
  clear hown hbel HO2 HOc HB2 HSrc HBs
  go_wp2_with fail
  go_ret
  exact ⟨g, c4, rfl, HF.out⟩

end Go.Proofs.Ytpjldfpipchmjaw
