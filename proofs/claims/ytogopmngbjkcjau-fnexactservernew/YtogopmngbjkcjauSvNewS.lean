/- What the specification's ServerNew and the program's answer. -/
import Derived.Test.YtogopmngbjkcjauStoNewS
import Derived.Test.YtogopmngbjkcjauStoVar
namespace Go.Proofs.Ytogopmngbjkcjau
open Go.RowKit
set_option linter.unusedVariables false

set_option maxRecDepth 10000 in
set_option maxHeartbeats 1600000 in
theorem specServerNew_any (n : Int) (w : World) :
    Calls Try.prog 14 #[.int .i64 n] w fun e w' => (∃ a c a' c' u uc, e = .returned (.agg #[.slice a (newN n) c, .slice a' (newN n) c', .int .i64 0, .int .i64 0, .slice u 0 uc, .slice none 0 0]) ∧ StoAt w' w.heap.size a (newN n) c (List.replicate (newN n) ⟨#[]⟩) a' (newN n) c' (List.replicate (newN n) ⟨#[]⟩) u 0 uc []) ∧ Below w.heap.size w w' := by
  obtain ⟨w0, hw0⟩ : ∃ w0, w.alloc (.cells #[.slice none 0 0, .slice none 0 0, .int .i64 0, .int .i64 0, .slice none 0 0, .slice none 0 0] 46) = w0 := ⟨_, rfl⟩
  have HE : Hid (w.alloc (.cells #[.slice none 0 0, .slice none 0 0, .int .i64 0, .int .i64 0, .slice none 0 0, .slice none 0 0] 46) = w0) := hw0
  have HB : Hid (Below w.heap.size w w0) := by show Below _ _ _; rw [← hw0]; exact (Below.refl _ _).alloc (Nat.le_refl _) _
  have HR : Hid (BoxN w0 w.heap.size 46 [.slice none 0 0, .slice none 0 0, .int .i64 0, .int .i64 0, .slice none 0 0, .slice none 0 0]) := by show BoxN _ _ _ _; rw [← hw0]; exact BoxN.new _ _ _
  have hlt : w.heap.size < w0.heap.size := HR.out.lt
  clear hw0
  have HC : Hid (Calls Try.prog 33 #[.int .i64 n] w0 fun e w' => (∃ a c a' c' u uc, e = .returned (.agg #[.slice a (newN n) c, .slice a' (newN n) c', .int .i64 0, .int .i64 0, .slice u 0 uc]) ∧ StoAt w' w0.heap.size a (newN n) c (List.replicate (newN n) ⟨#[]⟩) a' (newN n) c' (List.replicate (newN n) ⟨#[]⟩) u 0 uc []) ∧ Below w0.heap.size w0 w') := by
    refine (specStoreNew_any n w0).mono ?_
    rintro e w' ⟨⟨v, rfl, hv⟩, hb⟩
    obtain ⟨a, c, a', c', u, uc, l, rfl, hs, hm⟩ := hv.get
    obtain rfl : l = [] := by simpa using hm
    rw [List.length_replicate] at hs ⊢
    exact ⟨⟨a, c, a', c', u, uc, rfl, hs⟩, hb⟩
  generalize newN n = M at *
  generalize List.replicate M (⟨#[]⟩ : ByteArray) = RX at *
  go_enter Try.func14, Try.ntmps14
  go_upto_region 1 with fail
  rw [HE.out]
  clear HE
  go_wp2_with fail
  refine HC.out.mono ?_
  rintro e x ⟨⟨A, C, A', C', u, uc, rfl, hs⟩, hb⟩
  have HB1 : Hid (Below w.heap.size w x) := HB.out.trans (hb.mono HB.out.size)
  have HS : Hid (StoAt x w0.heap.size A M C RX A' M C' RX u 0 uc []) := hs
  have hR := HR.out.stays hb
  clear hs hb HC HB HR
  have a0 := hR.cell 0 rfl
  have a1 := hR.cell 1 rfl
  have a2 := hR.cell 2 rfl
  have a3 := hR.cell 3 rfl
  have a4 := hR.cell 4 rfl
  have a5 := hR.cell 5 rfl
  have e0 := hR.frozen 0
  have e1 := hR.frozen 1
  have e2 := hR.frozen 2
  have e3 := hR.frozen 3
  have e4 := hR.frozen 4
  have e5 := hR.frozen 5
  go_wp2_with fail
  refine bodyPost_ret (v := .agg #[.slice A M C, .slice A' M C', .int .i64 0, .int .i64 0, .slice u 0 uc, .slice none 0 0]) (by simp [results, Try.f14, go_sem, a0, a1, a2, a3, a4, a5]) rfl ?_
  refine ⟨⟨A, C, A', C', u, uc, rfl, ?_⟩, ?_⟩
  · exact ((((((HS.out.setLow (by omega) _).setLow (by omega) _).setLow (by omega) _).setLow (by omega) _).setLow (by omega) _).setLow (by omega) _).low (by omega)
  · exact (((((HB1.out.setCell (by dsimp only; omega) _).setCell (by dsimp only; omega) _).setCell (by dsimp only; omega) _).setCell (by dsimp only; omega) _).setCell (by dsimp only; omega) _).setCell (by dsimp only; omega) _

set_option maxRecDepth 10000 in
set_option maxHeartbeats 1600000 in
theorem implServerNew_any (n : Int) (w : World) :
    Calls Try.prog 15 #[.int .i64 n] w fun e w' => (∃ a c a' c' u uc, e = .returned (.agg #[.slice a (newN n) c, .slice a' (newN n) c', .int .i64 0, .int .i64 0, .slice u 0 uc, .slice none 0 0]) ∧ StoAt w' w.heap.size a (newN n) c (List.replicate (newN n) ⟨#[]⟩) a' (newN n) c' (List.replicate (newN n) ⟨#[]⟩) u 0 uc []) ∧ Below w.heap.size w w' := by
  obtain ⟨w0, hw0⟩ : ∃ w0, w.alloc (.cells #[.slice none 0 0, .slice none 0 0, .int .i64 0, .int .i64 0, .slice none 0 0, .slice none 0 0] 46) = w0 := ⟨_, rfl⟩
  have HE : Hid (w.alloc (.cells #[.slice none 0 0, .slice none 0 0, .int .i64 0, .int .i64 0, .slice none 0 0, .slice none 0 0] 46) = w0) := hw0
  have HB : Hid (Below w.heap.size w w0) := by show Below _ _ _; rw [← hw0]; exact (Below.refl _ _).alloc (Nat.le_refl _) _
  have HR : Hid (BoxN w0 w.heap.size 46 [.slice none 0 0, .slice none 0 0, .int .i64 0, .int .i64 0, .slice none 0 0, .slice none 0 0]) := by show BoxN _ _ _ _; rw [← hw0]; exact BoxN.new _ _ _
  have hlt : w.heap.size < w0.heap.size := HR.out.lt
  clear hw0
  have HC : Hid (Calls Try.prog 34 #[.int .i64 n] w0 fun e w' => (∃ a c a' c' u uc, e = .returned (.agg #[.slice a (newN n) c, .slice a' (newN n) c', .int .i64 0, .int .i64 0, .slice u 0 uc]) ∧ StoAt w' w0.heap.size a (newN n) c (List.replicate (newN n) ⟨#[]⟩) a' (newN n) c' (List.replicate (newN n) ⟨#[]⟩) u 0 uc []) ∧ Below w0.heap.size w0 w') := by
    refine (implStoreNew_any n w0).mono ?_
    rintro e w' ⟨⟨v, rfl, hv⟩, hb⟩
    obtain ⟨a, c, a', c', u, uc, l, rfl, hs, hm⟩ := hv.get
    obtain rfl : l = [] := by simpa using hm
    rw [List.length_replicate] at hs ⊢
    exact ⟨⟨a, c, a', c', u, uc, rfl, hs⟩, hb⟩
  generalize newN n = M at *
  generalize List.replicate M (⟨#[]⟩ : ByteArray) = RX at *
  go_enter Try.func15, Try.ntmps15
  go_upto_region 1 with fail
  rw [HE.out]
  clear HE
  go_wp2_with fail
  refine HC.out.mono ?_
  rintro e x ⟨⟨A, C, A', C', u, uc, rfl, hs⟩, hb⟩
  have HB1 : Hid (Below w.heap.size w x) := HB.out.trans (hb.mono HB.out.size)
  have HS : Hid (StoAt x w0.heap.size A M C RX A' M C' RX u 0 uc []) := hs
  have hR := HR.out.stays hb
  clear hs hb HC HB HR
  have a0 := hR.cell 0 rfl
  have a1 := hR.cell 1 rfl
  have a2 := hR.cell 2 rfl
  have a3 := hR.cell 3 rfl
  have a4 := hR.cell 4 rfl
  have a5 := hR.cell 5 rfl
  have e0 := hR.frozen 0
  have e1 := hR.frozen 1
  have e2 := hR.frozen 2
  have e3 := hR.frozen 3
  have e4 := hR.frozen 4
  have e5 := hR.frozen 5
  go_wp2_with fail
  refine bodyPost_ret (v := .agg #[.slice A M C, .slice A' M C', .int .i64 0, .int .i64 0, .slice u 0 uc, .slice none 0 0]) (by simp [results, Try.f15, go_sem, a0, a1, a2, a3, a4, a5]) rfl ?_
  refine ⟨⟨A, C, A', C', u, uc, rfl, ?_⟩, ?_⟩
  · exact ((((((HS.out.setLow (by omega) _).setLow (by omega) _).setLow (by omega) _).setLow (by omega) _).setLow (by omega) _).setLow (by omega) _).low (by omega)
  · exact (((((HB1.out.setCell (by dsimp only; omega) _).setCell (by dsimp only; omega) _).setCell (by dsimp only; omega) _).setCell (by dsimp only; omega) _).setCell (by dsimp only; omega) _).setCell (by dsimp only; omega) _

end Go.Proofs.Ytogopmngbjkcjau
