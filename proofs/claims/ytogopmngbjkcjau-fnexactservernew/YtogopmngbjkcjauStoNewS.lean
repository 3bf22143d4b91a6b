/- What the specification's StoreNew and the program's answer. -/
import Derived.Test.YtogopmngbjkcjauStoAt
import Derived.Test.YtogopmngbjkcjauDskNewS
import Derived.Test.YtogopmngbjkcjauDskNewI
namespace Go.Proofs.Ytogopmngbjkcjau
open Go.RowKit
set_option linter.unusedVariables false

set_option maxRecDepth 10000 in
set_option maxHeartbeats 1600000 in
theorem specStoreNew_any (n : Int) (w : World) :
    Calls Try.prog 33 #[.int .i64 n] w fun e w' => (∃ v, e = .returned v ∧ AnsS w.heap.size (List.replicate (newN n) ⟨#[]⟩) (List.replicate (newN n) ⟨#[]⟩) 0 0 [] v w') ∧ Below w.heap.size w w' := by
  obtain ⟨w0, hw0⟩ : ∃ w0, w.alloc (.cells #[.slice none 0 0, .slice none 0 0, .int .i64 0, .int .i64 0, .slice none 0 0] 37) = w0 := ⟨_, rfl⟩
  have HE : Hid (w.alloc (.cells #[.slice none 0 0, .slice none 0 0, .int .i64 0, .int .i64 0, .slice none 0 0] 37) = w0) := hw0
  have HB : Hid (Below w.heap.size w w0) := by show Below _ _ _; rw [← hw0]; exact (Below.refl _ _).alloc (Nat.le_refl _) _
  have HR : Hid (BoxN w0 w.heap.size 37 [.slice none 0 0, .slice none 0 0, .int .i64 0, .int .i64 0, .slice none 0 0]) := by show BoxN _ _ _ _; rw [← hw0]; exact BoxN.new _ _ _
  have hlt : w.heap.size < w0.heap.size := HR.out.lt
  clear hw0
  have HC : Hid (Calls Try.prog 48 #[.int .i64 n] w0 fun e w' => (∃ v, e = .returned v ∧ AnsD w0.heap.size (List.replicate (newN n) ⟨#[]⟩) (List.replicate (newN n) ⟨#[]⟩) v w') ∧ Below w0.heap.size w0 w') := specDnew_any n w0
  obtain ⟨RX, hRX⟩ : ∃ RX : List ByteArray, List.replicate (newN n) ⟨#[]⟩ = RX := ⟨_, rfl⟩
  rw [hRX] at HC ⊢
  obtain ⟨M, hM⟩ : ∃ M, RX.length = M := ⟨_, rfl⟩
  unfold AnsD at HC
  rw [hM] at HC
  clear hRX hM
  go_enter Try.func33, Try.ntmps33
  go_upto_region 1 with fail
  rw [HE.out]
  clear HE
  go_wp2_with fail
  refine HC.out.mono ?_
  rintro e x ⟨⟨v, rfl, A, C, A', C', rfl, o1, o2, hap⟩, hb⟩
  have HB1 : Hid (Below w.heap.size w x) := HB.out.trans (hb.mono HB.out.size)
  have HS : Hid (StoAt x w0.heap.size A M C RX A' M C' RX none 0 0 []) := ⟨o1, o2, hap, ⟨⟨rfl, .inl ⟨rfl, rfl⟩⟩, by simp, by simp⟩, rfl⟩
  have hR := HR.out.stays hb
  clear o1 o2 hap hb HC HB HR
  have a0 := hR.cell 0 rfl
  have a1 := hR.cell 1 rfl
  have a2 := hR.cell 2 rfl
  have a3 := hR.cell 3 rfl
  have a4 := hR.cell 4 rfl
  have e0 := hR.frozen 0
  have e1 := hR.frozen 1
  have e2 := hR.frozen 2
  have e3 := hR.frozen 3
  have e4 := hR.frozen 4
  go_wp2_with fail
  refine bodyPost_ret (v := .agg #[.slice A M C, .slice A' M C', .int .i64 0, .int .i64 0, .slice none 0 0]) (by simp [results, Try.f33, go_sem, a0, a1, a2, a3, a4]) rfl ?_
  refine ⟨⟨_, rfl, A, M, C, A', M, C', none, 0, 0, [], rfl, ?_, rfl⟩, ?_⟩
  · exact (((((HS.out.setLow (by omega) _).setLow (by omega) _).setLow (by omega) _).setLow (by omega) _).setLow (by omega) _).low (by omega)
  · exact ((((HB1.out.setCell (by dsimp only; omega) _).setCell (by dsimp only; omega) _).setCell (by dsimp only; omega) _).setCell (by dsimp only; omega) _).setCell (by dsimp only; omega) _

set_option maxRecDepth 10000 in
set_option maxHeartbeats 1600000 in
theorem implStoreNew_any (n : Int) (w : World) :
    Calls Try.prog 34 #[.int .i64 n] w fun e w' => (∃ v, e = .returned v ∧ AnsS w.heap.size (List.replicate (newN n) ⟨#[]⟩) (List.replicate (newN n) ⟨#[]⟩) 0 0 [] v w') ∧ Below w.heap.size w w' := by
  obtain ⟨w0, hw0⟩ : ∃ w0, w.alloc (.cells #[.slice none 0 0, .slice none 0 0, .int .i64 0, .int .i64 0, .slice none 0 0] 37) = w0 := ⟨_, rfl⟩
  have HE : Hid (w.alloc (.cells #[.slice none 0 0, .slice none 0 0, .int .i64 0, .int .i64 0, .slice none 0 0] 37) = w0) := hw0
  have HB : Hid (Below w.heap.size w w0) := by show Below _ _ _; rw [← hw0]; exact (Below.refl _ _).alloc (Nat.le_refl _) _
  have HR : Hid (BoxN w0 w.heap.size 37 [.slice none 0 0, .slice none 0 0, .int .i64 0, .int .i64 0, .slice none 0 0]) := by show BoxN _ _ _ _; rw [← hw0]; exact BoxN.new _ _ _
  have hlt : w.heap.size < w0.heap.size := HR.out.lt
  clear hw0
  have HC : Hid (Calls Try.prog 49 #[.int .i64 n] w0 fun e w' => (∃ v, e = .returned v ∧ AnsD w0.heap.size (List.replicate (newN n) ⟨#[]⟩) (List.replicate (newN n) ⟨#[]⟩) v w') ∧ Below w0.heap.size w0 w') := implDnew_any n w0
  obtain ⟨RX, hRX⟩ : ∃ RX : List ByteArray, List.replicate (newN n) ⟨#[]⟩ = RX := ⟨_, rfl⟩
  rw [hRX] at HC ⊢
  obtain ⟨M, hM⟩ : ∃ M, RX.length = M := ⟨_, rfl⟩
  unfold AnsD at HC
  rw [hM] at HC
  clear hRX hM
  go_enter Try.func34, Try.ntmps34
  go_upto_region 1 with fail
  rw [HE.out]
  clear HE
  go_wp2_with fail
  refine HC.out.mono ?_
  rintro e x ⟨⟨v, rfl, A, C, A', C', rfl, o1, o2, hap⟩, hb⟩
  have HB1 : Hid (Below w.heap.size w x) := HB.out.trans (hb.mono HB.out.size)
  have HS : Hid (StoAt x w0.heap.size A M C RX A' M C' RX none 0 0 []) := ⟨o1, o2, hap, ⟨⟨rfl, .inl ⟨rfl, rfl⟩⟩, by simp, by simp⟩, rfl⟩
  have hR := HR.out.stays hb
  clear o1 o2 hap hb HC HB HR
  have a0 := hR.cell 0 rfl
  have a1 := hR.cell 1 rfl
  have a2 := hR.cell 2 rfl
  have a3 := hR.cell 3 rfl
  have a4 := hR.cell 4 rfl
  have e0 := hR.frozen 0
  have e1 := hR.frozen 1
  have e2 := hR.frozen 2
  have e3 := hR.frozen 3
  have e4 := hR.frozen 4
  go_wp2_with fail
  refine bodyPost_ret (v := .agg #[.slice A M C, .slice A' M C', .int .i64 0, .int .i64 0, .slice none 0 0]) (by simp [results, Try.f34, go_sem, a0, a1, a2, a3, a4]) rfl ?_
  refine ⟨⟨_, rfl, A, M, C, A', M, C', none, 0, 0, [], rfl, ?_, rfl⟩, ?_⟩
  · exact (((((HS.out.setLow (by omega) _).setLow (by omega) _).setLow (by omega) _).setLow (by omega) _).setLow (by omega) _).low (by omega)
  · exact ((((HB1.out.setCell (by dsimp only; omega) _).setCell (by dsimp only; omega) _).setCell (by dsimp only; omega) _).setCell (by dsimp only; omega) _).setCell (by dsimp only; omega) _

end Go.Proofs.Ytogopmngbjkcjau
