/- Connections with nothing in them: held against each other, marked, the marks asked for; what both ConnNew answer. -/
import Derived.Test.YtpjldfpipchmjavBoxN
import Derived.Deep.RegionWith
import Derived.Deep.CutBlock
namespace Go.Proofs.Ytpjldfpipchmjav
open Go.RowKit
set_option linter.unusedVariables false

set_option maxRecDepth 10000 in
set_option maxHeartbeats 800000 in
theorem eqByteS_nil (w : World) : Calls Try.prog 9 #[.slice none 0 0, .slice none 0 0] w fun r w' => r = .returned (.bool true) ∧ Below w.heap.size w w' := by
  have HB : Hid (Below w.heap.size w w) := Below.refl _ _
  go_enter Try.func9, Try.ntmps9
  go_wp2
  go_loopw [5] (fun i wr => i = .int .i64 0 ∧ Hid (Below w.heap.size w wr)) (fun _ _ => 0)
  case atStart => exact ⟨rfl, HB⟩
  case round =>
    obtain ⟨rfl, HB1⟩ := hrel
    go_wp2
    go_ret
    exact ⟨rfl, HB1.out⟩

set_option maxRecDepth 10000 in
set_option maxHeartbeats 800000 in
theorem markByteS_nil (k : Int) (w : World) : Calls Try.prog 13 #[.slice none 0 0, .int .i64 k] w fun r w' => r = .returned (.int .i64 k) ∧ Below w.heap.size w w' := by
  have HB : Hid (Below w.heap.size w w) := Below.refl _ _
  go_enter Try.func13, Try.ntmps13
  go_wp2
  go_loopw [1, 5] (fun v i wr => i = .int .i64 0 ∧ v = .int .i64 k ∧ Hid (Below w.heap.size w wr)) (fun _ _ _ => 0)
  case atStart => exact ⟨rfl, rfl, HB⟩
  case round =>
    obtain ⟨rfl, rfl, HB1⟩ := hrel
    go_wp2
    go_ret
    exact ⟨rfl, HB1.out⟩

set_option maxRecDepth 10000 in
set_option maxHeartbeats 800000 in
theorem heldByteS_nil (k : Int) (w : World) : Calls Try.prog 17 #[.slice none 0 0, .int .i64 k] w fun r w' => r = .returned (.int .i64 k) ∧ Below w.heap.size w w' := by
  have HB : Hid (Below w.heap.size w w) := Below.refl _ _
  go_enter Try.func17, Try.ntmps17
  go_wp2
  go_loopw [1, 5] (fun v i wr => i = .int .i64 0 ∧ v = .int .i64 k ∧ Hid (Below w.heap.size w wr)) (fun _ _ _ => 0)
  case atStart => exact ⟨rfl, rfl, HB⟩
  case round =>
    obtain ⟨rfl, rfl, HB1⟩ := hrel
    go_wp2
    go_ret
    exact ⟨rfl, HB1.out⟩

set_option maxRecDepth 10000 in
set_option maxHeartbeats 800000 in
theorem eqFieldS_nil (w : World) : Calls Try.prog 21 #[.slice none 0 0, .slice none 0 0] w fun r w' => r = .returned (.bool true) ∧ Below w.heap.size w w' := by
  have HB : Hid (Below w.heap.size w w) := Below.refl _ _
  go_enter Try.func21, Try.ntmps21
  go_wp2
  go_loopw [5] (fun i wr => i = .int .i64 0 ∧ Hid (Below w.heap.size w wr)) (fun _ _ => 0)
  case atStart => exact ⟨rfl, HB⟩
  case round =>
    obtain ⟨rfl, HB1⟩ := hrel
    go_wp2
    go_ret
    exact ⟨rfl, HB1.out⟩

set_option maxRecDepth 10000 in
set_option maxHeartbeats 800000 in
theorem markFieldS_nil (k : Int) (w : World) : Calls Try.prog 23 #[.slice none 0 0, .int .i64 k] w fun r w' => r = .returned (.int .i64 k) ∧ Below w.heap.size w w' := by
  have HB : Hid (Below w.heap.size w w) := Below.refl _ _
  go_enter Try.func23, Try.ntmps23
  go_wp2
  go_loopw [1, 5] (fun v i wr => i = .int .i64 0 ∧ v = .int .i64 k ∧ Hid (Below w.heap.size w wr)) (fun _ _ _ => 0)
  case atStart => exact ⟨rfl, rfl, HB⟩
  case round =>
    obtain ⟨rfl, rfl, HB1⟩ := hrel
    go_wp2
    go_ret
    exact ⟨rfl, HB1.out⟩

set_option maxRecDepth 10000 in
set_option maxHeartbeats 800000 in
theorem heldFieldS_nil (k : Int) (w : World) : Calls Try.prog 25 #[.slice none 0 0, .int .i64 k] w fun r w' => r = .returned (.int .i64 k) ∧ Below w.heap.size w w' := by
  have HB : Hid (Below w.heap.size w w) := Below.refl _ _
  go_enter Try.func25, Try.ntmps25
  go_wp2
  go_loopw [1, 5] (fun v i wr => i = .int .i64 0 ∧ v = .int .i64 k ∧ Hid (Below w.heap.size w wr)) (fun _ _ _ => 0)
  case atStart => exact ⟨rfl, rfl, HB⟩
  case round =>
    obtain ⟨rfl, rfl, HB1⟩ := hrel
    go_wp2
    go_ret
    exact ⟨rfl, HB1.out⟩

set_option maxRecDepth 10000 in
set_option maxHeartbeats 800000 in
theorem eqStrS_nil (w : World) : Calls Try.prog 12 #[.slice none 0 0, .slice none 0 0] w fun r w' => r = .returned (.bool true) ∧ Below w.heap.size w w' := by
  have HB : Hid (Below w.heap.size w w) := Below.refl _ _
  go_enter Try.func12, Try.ntmps12
  go_wp2
  go_loopw [5] (fun i wr => i = .int .i64 0 ∧ Hid (Below w.heap.size w wr)) (fun _ _ => 0)
  case atStart => exact ⟨rfl, HB⟩
  case round =>
    obtain ⟨rfl, HB1⟩ := hrel
    go_wp2
    go_ret
    exact ⟨rfl, HB1.out⟩

set_option maxRecDepth 10000 in
set_option maxHeartbeats 800000 in
theorem markStrS_nil (k : Int) (w : World) : Calls Try.prog 16 #[.slice none 0 0, .int .i64 k] w fun r w' => r = .returned (.int .i64 k) ∧ Below w.heap.size w w' := by
  have HB : Hid (Below w.heap.size w w) := Below.refl _ _
  go_enter Try.func16, Try.ntmps16
  go_wp2
  go_loopw [1, 5] (fun v i wr => i = .int .i64 0 ∧ v = .int .i64 k ∧ Hid (Below w.heap.size w wr)) (fun _ _ _ => 0)
  case atStart => exact ⟨rfl, rfl, HB⟩
  case round =>
    obtain ⟨rfl, rfl, HB1⟩ := hrel
    go_wp2
    go_ret
    exact ⟨rfl, HB1.out⟩

set_option maxRecDepth 10000 in
set_option maxHeartbeats 800000 in
theorem heldStrS_nil (k : Int) (w : World) : Calls Try.prog 20 #[.slice none 0 0, .int .i64 k] w fun r w' => r = .returned (.int .i64 k) ∧ Below w.heap.size w w' := by
  have HB : Hid (Below w.heap.size w w) := Below.refl _ _
  go_enter Try.func20, Try.ntmps20
  go_wp2
  go_loopw [1, 5] (fun v i wr => i = .int .i64 0 ∧ v = .int .i64 k ∧ Hid (Below w.heap.size w wr)) (fun _ _ _ => 0)
  case atStart => exact ⟨rfl, rfl, HB⟩
  case round =>
    obtain ⟨rfl, rfl, HB1⟩ := hrel
    go_wp2
    go_ret
    exact ⟨rfl, HB1.out⟩

set_option maxRecDepth 10000 in
set_option maxHeartbeats 1600000 in
theorem eqTable_nil (w : World) : Calls Try.prog 11 #[.agg #[.int .i64 4096, .slice none 0 0], .agg #[.int .i64 4096, .slice none 0 0]] w fun r w' => r = .returned (.bool true) ∧ Below w.heap.size w w' := by
  obtain ⟨w0, hw0⟩ : ∃ w0, (w.alloc (.cells #[.int .i64 4096, .slice none 0 0] 27)).alloc (.cells #[.int .i64 4096, .slice none 0 0] 27) = w0 := ⟨_, rfl⟩
  have HE : Hid ((w.alloc (.cells #[.int .i64 4096, .slice none 0 0] 27)).alloc (.cells #[.int .i64 4096, .slice none 0 0] 27) = w0) := hw0
  have HB : Hid (Below w.heap.size w w0) := by show Below _ _ _; rw [← hw0]; exact ((Below.refl _ _).alloc (Nat.le_refl _) _).alloc (by simp) _
  have hP : BoxN w0 w.heap.size 27 [.int .i64 4096, .slice none 0 0] := by rw [← hw0]; exact (BoxN.new _ _ _).alloc _
  have hQ : BoxN w0 (w.heap.size + 1) 27 [.int .i64 4096, .slice none 0 0] := by
    rw [← hw0]
    have := BoxN.new (w.alloc (.cells #[.int .i64 4096, .slice none 0 0] 27)) 27 [.int .i64 4096, .slice none 0 0]
    rw [World.size_alloc] at this
    exact this
  have HX : Hid (∀ W, Below w0.heap.size w0 W → BoxN W w.heap.size 27 [.int .i64 4096, .slice none 0 0] ∧ BoxN W (w.heap.size + 1) 27 [.int .i64 4096, .slice none 0 0] ∧ Below w.heap.size w W) := fun W hb => ⟨hP.stays hb, hQ.stays hb, HB.out.trans (hb.mono HB.out.size)⟩
  clear hw0 HB hP hQ
  have HB0 : Hid (Below w0.heap.size w0 w0) := Below.refl _ _
  go_enter Try.func11, Try.ntmps11
  go_upto_region 1 with fail
  rw [HE.out]
  clear HE
  have hA0 := (HX.out _ HB0.out).1
  have hC0 := (HX.out _ HB0.out).2.1
  have a0_0 := hA0.cell 0 rfl
  have b0_0 := hC0.cell 0 rfl
  have a0_1 := hA0.cell 1 rfl
  have b0_1 := hC0.cell 1 rfl
  clear hA0 hC0
  go_wp2_with fail
  refine (eqFieldS_nil w0).mono ?_
  rintro _ y0 ⟨rfl, hb0⟩
  have HY0 : Hid (Below w0.heap.size w0 y0) := HB0.out.trans (hb0.mono HB0.out.size)
  clear hb0 a0_0 b0_0 a0_1 b0_1
  have HF : Hid (Below w.heap.size w y0) := (HX.out _ HY0.out).2.2
  have hA := (HX.out _ HY0.out).1
  have hC := (HX.out _ HY0.out).2.1
  have a_0 := hA.cell 0 rfl
  have b_0 := hC.cell 0 rfl
  have a_1 := hA.cell 1 rfl
  have b_1 := hC.cell 1 rfl
  clear hA hC
  go_wp2_with fail
  go_ret
  exact ⟨rfl, HF.out⟩

set_option maxRecDepth 10000 in
set_option maxHeartbeats 1600000 in
theorem eqGather_nil (w : World) : Calls Try.prog 10 #[.agg #[.int .i64 0, .bool false, .slice none 0 0], .agg #[.int .i64 0, .bool false, .slice none 0 0]] w fun r w' => r = .returned (.bool true) ∧ Below w.heap.size w w' := by
  obtain ⟨w0, hw0⟩ : ∃ w0, (w.alloc (.cells #[.int .i64 0, .bool false, .slice none 0 0] 24)).alloc (.cells #[.int .i64 0, .bool false, .slice none 0 0] 24) = w0 := ⟨_, rfl⟩
  have HE : Hid ((w.alloc (.cells #[.int .i64 0, .bool false, .slice none 0 0] 24)).alloc (.cells #[.int .i64 0, .bool false, .slice none 0 0] 24) = w0) := hw0
  have HB : Hid (Below w.heap.size w w0) := by show Below _ _ _; rw [← hw0]; exact ((Below.refl _ _).alloc (Nat.le_refl _) _).alloc (by simp) _
  have hP : BoxN w0 w.heap.size 24 [.int .i64 0, .bool false, .slice none 0 0] := by rw [← hw0]; exact (BoxN.new _ _ _).alloc _
  have hQ : BoxN w0 (w.heap.size + 1) 24 [.int .i64 0, .bool false, .slice none 0 0] := by
    rw [← hw0]
    have := BoxN.new (w.alloc (.cells #[.int .i64 0, .bool false, .slice none 0 0] 24)) 24 [.int .i64 0, .bool false, .slice none 0 0]
    rw [World.size_alloc] at this
    exact this
  have HX : Hid (∀ W, Below w0.heap.size w0 W → BoxN W w.heap.size 24 [.int .i64 0, .bool false, .slice none 0 0] ∧ BoxN W (w.heap.size + 1) 24 [.int .i64 0, .bool false, .slice none 0 0] ∧ Below w.heap.size w W) := fun W hb => ⟨hP.stays hb, hQ.stays hb, HB.out.trans (hb.mono HB.out.size)⟩
  clear hw0 HB hP hQ
  have HB0 : Hid (Below w0.heap.size w0 w0) := Below.refl _ _
  go_enter Try.func10, Try.ntmps10
  go_upto_region 1 with fail
  rw [HE.out]
  clear HE
  have hA0 := (HX.out _ HB0.out).1
  have hC0 := (HX.out _ HB0.out).2.1
  have a0_0 := hA0.cell 0 rfl
  have b0_0 := hC0.cell 0 rfl
  have a0_1 := hA0.cell 1 rfl
  have b0_1 := hC0.cell 1 rfl
  have a0_2 := hA0.cell 2 rfl
  have b0_2 := hC0.cell 2 rfl
  clear hA0 hC0
  go_wp2_with fail
  refine (eqByteS_nil w0).mono ?_
  rintro _ y0 ⟨rfl, hb0⟩
  have HY0 : Hid (Below w0.heap.size w0 y0) := HB0.out.trans (hb0.mono HB0.out.size)
  clear hb0 a0_0 b0_0 a0_1 b0_1 a0_2 b0_2
  have HF : Hid (Below w.heap.size w y0) := (HX.out _ HY0.out).2.2
  have hA := (HX.out _ HY0.out).1
  have hC := (HX.out _ HY0.out).2.1
  have a_0 := hA.cell 0 rfl
  have b_0 := hC.cell 0 rfl
  have a_1 := hA.cell 1 rfl
  have b_1 := hC.cell 1 rfl
  have a_2 := hA.cell 2 rfl
  have b_2 := hC.cell 2 rfl
  clear hA hC
  go_wp2_with fail
  go_ret
  exact ⟨rfl, HF.out⟩

set_option maxRecDepth 10000 in
set_option maxHeartbeats 1600000 in
theorem markTable_nil (w : World) : Calls Try.prog 15 #[.agg #[.int .i64 4096, .slice none 0 0], .int .i64 1] w fun r w' => r = .returned (.int .i64 1) ∧ Below w.heap.size w w' := by
  obtain ⟨w0, hw0⟩ : ∃ w0, w.alloc (.cells #[.int .i64 4096, .slice none 0 0] 27) = w0 := ⟨_, rfl⟩
  have HE : Hid (w.alloc (.cells #[.int .i64 4096, .slice none 0 0] 27) = w0) := hw0
  have HB : Hid (Below w.heap.size w w0) := by show Below _ _ _; rw [← hw0]; exact (Below.refl _ _).alloc (Nat.le_refl _) _
  have hP : BoxN w0 w.heap.size 27 [.int .i64 4096, .slice none 0 0] := by rw [← hw0]; exact BoxN.new _ _ _
  have HX : Hid (∀ W, Below w0.heap.size w0 W → BoxN W w.heap.size 27 [.int .i64 4096, .slice none 0 0] ∧ Below w.heap.size w W) := fun W hb => ⟨hP.stays hb, HB.out.trans (hb.mono HB.out.size)⟩
  clear hw0 HB hP
  have HB0 : Hid (Below w0.heap.size w0 w0) := Below.refl _ _
  go_enter Try.func15, Try.ntmps15
  go_upto_region 1 with fail
  rw [HE.out]
  clear HE
  have hA0 := (HX.out _ HB0.out).1
  have a0_0 := hA0.cell 0 rfl
  have a0_1 := hA0.cell 1 rfl
  clear hA0
  go_wp2_with fail
  refine (markFieldS_nil 1 w0).mono ?_
  rintro _ y0 ⟨rfl, hb0⟩
  have HY0 : Hid (Below w0.heap.size w0 y0) := HB0.out.trans (hb0.mono HB0.out.size)
  clear hb0 a0_0 a0_1
  have HF : Hid (Below w.heap.size w y0) := (HX.out _ HY0.out).2
  go_wp2_with fail
  go_ret
  exact ⟨rfl, HF.out⟩

set_option maxRecDepth 10000 in
set_option maxHeartbeats 1600000 in
theorem heldTable_nil (w : World) : Calls Try.prog 19 #[.agg #[.int .i64 4096, .slice none 0 0], .int .i64 1] w fun r w' => r = .returned (.int .i64 1) ∧ Below w.heap.size w w' := by
  obtain ⟨w0, hw0⟩ : ∃ w0, w.alloc (.cells #[.int .i64 4096, .slice none 0 0] 27) = w0 := ⟨_, rfl⟩
  have HE : Hid (w.alloc (.cells #[.int .i64 4096, .slice none 0 0] 27) = w0) := hw0
  have HB : Hid (Below w.heap.size w w0) := by show Below _ _ _; rw [← hw0]; exact (Below.refl _ _).alloc (Nat.le_refl _) _
  have hP : BoxN w0 w.heap.size 27 [.int .i64 4096, .slice none 0 0] := by rw [← hw0]; exact BoxN.new _ _ _
  have HX : Hid (∀ W, Below w0.heap.size w0 W → BoxN W w.heap.size 27 [.int .i64 4096, .slice none 0 0] ∧ Below w.heap.size w W) := fun W hb => ⟨hP.stays hb, HB.out.trans (hb.mono HB.out.size)⟩
  clear hw0 HB hP
  have HB0 : Hid (Below w0.heap.size w0 w0) := Below.refl _ _
  go_enter Try.func19, Try.ntmps19
  go_upto_region 1 with fail
  rw [HE.out]
  clear HE
  have hA0 := (HX.out _ HB0.out).1
  have a0_0 := hA0.cell 0 rfl
  have a0_1 := hA0.cell 1 rfl
  clear hA0
  go_wp2_with fail
  refine (heldFieldS_nil 1 w0).mono ?_
  rintro _ y0 ⟨rfl, hb0⟩
  have HY0 : Hid (Below w0.heap.size w0 y0) := HB0.out.trans (hb0.mono HB0.out.size)
  clear hb0 a0_0 a0_1
  have HF : Hid (Below w.heap.size w y0) := (HX.out _ HY0.out).2
  go_wp2_with fail
  go_ret
  exact ⟨rfl, HF.out⟩

set_option maxRecDepth 10000 in
set_option maxHeartbeats 1600000 in
theorem markGather_nil (w : World) : Calls Try.prog 14 #[.agg #[.int .i64 0, .bool false, .slice none 0 0], .int .i64 1] w fun r w' => r = .returned (.int .i64 1) ∧ Below w.heap.size w w' := by
  obtain ⟨w0, hw0⟩ : ∃ w0, w.alloc (.cells #[.int .i64 0, .bool false, .slice none 0 0] 24) = w0 := ⟨_, rfl⟩
  have HE : Hid (w.alloc (.cells #[.int .i64 0, .bool false, .slice none 0 0] 24) = w0) := hw0
  have HB : Hid (Below w.heap.size w w0) := by show Below _ _ _; rw [← hw0]; exact (Below.refl _ _).alloc (Nat.le_refl _) _
  have hP : BoxN w0 w.heap.size 24 [.int .i64 0, .bool false, .slice none 0 0] := by rw [← hw0]; exact BoxN.new _ _ _
  have HX : Hid (∀ W, Below w0.heap.size w0 W → BoxN W w.heap.size 24 [.int .i64 0, .bool false, .slice none 0 0] ∧ Below w.heap.size w W) := fun W hb => ⟨hP.stays hb, HB.out.trans (hb.mono HB.out.size)⟩
  clear hw0 HB hP
  have HB0 : Hid (Below w0.heap.size w0 w0) := Below.refl _ _
  go_enter Try.func14, Try.ntmps14
  go_upto_region 1 with fail
  rw [HE.out]
  clear HE
  have hA0 := (HX.out _ HB0.out).1
  have a0_0 := hA0.cell 0 rfl
  have a0_1 := hA0.cell 1 rfl
  have a0_2 := hA0.cell 2 rfl
  clear hA0
  go_wp2_with fail
  refine (markByteS_nil 1 w0).mono ?_
  rintro _ y0 ⟨rfl, hb0⟩
  have HY0 : Hid (Below w0.heap.size w0 y0) := HB0.out.trans (hb0.mono HB0.out.size)
  clear hb0 a0_0 a0_1 a0_2
  have HF : Hid (Below w.heap.size w y0) := (HX.out _ HY0.out).2
  go_wp2_with fail
  go_ret
  exact ⟨rfl, HF.out⟩

set_option maxRecDepth 10000 in
set_option maxHeartbeats 1600000 in
theorem heldGather_nil (w : World) : Calls Try.prog 18 #[.agg #[.int .i64 0, .bool false, .slice none 0 0], .int .i64 1] w fun r w' => r = .returned (.int .i64 1) ∧ Below w.heap.size w w' := by
  obtain ⟨w0, hw0⟩ : ∃ w0, w.alloc (.cells #[.int .i64 0, .bool false, .slice none 0 0] 24) = w0 := ⟨_, rfl⟩
  have HE : Hid (w.alloc (.cells #[.int .i64 0, .bool false, .slice none 0 0] 24) = w0) := hw0
  have HB : Hid (Below w.heap.size w w0) := by show Below _ _ _; rw [← hw0]; exact (Below.refl _ _).alloc (Nat.le_refl _) _
  have hP : BoxN w0 w.heap.size 24 [.int .i64 0, .bool false, .slice none 0 0] := by rw [← hw0]; exact BoxN.new _ _ _
  have HX : Hid (∀ W, Below w0.heap.size w0 W → BoxN W w.heap.size 24 [.int .i64 0, .bool false, .slice none 0 0] ∧ Below w.heap.size w W) := fun W hb => ⟨hP.stays hb, HB.out.trans (hb.mono HB.out.size)⟩
  clear hw0 HB hP
  have HB0 : Hid (Below w0.heap.size w0 w0) := Below.refl _ _
  go_enter Try.func18, Try.ntmps18
  go_upto_region 1 with fail
  rw [HE.out]
  clear HE
  have hA0 := (HX.out _ HB0.out).1
  have a0_0 := hA0.cell 0 rfl
  have a0_1 := hA0.cell 1 rfl
  have a0_2 := hA0.cell 2 rfl
  clear hA0
  go_wp2_with fail
  refine (heldByteS_nil 1 w0).mono ?_
  rintro _ y0 ⟨rfl, hb0⟩
  have HY0 : Hid (Below w0.heap.size w0 y0) := HB0.out.trans (hb0.mono HB0.out.size)
  clear hb0 a0_0 a0_1 a0_2
  have HF : Hid (Below w.heap.size w y0) := (HX.out _ HY0.out).2
  go_wp2_with fail
  go_ret
  exact ⟨rfl, HF.out⟩

set_option maxRecDepth 10000 in
set_option maxHeartbeats 1600000 in
theorem eqConn_nil (w : World) : Calls Try.prog 6 #[.agg #[.int .i64 0, .slice none 0 0, .int .i64 0, .bool false, .slice none 0 0, .int .i64 4096, .slice none 0 0, .int .i64 4096, .slice none 0 0, .slice none 0 0, .int .i64 0, .int .i64 0], .agg #[.int .i64 0, .slice none 0 0, .int .i64 0, .bool false, .slice none 0 0, .int .i64 4096, .slice none 0 0, .int .i64 4096, .slice none 0 0, .slice none 0 0, .int .i64 0, .int .i64 0]] w fun r w' => r = .returned (.bool true) ∧ Below w.heap.size w w' := by
  obtain ⟨w0, hw0⟩ : ∃ w0, (w.alloc (.cells #[.int .i64 0, .slice none 0 0, .int .i64 0, .bool false, .slice none 0 0, .int .i64 4096, .slice none 0 0, .int .i64 4096, .slice none 0 0, .slice none 0 0, .int .i64 0, .int .i64 0] 30)).alloc (.cells #[.int .i64 0, .slice none 0 0, .int .i64 0, .bool false, .slice none 0 0, .int .i64 4096, .slice none 0 0, .int .i64 4096, .slice none 0 0, .slice none 0 0, .int .i64 0, .int .i64 0] 30) = w0 := ⟨_, rfl⟩
  have HE : Hid ((w.alloc (.cells #[.int .i64 0, .slice none 0 0, .int .i64 0, .bool false, .slice none 0 0, .int .i64 4096, .slice none 0 0, .int .i64 4096, .slice none 0 0, .slice none 0 0, .int .i64 0, .int .i64 0] 30)).alloc (.cells #[.int .i64 0, .slice none 0 0, .int .i64 0, .bool false, .slice none 0 0, .int .i64 4096, .slice none 0 0, .int .i64 4096, .slice none 0 0, .slice none 0 0, .int .i64 0, .int .i64 0] 30) = w0) := hw0
  have HB : Hid (Below w.heap.size w w0) := by show Below _ _ _; rw [← hw0]; exact ((Below.refl _ _).alloc (Nat.le_refl _) _).alloc (by simp) _
  have hP : BoxN w0 w.heap.size 30 [.int .i64 0, .slice none 0 0, .int .i64 0, .bool false, .slice none 0 0, .int .i64 4096, .slice none 0 0, .int .i64 4096, .slice none 0 0, .slice none 0 0, .int .i64 0, .int .i64 0] := by rw [← hw0]; exact (BoxN.new _ _ _).alloc _
  have hQ : BoxN w0 (w.heap.size + 1) 30 [.int .i64 0, .slice none 0 0, .int .i64 0, .bool false, .slice none 0 0, .int .i64 4096, .slice none 0 0, .int .i64 4096, .slice none 0 0, .slice none 0 0, .int .i64 0, .int .i64 0] := by
    rw [← hw0]
    have := BoxN.new (w.alloc (.cells #[.int .i64 0, .slice none 0 0, .int .i64 0, .bool false, .slice none 0 0, .int .i64 4096, .slice none 0 0, .int .i64 4096, .slice none 0 0, .slice none 0 0, .int .i64 0, .int .i64 0] 30)) 30 [.int .i64 0, .slice none 0 0, .int .i64 0, .bool false, .slice none 0 0, .int .i64 4096, .slice none 0 0, .int .i64 4096, .slice none 0 0, .slice none 0 0, .int .i64 0, .int .i64 0]
    rw [World.size_alloc] at this
    exact this
  have HX : Hid (∀ W, Below w0.heap.size w0 W → BoxN W w.heap.size 30 [.int .i64 0, .slice none 0 0, .int .i64 0, .bool false, .slice none 0 0, .int .i64 4096, .slice none 0 0, .int .i64 4096, .slice none 0 0, .slice none 0 0, .int .i64 0, .int .i64 0] ∧ BoxN W (w.heap.size + 1) 30 [.int .i64 0, .slice none 0 0, .int .i64 0, .bool false, .slice none 0 0, .int .i64 4096, .slice none 0 0, .int .i64 4096, .slice none 0 0, .slice none 0 0, .int .i64 0, .int .i64 0] ∧ Below w.heap.size w W) := fun W hb => ⟨hP.stays hb, hQ.stays hb, HB.out.trans (hb.mono HB.out.size)⟩
  clear hw0 HB hP hQ
  have HB0 : Hid (Below w0.heap.size w0 w0) := Below.refl _ _
  go_enter Try.func6, Try.ntmps6
  go_upto_region 1 with fail
  rw [HE.out]
  clear HE
  have hA0 := (HX.out _ HB0.out).1
  have hC0 := (HX.out _ HB0.out).2.1
  have a0_0 := hA0.cell 0 rfl
  have b0_0 := hC0.cell 0 rfl
  have a0_1 := hA0.cell 1 rfl
  have b0_1 := hC0.cell 1 rfl
  have a0_2 := hA0.cell 2 rfl
  have b0_2 := hC0.cell 2 rfl
  have a0_3 := hA0.cell 3 rfl
  have b0_3 := hC0.cell 3 rfl
  have a0_4 := hA0.cell 4 rfl
  have b0_4 := hC0.cell 4 rfl
  have a0_5 := hA0.cell 5 rfl
  have b0_5 := hC0.cell 5 rfl
  have a0_6 := hA0.cell 6 rfl
  have b0_6 := hC0.cell 6 rfl
  have a0_7 := hA0.cell 7 rfl
  have b0_7 := hC0.cell 7 rfl
  have a0_8 := hA0.cell 8 rfl
  have b0_8 := hC0.cell 8 rfl
  have a0_9 := hA0.cell 9 rfl
  have b0_9 := hC0.cell 9 rfl
  have a0_10 := hA0.cell 10 rfl
  have b0_10 := hC0.cell 10 rfl
  have a0_11 := hA0.cell 11 rfl
  have b0_11 := hC0.cell 11 rfl
  clear hA0 hC0
  go_wp2_with fail
  refine (eqByteS_nil w0).mono ?_
  rintro _ y0 ⟨rfl, hb0⟩
  have HY0 : Hid (Below w0.heap.size w0 y0) := HB0.out.trans (hb0.mono HB0.out.size)
  clear hb0 a0_0 b0_0 a0_1 b0_1 a0_2 b0_2 a0_3 b0_3 a0_4 b0_4 a0_5 b0_5 a0_6 b0_6 a0_7 b0_7 a0_8 b0_8 a0_9 b0_9 a0_10 b0_10 a0_11 b0_11
  have hA1 := (HX.out _ HY0.out).1
  have hC1 := (HX.out _ HY0.out).2.1
  have a1_0 := hA1.cell 0 rfl
  have b1_0 := hC1.cell 0 rfl
  have a1_1 := hA1.cell 1 rfl
  have b1_1 := hC1.cell 1 rfl
  have a1_2 := hA1.cell 2 rfl
  have b1_2 := hC1.cell 2 rfl
  have a1_3 := hA1.cell 3 rfl
  have b1_3 := hC1.cell 3 rfl
  have a1_4 := hA1.cell 4 rfl
  have b1_4 := hC1.cell 4 rfl
  have a1_5 := hA1.cell 5 rfl
  have b1_5 := hC1.cell 5 rfl
  have a1_6 := hA1.cell 6 rfl
  have b1_6 := hC1.cell 6 rfl
  have a1_7 := hA1.cell 7 rfl
  have b1_7 := hC1.cell 7 rfl
  have a1_8 := hA1.cell 8 rfl
  have b1_8 := hC1.cell 8 rfl
  have a1_9 := hA1.cell 9 rfl
  have b1_9 := hC1.cell 9 rfl
  have a1_10 := hA1.cell 10 rfl
  have b1_10 := hC1.cell 10 rfl
  have a1_11 := hA1.cell 11 rfl
  have b1_11 := hC1.cell 11 rfl
  clear hA1 hC1
  go_wp2_with fail
  refine (eqGather_nil y0).mono ?_
  rintro _ y1 ⟨rfl, hb1⟩
  have HY1 : Hid (Below w0.heap.size w0 y1) := HY0.out.trans (hb1.mono HY0.out.size)
  clear hb1 a1_0 b1_0 a1_1 b1_1 a1_2 b1_2 a1_3 b1_3 a1_4 b1_4 a1_5 b1_5 a1_6 b1_6 a1_7 b1_7 a1_8 b1_8 a1_9 b1_9 a1_10 b1_10 a1_11 b1_11
  have hA2 := (HX.out _ HY1.out).1
  have hC2 := (HX.out _ HY1.out).2.1
  have a2_0 := hA2.cell 0 rfl
  have b2_0 := hC2.cell 0 rfl
  have a2_1 := hA2.cell 1 rfl
  have b2_1 := hC2.cell 1 rfl
  have a2_2 := hA2.cell 2 rfl
  have b2_2 := hC2.cell 2 rfl
  have a2_3 := hA2.cell 3 rfl
  have b2_3 := hC2.cell 3 rfl
  have a2_4 := hA2.cell 4 rfl
  have b2_4 := hC2.cell 4 rfl
  have a2_5 := hA2.cell 5 rfl
  have b2_5 := hC2.cell 5 rfl
  have a2_6 := hA2.cell 6 rfl
  have b2_6 := hC2.cell 6 rfl
  have a2_7 := hA2.cell 7 rfl
  have b2_7 := hC2.cell 7 rfl
  have a2_8 := hA2.cell 8 rfl
  have b2_8 := hC2.cell 8 rfl
  have a2_9 := hA2.cell 9 rfl
  have b2_9 := hC2.cell 9 rfl
  have a2_10 := hA2.cell 10 rfl
  have b2_10 := hC2.cell 10 rfl
  have a2_11 := hA2.cell 11 rfl
  have b2_11 := hC2.cell 11 rfl
  clear hA2 hC2
  go_wp2_with fail
  refine (eqTable_nil y1).mono ?_
  rintro _ y2 ⟨rfl, hb2⟩
  have HY2 : Hid (Below w0.heap.size w0 y2) := HY1.out.trans (hb2.mono HY1.out.size)
  clear hb2 a2_0 b2_0 a2_1 b2_1 a2_2 b2_2 a2_3 b2_3 a2_4 b2_4 a2_5 b2_5 a2_6 b2_6 a2_7 b2_7 a2_8 b2_8 a2_9 b2_9 a2_10 b2_10 a2_11 b2_11
  have hA3 := (HX.out _ HY2.out).1
  have hC3 := (HX.out _ HY2.out).2.1
  have a3_0 := hA3.cell 0 rfl
  have b3_0 := hC3.cell 0 rfl
  have a3_1 := hA3.cell 1 rfl
  have b3_1 := hC3.cell 1 rfl
  have a3_2 := hA3.cell 2 rfl
  have b3_2 := hC3.cell 2 rfl
  have a3_3 := hA3.cell 3 rfl
  have b3_3 := hC3.cell 3 rfl
  have a3_4 := hA3.cell 4 rfl
  have b3_4 := hC3.cell 4 rfl
  have a3_5 := hA3.cell 5 rfl
  have b3_5 := hC3.cell 5 rfl
  have a3_6 := hA3.cell 6 rfl
  have b3_6 := hC3.cell 6 rfl
  have a3_7 := hA3.cell 7 rfl
  have b3_7 := hC3.cell 7 rfl
  have a3_8 := hA3.cell 8 rfl
  have b3_8 := hC3.cell 8 rfl
  have a3_9 := hA3.cell 9 rfl
  have b3_9 := hC3.cell 9 rfl
  have a3_10 := hA3.cell 10 rfl
  have b3_10 := hC3.cell 10 rfl
  have a3_11 := hA3.cell 11 rfl
  have b3_11 := hC3.cell 11 rfl
  clear hA3 hC3
  go_wp2_with fail
  refine (eqTable_nil y2).mono ?_
  rintro _ y3 ⟨rfl, hb3⟩
  have HY3 : Hid (Below w0.heap.size w0 y3) := HY2.out.trans (hb3.mono HY2.out.size)
  clear hb3 a3_0 b3_0 a3_1 b3_1 a3_2 b3_2 a3_3 b3_3 a3_4 b3_4 a3_5 b3_5 a3_6 b3_6 a3_7 b3_7 a3_8 b3_8 a3_9 b3_9 a3_10 b3_10 a3_11 b3_11
  have hA4 := (HX.out _ HY3.out).1
  have hC4 := (HX.out _ HY3.out).2.1
  have a4_0 := hA4.cell 0 rfl
  have b4_0 := hC4.cell 0 rfl
  have a4_1 := hA4.cell 1 rfl
  have b4_1 := hC4.cell 1 rfl
  have a4_2 := hA4.cell 2 rfl
  have b4_2 := hC4.cell 2 rfl
  have a4_3 := hA4.cell 3 rfl
  have b4_3 := hC4.cell 3 rfl
  have a4_4 := hA4.cell 4 rfl
  have b4_4 := hC4.cell 4 rfl
  have a4_5 := hA4.cell 5 rfl
  have b4_5 := hC4.cell 5 rfl
  have a4_6 := hA4.cell 6 rfl
  have b4_6 := hC4.cell 6 rfl
  have a4_7 := hA4.cell 7 rfl
  have b4_7 := hC4.cell 7 rfl
  have a4_8 := hA4.cell 8 rfl
  have b4_8 := hC4.cell 8 rfl
  have a4_9 := hA4.cell 9 rfl
  have b4_9 := hC4.cell 9 rfl
  have a4_10 := hA4.cell 10 rfl
  have b4_10 := hC4.cell 10 rfl
  have a4_11 := hA4.cell 11 rfl
  have b4_11 := hC4.cell 11 rfl
  clear hA4 hC4
  go_wp2_with fail
  refine (eqStrS_nil y3).mono ?_
  rintro _ y4 ⟨rfl, hb4⟩
  have HY4 : Hid (Below w0.heap.size w0 y4) := HY3.out.trans (hb4.mono HY3.out.size)
  clear hb4 a4_0 b4_0 a4_1 b4_1 a4_2 b4_2 a4_3 b4_3 a4_4 b4_4 a4_5 b4_5 a4_6 b4_6 a4_7 b4_7 a4_8 b4_8 a4_9 b4_9 a4_10 b4_10 a4_11 b4_11
  have HF : Hid (Below w.heap.size w y4) := (HX.out _ HY4.out).2.2
  have hA := (HX.out _ HY4.out).1
  have hC := (HX.out _ HY4.out).2.1
  have a_0 := hA.cell 0 rfl
  have b_0 := hC.cell 0 rfl
  have a_1 := hA.cell 1 rfl
  have b_1 := hC.cell 1 rfl
  have a_2 := hA.cell 2 rfl
  have b_2 := hC.cell 2 rfl
  have a_3 := hA.cell 3 rfl
  have b_3 := hC.cell 3 rfl
  have a_4 := hA.cell 4 rfl
  have b_4 := hC.cell 4 rfl
  have a_5 := hA.cell 5 rfl
  have b_5 := hC.cell 5 rfl
  have a_6 := hA.cell 6 rfl
  have b_6 := hC.cell 6 rfl
  have a_7 := hA.cell 7 rfl
  have b_7 := hC.cell 7 rfl
  have a_8 := hA.cell 8 rfl
  have b_8 := hC.cell 8 rfl
  have a_9 := hA.cell 9 rfl
  have b_9 := hC.cell 9 rfl
  have a_10 := hA.cell 10 rfl
  have b_10 := hC.cell 10 rfl
  have a_11 := hA.cell 11 rfl
  have b_11 := hC.cell 11 rfl
  clear hA hC
  go_wp2_with fail
  go_ret
  exact ⟨rfl, HF.out⟩

set_option maxRecDepth 10000 in
set_option maxHeartbeats 1600000 in
theorem markConn_nil (w : World) : Calls Try.prog 7 #[.agg #[.int .i64 0, .slice none 0 0, .int .i64 0, .bool false, .slice none 0 0, .int .i64 4096, .slice none 0 0, .int .i64 4096, .slice none 0 0, .slice none 0 0, .int .i64 0, .int .i64 0], .int .i64 1] w fun r w' => r = .returned (.int .i64 1) ∧ Below w.heap.size w w' := by
  obtain ⟨w0, hw0⟩ : ∃ w0, w.alloc (.cells #[.int .i64 0, .slice none 0 0, .int .i64 0, .bool false, .slice none 0 0, .int .i64 4096, .slice none 0 0, .int .i64 4096, .slice none 0 0, .slice none 0 0, .int .i64 0, .int .i64 0] 30) = w0 := ⟨_, rfl⟩
  have HE : Hid (w.alloc (.cells #[.int .i64 0, .slice none 0 0, .int .i64 0, .bool false, .slice none 0 0, .int .i64 4096, .slice none 0 0, .int .i64 4096, .slice none 0 0, .slice none 0 0, .int .i64 0, .int .i64 0] 30) = w0) := hw0
  have HB : Hid (Below w.heap.size w w0) := by show Below _ _ _; rw [← hw0]; exact (Below.refl _ _).alloc (Nat.le_refl _) _
  have hP : BoxN w0 w.heap.size 30 [.int .i64 0, .slice none 0 0, .int .i64 0, .bool false, .slice none 0 0, .int .i64 4096, .slice none 0 0, .int .i64 4096, .slice none 0 0, .slice none 0 0, .int .i64 0, .int .i64 0] := by rw [← hw0]; exact BoxN.new _ _ _
  have HX : Hid (∀ W, Below w0.heap.size w0 W → BoxN W w.heap.size 30 [.int .i64 0, .slice none 0 0, .int .i64 0, .bool false, .slice none 0 0, .int .i64 4096, .slice none 0 0, .int .i64 4096, .slice none 0 0, .slice none 0 0, .int .i64 0, .int .i64 0] ∧ Below w.heap.size w W) := fun W hb => ⟨hP.stays hb, HB.out.trans (hb.mono HB.out.size)⟩
  clear hw0 HB hP
  have HB0 : Hid (Below w0.heap.size w0 w0) := Below.refl _ _
  go_enter Try.func7, Try.ntmps7
  go_upto_region 1 with fail
  rw [HE.out]
  clear HE
  have hA0 := (HX.out _ HB0.out).1
  have a0_0 := hA0.cell 0 rfl
  have a0_1 := hA0.cell 1 rfl
  have a0_2 := hA0.cell 2 rfl
  have a0_3 := hA0.cell 3 rfl
  have a0_4 := hA0.cell 4 rfl
  have a0_5 := hA0.cell 5 rfl
  have a0_6 := hA0.cell 6 rfl
  have a0_7 := hA0.cell 7 rfl
  have a0_8 := hA0.cell 8 rfl
  have a0_9 := hA0.cell 9 rfl
  have a0_10 := hA0.cell 10 rfl
  have a0_11 := hA0.cell 11 rfl
  clear hA0
  go_wp2_with fail
  refine (markByteS_nil 1 w0).mono ?_
  rintro _ y0 ⟨rfl, hb0⟩
  have HY0 : Hid (Below w0.heap.size w0 y0) := HB0.out.trans (hb0.mono HB0.out.size)
  clear hb0 a0_0 a0_1 a0_2 a0_3 a0_4 a0_5 a0_6 a0_7 a0_8 a0_9 a0_10 a0_11
  have hA1 := (HX.out _ HY0.out).1
  have a1_0 := hA1.cell 0 rfl
  have a1_1 := hA1.cell 1 rfl
  have a1_2 := hA1.cell 2 rfl
  have a1_3 := hA1.cell 3 rfl
  have a1_4 := hA1.cell 4 rfl
  have a1_5 := hA1.cell 5 rfl
  have a1_6 := hA1.cell 6 rfl
  have a1_7 := hA1.cell 7 rfl
  have a1_8 := hA1.cell 8 rfl
  have a1_9 := hA1.cell 9 rfl
  have a1_10 := hA1.cell 10 rfl
  have a1_11 := hA1.cell 11 rfl
  clear hA1
  go_wp2_with fail
  refine (markGather_nil y0).mono ?_
  rintro _ y1 ⟨rfl, hb1⟩
  have HY1 : Hid (Below w0.heap.size w0 y1) := HY0.out.trans (hb1.mono HY0.out.size)
  clear hb1 a1_0 a1_1 a1_2 a1_3 a1_4 a1_5 a1_6 a1_7 a1_8 a1_9 a1_10 a1_11
  have hA2 := (HX.out _ HY1.out).1
  have a2_0 := hA2.cell 0 rfl
  have a2_1 := hA2.cell 1 rfl
  have a2_2 := hA2.cell 2 rfl
  have a2_3 := hA2.cell 3 rfl
  have a2_4 := hA2.cell 4 rfl
  have a2_5 := hA2.cell 5 rfl
  have a2_6 := hA2.cell 6 rfl
  have a2_7 := hA2.cell 7 rfl
  have a2_8 := hA2.cell 8 rfl
  have a2_9 := hA2.cell 9 rfl
  have a2_10 := hA2.cell 10 rfl
  have a2_11 := hA2.cell 11 rfl
  clear hA2
  go_wp2_with fail
  refine (markTable_nil y1).mono ?_
  rintro _ y2 ⟨rfl, hb2⟩
  have HY2 : Hid (Below w0.heap.size w0 y2) := HY1.out.trans (hb2.mono HY1.out.size)
  clear hb2 a2_0 a2_1 a2_2 a2_3 a2_4 a2_5 a2_6 a2_7 a2_8 a2_9 a2_10 a2_11
  have hA3 := (HX.out _ HY2.out).1
  have a3_0 := hA3.cell 0 rfl
  have a3_1 := hA3.cell 1 rfl
  have a3_2 := hA3.cell 2 rfl
  have a3_3 := hA3.cell 3 rfl
  have a3_4 := hA3.cell 4 rfl
  have a3_5 := hA3.cell 5 rfl
  have a3_6 := hA3.cell 6 rfl
  have a3_7 := hA3.cell 7 rfl
  have a3_8 := hA3.cell 8 rfl
  have a3_9 := hA3.cell 9 rfl
  have a3_10 := hA3.cell 10 rfl
  have a3_11 := hA3.cell 11 rfl
  clear hA3
  go_wp2_with fail
  refine (markTable_nil y2).mono ?_
  rintro _ y3 ⟨rfl, hb3⟩
  have HY3 : Hid (Below w0.heap.size w0 y3) := HY2.out.trans (hb3.mono HY2.out.size)
  clear hb3 a3_0 a3_1 a3_2 a3_3 a3_4 a3_5 a3_6 a3_7 a3_8 a3_9 a3_10 a3_11
  have hA4 := (HX.out _ HY3.out).1
  have a4_0 := hA4.cell 0 rfl
  have a4_1 := hA4.cell 1 rfl
  have a4_2 := hA4.cell 2 rfl
  have a4_3 := hA4.cell 3 rfl
  have a4_4 := hA4.cell 4 rfl
  have a4_5 := hA4.cell 5 rfl
  have a4_6 := hA4.cell 6 rfl
  have a4_7 := hA4.cell 7 rfl
  have a4_8 := hA4.cell 8 rfl
  have a4_9 := hA4.cell 9 rfl
  have a4_10 := hA4.cell 10 rfl
  have a4_11 := hA4.cell 11 rfl
  clear hA4
  go_wp2_with fail
  refine (markStrS_nil 1 y3).mono ?_
  rintro _ y4 ⟨rfl, hb4⟩
  have HY4 : Hid (Below w0.heap.size w0 y4) := HY3.out.trans (hb4.mono HY3.out.size)
  clear hb4 a4_0 a4_1 a4_2 a4_3 a4_4 a4_5 a4_6 a4_7 a4_8 a4_9 a4_10 a4_11
  have HF : Hid (Below w.heap.size w y4) := (HX.out _ HY4.out).2
  go_wp2_with fail
  go_ret
  exact ⟨rfl, HF.out⟩

set_option maxRecDepth 10000 in
set_option maxHeartbeats 1600000 in
theorem heldConn_nil (w : World) : Calls Try.prog 8 #[.agg #[.int .i64 0, .slice none 0 0, .int .i64 0, .bool false, .slice none 0 0, .int .i64 4096, .slice none 0 0, .int .i64 4096, .slice none 0 0, .slice none 0 0, .int .i64 0, .int .i64 0], .int .i64 1] w fun r w' => r = .returned (.int .i64 1) ∧ Below w.heap.size w w' := by
  obtain ⟨w0, hw0⟩ : ∃ w0, w.alloc (.cells #[.int .i64 0, .slice none 0 0, .int .i64 0, .bool false, .slice none 0 0, .int .i64 4096, .slice none 0 0, .int .i64 4096, .slice none 0 0, .slice none 0 0, .int .i64 0, .int .i64 0] 30) = w0 := ⟨_, rfl⟩
  have HE : Hid (w.alloc (.cells #[.int .i64 0, .slice none 0 0, .int .i64 0, .bool false, .slice none 0 0, .int .i64 4096, .slice none 0 0, .int .i64 4096, .slice none 0 0, .slice none 0 0, .int .i64 0, .int .i64 0] 30) = w0) := hw0
  have HB : Hid (Below w.heap.size w w0) := by show Below _ _ _; rw [← hw0]; exact (Below.refl _ _).alloc (Nat.le_refl _) _
  have hP : BoxN w0 w.heap.size 30 [.int .i64 0, .slice none 0 0, .int .i64 0, .bool false, .slice none 0 0, .int .i64 4096, .slice none 0 0, .int .i64 4096, .slice none 0 0, .slice none 0 0, .int .i64 0, .int .i64 0] := by rw [← hw0]; exact BoxN.new _ _ _
  have HX : Hid (∀ W, Below w0.heap.size w0 W → BoxN W w.heap.size 30 [.int .i64 0, .slice none 0 0, .int .i64 0, .bool false, .slice none 0 0, .int .i64 4096, .slice none 0 0, .int .i64 4096, .slice none 0 0, .slice none 0 0, .int .i64 0, .int .i64 0] ∧ Below w.heap.size w W) := fun W hb => ⟨hP.stays hb, HB.out.trans (hb.mono HB.out.size)⟩
  clear hw0 HB hP
  have HB0 : Hid (Below w0.heap.size w0 w0) := Below.refl _ _
  go_enter Try.func8, Try.ntmps8
  go_upto_region 1 with fail
  rw [HE.out]
  clear HE
  have hA0 := (HX.out _ HB0.out).1
  have a0_0 := hA0.cell 0 rfl
  have a0_1 := hA0.cell 1 rfl
  have a0_2 := hA0.cell 2 rfl
  have a0_3 := hA0.cell 3 rfl
  have a0_4 := hA0.cell 4 rfl
  have a0_5 := hA0.cell 5 rfl
  have a0_6 := hA0.cell 6 rfl
  have a0_7 := hA0.cell 7 rfl
  have a0_8 := hA0.cell 8 rfl
  have a0_9 := hA0.cell 9 rfl
  have a0_10 := hA0.cell 10 rfl
  have a0_11 := hA0.cell 11 rfl
  clear hA0
  go_wp2_with fail
  refine (heldByteS_nil 1 w0).mono ?_
  rintro _ y0 ⟨rfl, hb0⟩
  have HY0 : Hid (Below w0.heap.size w0 y0) := HB0.out.trans (hb0.mono HB0.out.size)
  clear hb0 a0_0 a0_1 a0_2 a0_3 a0_4 a0_5 a0_6 a0_7 a0_8 a0_9 a0_10 a0_11
  have hA1 := (HX.out _ HY0.out).1
  have a1_0 := hA1.cell 0 rfl
  have a1_1 := hA1.cell 1 rfl
  have a1_2 := hA1.cell 2 rfl
  have a1_3 := hA1.cell 3 rfl
  have a1_4 := hA1.cell 4 rfl
  have a1_5 := hA1.cell 5 rfl
  have a1_6 := hA1.cell 6 rfl
  have a1_7 := hA1.cell 7 rfl
  have a1_8 := hA1.cell 8 rfl
  have a1_9 := hA1.cell 9 rfl
  have a1_10 := hA1.cell 10 rfl
  have a1_11 := hA1.cell 11 rfl
  clear hA1
  go_wp2_with fail
  refine (heldGather_nil y0).mono ?_
  rintro _ y1 ⟨rfl, hb1⟩
  have HY1 : Hid (Below w0.heap.size w0 y1) := HY0.out.trans (hb1.mono HY0.out.size)
  clear hb1 a1_0 a1_1 a1_2 a1_3 a1_4 a1_5 a1_6 a1_7 a1_8 a1_9 a1_10 a1_11
  have hA2 := (HX.out _ HY1.out).1
  have a2_0 := hA2.cell 0 rfl
  have a2_1 := hA2.cell 1 rfl
  have a2_2 := hA2.cell 2 rfl
  have a2_3 := hA2.cell 3 rfl
  have a2_4 := hA2.cell 4 rfl
  have a2_5 := hA2.cell 5 rfl
  have a2_6 := hA2.cell 6 rfl
  have a2_7 := hA2.cell 7 rfl
  have a2_8 := hA2.cell 8 rfl
  have a2_9 := hA2.cell 9 rfl
  have a2_10 := hA2.cell 10 rfl
  have a2_11 := hA2.cell 11 rfl
  clear hA2
  go_wp2_with fail
  refine (heldTable_nil y1).mono ?_
  rintro _ y2 ⟨rfl, hb2⟩
  have HY2 : Hid (Below w0.heap.size w0 y2) := HY1.out.trans (hb2.mono HY1.out.size)
  clear hb2 a2_0 a2_1 a2_2 a2_3 a2_4 a2_5 a2_6 a2_7 a2_8 a2_9 a2_10 a2_11
  have hA3 := (HX.out _ HY2.out).1
  have a3_0 := hA3.cell 0 rfl
  have a3_1 := hA3.cell 1 rfl
  have a3_2 := hA3.cell 2 rfl
  have a3_3 := hA3.cell 3 rfl
  have a3_4 := hA3.cell 4 rfl
  have a3_5 := hA3.cell 5 rfl
  have a3_6 := hA3.cell 6 rfl
  have a3_7 := hA3.cell 7 rfl
  have a3_8 := hA3.cell 8 rfl
  have a3_9 := hA3.cell 9 rfl
  have a3_10 := hA3.cell 10 rfl
  have a3_11 := hA3.cell 11 rfl
  clear hA3
  go_wp2_with fail
  refine (heldTable_nil y2).mono ?_
  rintro _ y3 ⟨rfl, hb3⟩
  have HY3 : Hid (Below w0.heap.size w0 y3) := HY2.out.trans (hb3.mono HY2.out.size)
  clear hb3 a3_0 a3_1 a3_2 a3_3 a3_4 a3_5 a3_6 a3_7 a3_8 a3_9 a3_10 a3_11
  have hA4 := (HX.out _ HY3.out).1
  have a4_0 := hA4.cell 0 rfl
  have a4_1 := hA4.cell 1 rfl
  have a4_2 := hA4.cell 2 rfl
  have a4_3 := hA4.cell 3 rfl
  have a4_4 := hA4.cell 4 rfl
  have a4_5 := hA4.cell 5 rfl
  have a4_6 := hA4.cell 6 rfl
  have a4_7 := hA4.cell 7 rfl
  have a4_8 := hA4.cell 8 rfl
  have a4_9 := hA4.cell 9 rfl
  have a4_10 := hA4.cell 10 rfl
  have a4_11 := hA4.cell 11 rfl
  clear hA4
  go_wp2_with fail
  refine (heldStrS_nil 1 y3).mono ?_
  rintro _ y4 ⟨rfl, hb4⟩
  have HY4 : Hid (Below w0.heap.size w0 y4) := HY3.out.trans (hb4.mono HY3.out.size)
  clear hb4 a4_0 a4_1 a4_2 a4_3 a4_4 a4_5 a4_6 a4_7 a4_8 a4_9 a4_10 a4_11
  have HF : Hid (Below w.heap.size w y4) := (HX.out _ HY4.out).2
  go_wp2_with fail
  go_ret
  exact ⟨rfl, HF.out⟩

set_option maxRecDepth 10000 in
set_option maxHeartbeats 1600000 in
theorem specConnNew_any (w : World) : Calls Try.prog 4 #[] w fun r w' => r = .returned (.agg #[.int .i64 0, .slice none 0 0, .int .i64 0, .bool false, .slice none 0 0, .int .i64 4096, .slice none 0 0, .int .i64 4096, .slice none 0 0, .slice none 0 0, .int .i64 0, .int .i64 0]) ∧ Below w.heap.size w w' := by
  obtain ⟨w0, hw0⟩ : ∃ w0, w.alloc (.cells #[.int .i64 0, .slice none 0 0, .int .i64 0, .bool false, .slice none 0 0, .int .i64 0, .slice none 0 0, .int .i64 0, .slice none 0 0, .slice none 0 0, .int .i64 0, .int .i64 0] 30) = w0 := ⟨_, rfl⟩
  have HE : Hid (w.alloc (.cells #[.int .i64 0, .slice none 0 0, .int .i64 0, .bool false, .slice none 0 0, .int .i64 0, .slice none 0 0, .int .i64 0, .slice none 0 0, .slice none 0 0, .int .i64 0, .int .i64 0] 30) = w0) := hw0
  have HB : Hid (Below w.heap.size w w0) := by show Below _ _ _; rw [← hw0]; exact (Below.refl _ _).alloc (Nat.le_refl _) _
  have hP : BoxN w0 w.heap.size 30 [.int .i64 0, .slice none 0 0, .int .i64 0, .bool false, .slice none 0 0, .int .i64 0, .slice none 0 0, .int .i64 0, .slice none 0 0, .slice none 0 0, .int .i64 0, .int .i64 0] := by rw [← hw0]; exact BoxN.new _ _ _
  have a0 := hP.cell 0 rfl
  have f0 := hP.frozen 0
  have a1 := hP.cell 1 rfl
  have f1 := hP.frozen 1
  have a2 := hP.cell 2 rfl
  have f2 := hP.frozen 2
  have a3 := hP.cell 3 rfl
  have f3 := hP.frozen 3
  have a4 := hP.cell 4 rfl
  have f4 := hP.frozen 4
  have a5 := hP.cell 5 rfl
  have f5 := hP.frozen 5
  have a6 := hP.cell 6 rfl
  have f6 := hP.frozen 6
  have a7 := hP.cell 7 rfl
  have f7 := hP.frozen 7
  have a8 := hP.cell 8 rfl
  have f8 := hP.frozen 8
  have a9 := hP.cell 9 rfl
  have f9 := hP.frozen 9
  have a10 := hP.cell 10 rfl
  have f10 := hP.frozen 10
  have a11 := hP.cell 11 rfl
  have f11 := hP.frozen 11
  clear hw0 hP
  go_enter Try.func4, Try.ntmps4
  go_upto_region 1 with fail
  rw [HE.out]
  clear HE
  go_wp2_with fail
  refine bodyPost_ret (v := .agg #[.int .i64 0, .slice none 0 0, .int .i64 0, .bool false, .slice none 0 0, .int .i64 4096, .slice none 0 0, .int .i64 4096, .slice none 0 0, .slice none 0 0, .int .i64 0, .int .i64 0]) (by simp [results, Try.f4, go_sem, a0, a1, a2, a3, a4, a5, a6, a7, a8, a9, a10, a11]) rfl ?_
  refine ⟨rfl, ?_⟩
  exact (((((((((((HB.out.setCell (Nat.le_refl _) _).setCell (Nat.le_refl _) _).setCell (Nat.le_refl _) _).setCell (Nat.le_refl _) _).setCell (Nat.le_refl _) _).setCell (Nat.le_refl _) _).setCell (Nat.le_refl _) _).setCell (Nat.le_refl _) _).setCell (Nat.le_refl _) _).setCell (Nat.le_refl _) _).setCell (Nat.le_refl _) _).setCell (Nat.le_refl _) _

set_option maxRecDepth 10000 in
set_option maxHeartbeats 1600000 in
theorem implConnNew_any (w : World) : Calls Try.prog 5 #[] w fun r w' => r = .returned (.agg #[.int .i64 0, .slice none 0 0, .int .i64 0, .bool false, .slice none 0 0, .int .i64 4096, .slice none 0 0, .int .i64 4096, .slice none 0 0, .slice none 0 0, .int .i64 0, .int .i64 0]) ∧ Below w.heap.size w w' := by
  obtain ⟨w0, hw0⟩ : ∃ w0, w.alloc (.cells #[.int .i64 0, .slice none 0 0, .int .i64 0, .bool false, .slice none 0 0, .int .i64 0, .slice none 0 0, .int .i64 0, .slice none 0 0, .slice none 0 0, .int .i64 0, .int .i64 0] 30) = w0 := ⟨_, rfl⟩
  have HE : Hid (w.alloc (.cells #[.int .i64 0, .slice none 0 0, .int .i64 0, .bool false, .slice none 0 0, .int .i64 0, .slice none 0 0, .int .i64 0, .slice none 0 0, .slice none 0 0, .int .i64 0, .int .i64 0] 30) = w0) := hw0
  have HB : Hid (Below w.heap.size w w0) := by show Below _ _ _; rw [← hw0]; exact (Below.refl _ _).alloc (Nat.le_refl _) _
  have hP : BoxN w0 w.heap.size 30 [.int .i64 0, .slice none 0 0, .int .i64 0, .bool false, .slice none 0 0, .int .i64 0, .slice none 0 0, .int .i64 0, .slice none 0 0, .slice none 0 0, .int .i64 0, .int .i64 0] := by rw [← hw0]; exact BoxN.new _ _ _
  have a0 := hP.cell 0 rfl
  have f0 := hP.frozen 0
  have a1 := hP.cell 1 rfl
  have f1 := hP.frozen 1
  have a2 := hP.cell 2 rfl
  have f2 := hP.frozen 2
  have a3 := hP.cell 3 rfl
  have f3 := hP.frozen 3
  have a4 := hP.cell 4 rfl
  have f4 := hP.frozen 4
  have a5 := hP.cell 5 rfl
  have f5 := hP.frozen 5
  have a6 := hP.cell 6 rfl
  have f6 := hP.frozen 6
  have a7 := hP.cell 7 rfl
  have f7 := hP.frozen 7
  have a8 := hP.cell 8 rfl
  have f8 := hP.frozen 8
  have a9 := hP.cell 9 rfl
  have f9 := hP.frozen 9
  have a10 := hP.cell 10 rfl
  have f10 := hP.frozen 10
  have a11 := hP.cell 11 rfl
  have f11 := hP.frozen 11
  clear hw0 hP
  go_enter Try.func5, Try.ntmps5
  go_upto_region 1 with fail
  rw [HE.out]
  clear HE
  go_wp2_with fail
  refine bodyPost_ret (v := .agg #[.int .i64 0, .slice none 0 0, .int .i64 0, .bool false, .slice none 0 0, .int .i64 4096, .slice none 0 0, .int .i64 4096, .slice none 0 0, .slice none 0 0, .int .i64 0, .int .i64 0]) (by simp [results, Try.f5, go_sem, a0, a1, a2, a3, a4, a5, a6, a7, a8, a9, a10, a11]) rfl ?_
  refine ⟨rfl, ?_⟩
  exact (((((((((((HB.out.setCell (Nat.le_refl _) _).setCell (Nat.le_refl _) _).setCell (Nat.le_refl _) _).setCell (Nat.le_refl _) _).setCell (Nat.le_refl _) _).setCell (Nat.le_refl _) _).setCell (Nat.le_refl _) _).setCell (Nat.le_refl _) _).setCell (Nat.le_refl _) _).setCell (Nat.le_refl _) _).setCell (Nat.le_refl _) _).setCell (Nat.le_refl _) _

end Go.Proofs.Ytpjldfpipchmjav
