/- What the program's recTextOf answers: a text as an array of bytes; and that two such arrays are the same just where the texts are. -/
import Derived.Test.YtenkpgnkkkgdmaeDoorRecN
import Derived.Test.YtenkpgnkkkgdmaeDoorBoxN
import Derived.Deep.WholeRow
import Derived.Deep.CutBlock
import Derived.Stop.BytesEq
import Derived.Lib.BufferWrite
namespace Go.Proofs.YtenkpgnkkkgdmaeDoor
open Go.RowKit
set_option linter.unusedVariables false

/-- A text as an array: how long it is, its bytes, noughts behind them. -/
def rtU (s : ByteArray) : List UInt8 := UInt8.ofNat s.size :: (s.data.toList ++ List.replicate (48 - s.size) 0)
def rtV (s : ByteArray) : Array Value := ((rtU s).map Extern.Stop.cell).toArray

theorem rtU_len (s : ByteArray) (h : s.size ≤ 48) : (rtU s).length = 49 := by
  simp [rtU]
  omega

theorem rtU_inj {s t : ByteArray} (hs : s.size ≤ 48) (ht : t.size ≤ 48) (h : rtU s = rtU t) : s = t := by
  simp only [rtU, List.cons.injEq] at h
  have h1 : s.size = t.size := by
    have := congrArg UInt8.toNat h.1
    simp at this
    omega
  have h2 : s.data.toList = t.data.toList := by
    have := h.2
    rw [h1] at this
    exact List.append_cancel_right this
  cases s
  cases t
  exact congrArg ByteArray.mk (Array.toList_inj.1 h2)

theorem rtSize : ∀ w, (sizeOf 5).run Tryd.prog w = .ok 1 w := fun w => by simp [go_sem]

/-- Two arrays held against each other. -/
theorem rt_eq (s t : ByteArray) (hs : s.size ≤ 48) (ht : t.size ≤ 48) (w : World) : (Op.equalIn 10000 92 (.agg (rtV s)) (.agg (rtV t))).run Tryd.prog w = .ok (decide (s = t)) w := by
  simp only [rtV]
  rw [run_equalIn_bytes w 9998 92 5 49 Tryd.underlying92 Tryd.underlying5 rtSize _ _ (rtU_len s hs) (rtU_len t ht)]
  congr 1
  rw [Bool.eq_iff_iff]
  by_cases h : s = t
  · subst h; simp
  · have : rtU s ≠ rtU t := fun e => h (rtU_inj hs ht e)
    simp [h, this]

theorem rt_cells (v z : Value) (X : List Value) (K n : Nat) : List.take 1 (v :: List.replicate K z).toArray.toList ++ X ++ List.drop (1 + n) (v :: List.replicate K z).toArray.toList = v :: (X ++ List.replicate (K - n) z) := by
  rw [Nat.add_comm, List.drop_succ_cons, List.drop_replicate]
  rfl

theorem Tryd.infoT : (Tryd.prog.info? 92).map (fun i => (i.zero, i.size)) = some (some (.agg (Array.replicate 49 (.int .u8 0))), 49) := by kernel_rfl

set_option maxRecDepth 100000 in
theorem rt_built (n : Int) : Tryd.prog.built 92 [(0, .int .u8 n)] = some ((Value.int .u8 n :: List.replicate 48 (Value.int .u8 0)).toArray) := by rfl

set_option maxRecDepth 10000 in
set_option maxHeartbeats 1600000 in
theorem recText_any (s : ByteArray) (w : World) (h : s.size ≤ 48) :
    Calls Tryd.prog 60 #[.string s] w fun e w' => e = .returned (.agg (rtV s)) ∧ Below w.heap.size w w' := by
  obtain ⟨i0, hi, hz0, hz1, hz2⟩ := info_parts Tryd.info5
  obtain ⟨Z, hZ⟩ : ∃ Z, Array.replicate 49 (Value.int .u8 0) = Z := ⟨_, rfl⟩
  have hz : ∀ w, (zeroValue 92).run Tryd.prog w = .ok (.agg Z) w := by rw [← hZ]; exact (zero_of_info Tryd.infoT).1
  have HZs : Hid (Z.size = 49) := by show _ = _; rw [← hZ]; simp
  have HTs : Hid ((Tryd.prog.info? 92).map (·.size) = some 49) := (zero_of_info Tryd.infoT).2
  obtain ⟨B1, hB1⟩ : ∃ B1, (Value.int .u8 (s.size : Int) :: List.replicate 48 (Value.int .u8 0)).toArray = B1 := ⟨_, rfl⟩
  have hbu : Tryd.prog.built 92 [(0, .int .u8 (s.size : Int))] = some B1 := by rw [← hB1]; exact rt_built _
  have HB1s : Hid (B1.size = 49) := by show _ = _; rw [← hB1]; simp
  have HB1o : Hid (B1.all (·.oneCell') = true) := by show _ = _; rw [← hB1]; simp [List.all_cons, Value.oneCell']
  obtain ⟨w1, hw1⟩ : ∃ w1, w.alloc (.cells Z 92) = w1 := ⟨_, rfl⟩
  have HE1 : Hid (w.alloc (.cells Z 92) = w1) := hw1
  have HR1 : Hid (w1.heap[w.heap.size]? = some (.cells Z 92 (0, 0))) := by show _ = _; rw [← hw1]; exact heap_alloc_new w _
  have HBl : Hid (Below w.heap.size w w1) := by show Below _ _ _; rw [← hw1]; exact (Below.refl _ _).alloc (Nat.le_refl _) _
  have HCC : Hid ((B1.toList.take 1 ++ Lib.byteCells s.data.toList ++ B1.toList.drop (1 + s.size)).toArray = rtV s) := by
    show _ = _
    rw [← hB1, rtV, rtU, rt_cells]
    have h1 : Extern.Stop.cell (UInt8.ofNat s.size) = Value.int .u8 (s.size : Int) := by
      have : (UInt8.ofNat s.size).toNat = s.size := by simp; omega
      rw [Extern.Stop.cell, this]
      rfl
    rw [List.map_cons, List.map_append, List.map_replicate, h1]
    rfl
  clear hw1 hZ hB1
  go_enter Tryd.func60, Tryd.ntmps60
  go_upto_region 1 with fail
  rw [HE1.out]
  clear HE1
  obtain ⟨RV, hRV⟩ : ∃ RV, rtV s = RV := ⟨_, rfl⟩
  have HRV : Hid (rtV s = RV) := hRV
  have HRs : Hid (RV.size = 49) := by show _ = _; rw [← hRV, rtV]; simp [rtU_len s h]
  have HRo : Hid (RV.all (·.oneCell') = true) := by show _ = _; rw [← hRV, rtV]; simp [Extern.Stop.cell, Value.oneCell']
  have hcp : (Builtin.copy_ #[22, 9] 3 #[.slice (some ⟨w1.heap.size, 1, none⟩) 48 48, .string s]).run Tryd.prog (w1.alloc (.cells B1 92)) = .ok (goInt s.size) (w1.alloc (.cells RV 92)) := by
    have hr := Lib.run_copy_row_string (P := Tryd.prog) (w1.alloc (.cells B1 92)) 22 9 3 5 w1.heap.size 1 48 48 s B1 92 Tryd.underlying22 (by rw [hi]; simp [hz1]) (heap_alloc_last w1 _) h (by rw [HB1s.out]; omega)
    rw [World.setRow_alloc_new] at hr
    rw [hr, HCC.out, hRV]
  clear hRV
  go_upto_region 3 with (first | (refine wpList_build rfl _ _ rfl (by simp [go_sem, hbu]) ?_) | refine wpList_store_row rfl 92 _ _ rfl w1.heap.size B1 rfl rfl 92 Z (heap_alloc_last w1 _) (by rw [HB1s.out]; exact HTs.out) (by rw [HB1s.out]; exact HZs.out) HB1o.out ?_; rw [World.setRow_alloc_new])
  have HL : Hid ((w1.alloc (.cells RV 92)).heap[w1.heap.size]? = some (.cells RV 92 (0, 0))) := heap_alloc_new w1 _
  have HR2 : Hid ((w1.alloc (.cells RV 92)).heap[w.heap.size]? = some (.cells Z 92 (0, 0))) := by
    show _ = _
    rw [← HR1.out]
    exact heap_alloc_old w1 _ (Array.getElem?_eq_some_iff.1 HR1.out).1
  have HB2 : Hid (Below w.heap.size w (w1.alloc (.cells RV 92))) := HBl.out.alloc HBl.out.size _
  obtain ⟨w2, hw2⟩ : ∃ w2, w1.alloc (.cells RV 92) = w2 := ⟨_, rfl⟩
  rw [hw2] at HL HR2 HB2 ⊢
  clear hw2 hcp
  go_wp2_with (first
    | (refine wpList_load_row rfl 92 _ rfl w1.heap.size rfl 92 RV (0, 0) _ HL.out Tryd.underlying92 rfl (by rw [HRs.out]; exact HTs.out) ?_)
    | (refine wpList_store_row rfl 92 _ _ rfl w.heap.size RV rfl rfl 92 Z HR2.out (by rw [HRs.out]; exact HTs.out) (by rw [HRs.out]; exact HZs.out) HRo.out ?_))
  refine bodyPost_ret (results_cell_row rfl _ _ w.heap.size 92 RV (0, 0) _ rfl (setRow_heap w2 w.heap.size _ _ 92 _ HR2.out) Tryd.underlying92 rfl (by rw [HRs.out]; exact HTs.out)) rfl ?_
  exact ⟨by rw [HRV.out], below_setRow HB2.out (Nat.le_refl _) _⟩

end Go.Proofs.YtenkpgnkkkgdmaeDoor
