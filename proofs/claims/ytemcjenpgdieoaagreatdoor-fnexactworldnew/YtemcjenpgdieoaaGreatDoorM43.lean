/- What the program's DiskNew answers. What the specification's StoreNew and the program's answer. What the specification's ServerNew and the program's answer. The specification's copy of a client. -/
import Derived.Test.YtemcjenpgdieoaaGreatDoorM42
import Derived.Test.YtemcjenpgdieoaaGreatDoorM42
import Derived.Deep.CutBlock
import Derived.Deep.RegionHeld3
import Derived.Test.YtemcjenpgdieoaaGreatDoorM05
import Derived.Test.YtemcjenpgdieoaaGreatDoorM03
import Derived.Test.YtemcjenpgdieoaaGreatDoorM39
import Derived.Test.YtemcjenpgdieoaaGreatDoorM13
namespace Go.Proofs.YtemcjenpgdieoaaGreatDoor
open Go.RowKit
set_option linter.unusedVariables false

theorem own_made {w : World} {g n : Nat} {base : Nat} (h : w.heap[g]? = some (.cells (List.replicate n (.string ⟨#[]⟩)).toArray 9 (0, 0))) (hb : base ≤ g) (hn : n ≤ maxLen) : OwnSt w base (.slice (some ⟨g, 0, none⟩) n n) n (List.replicate n ⟨#[]⟩) :=
  ⟨⟨by simp [scells], .inr ⟨g, n, _, rfl, hb, h, Nat.le_refl _, hn, by simp, by simp [scells]⟩⟩, fun x hx => by rw [(List.mem_replicate.1 hx).2]; exact Nat.zero_le _⟩

set_option maxRecDepth 10000 in
set_option maxHeartbeats 1600000 in
theorem implDnew_any (n : Int) (w : World) :
    Calls Tryz.prog 83 #[.int .i64 n] w fun e w' => (∃ v, e = .returned v ∧ AnsD w.heap.size (List.replicate (newN n) ⟨#[]⟩) (List.replicate (newN n) ⟨#[]⟩) v w') ∧ Below w.heap.size w w' := by
  obtain ⟨i0, hi, hz0, hz1, hz2⟩ := info_parts info_string
  obtain ⟨W0, hW0⟩ : ∃ W0, w.alloc (Obj.cells #[Value.slice none 0 0, Value.slice none 0 0] 26) = W0 := ⟨_, rfl⟩
  have HE : Hid (w.alloc (Obj.cells #[Value.slice none 0 0, Value.slice none 0 0] 26) = W0) := hW0
  have q0 : Box2R W0 w.heap.size 26 (.slice none 0 0) (.slice none 0 0) := by rw [← hW0]; exact Box2R.new _ _ _ _
  have HQ : Hid (∀ W, Below W0.heap.size W0 W → Box2R W w.heap.size 26 (.slice none 0 0) (.slice none 0 0)) := fun W h => q0.stays h
  have HB : Hid (Below w.heap.size w W0) := by show Below _ _ _; rw [← hW0]; exact (Below.refl _ _).alloc (Nat.le_refl _) _
  have HZ : Hid (W0.heap.size = w.heap.size + 1) := by show _ = _; rw [← hW0]; simp
  clear hW0 q0
  by_cases hin : n < 0 ∨ 200 < n
  · have HN : Hid (newN n = 0) := by
      show _ = _
      rw [newN]
      split <;> omega
    go_enter Tryz.func83, Tryz.ntmps83
    rcases hin with h | h
    all_goals
      go_wp2_with fail
      rw [HE.out]
      obtain ⟨r0, r1⟩ := (HQ.out _ (Below.refl _ _)).cells
      refine bodyPost_ret (v := .agg #[.slice none 0 0, .slice none 0 0]) (by simp [results, Tryz.f83, go_sem, r0, r1]) rfl ?_
      refine ⟨⟨_, rfl, ?_⟩, HB.out⟩
      rw [HN.out]
      exact AnsD.mk' (by simp) (by simp) ⟨⟨rfl, .inl ⟨rfl, rfl⟩⟩, by simp⟩ ⟨⟨rfl, .inl ⟨rfl, rfl⟩⟩, by simp⟩ (by simp)
  obtain ⟨k, rfl⟩ := Int.eq_ofNat_of_zero_le (show 0 ≤ n by omega)
  have hk : k ≤ 200 := by omega
  have HN : Hid (newN (k : Int) = k) := by
    show _ = _
    rw [newN, if_pos (by omega), Int.toNat_natCast]
  have hmk := run_make_str 24 9 i0 (.string ⟨#[]⟩) Tryz.underlying24 hi hz0 hz1 hz2 rfl k (by omega)
  obtain ⟨M, hM⟩ : ∃ M, Obj.cells (List.replicate k (.string ⟨#[]⟩)).toArray 9 = M := ⟨_, rfl⟩
  obtain ⟨Y1, hY1⟩ : ∃ Y1, W0.drew.alloc M = Y1 := ⟨_, rfl⟩
  obtain ⟨Y2, hY2⟩ : ∃ Y2, Y1.alloc M = Y2 := ⟨_, rfl⟩
  obtain ⟨g1, hg1⟩ : ∃ g1, W0.drew.heap.size = g1 := ⟨_, rfl⟩
  obtain ⟨g2, hg2⟩ : ∃ g2, Y1.heap.size = g2 := ⟨_, rfl⟩
  have hmk1 := hmk W0.drew
  have hmk2 := hmk Y1
  rw [hM, hY1, hg1] at hmk1
  rw [hM, hY2, hg2] at hmk2
  have hge : g1 = W0.heap.size := hg1.symm
  have hge2 : g2 = W0.heap.size + 1 := by
    rw [← hg2, ← hY1, World.size_alloc]
    rfl
  have HB2 : Hid (Below W0.heap.size W0 Y2) := by
    show Below _ _ _
    rw [← hY2, ← hY1]
    exact ((Below.refl _ _).drew.alloc (Nat.le_refl _) _).alloc (by rw [World.size_alloc]; show _ ≤ W0.heap.size + 1; omega) _
  have HO : Hid (OwnSt Y2 W0.heap.size (.slice (some ⟨g1, 0, none⟩) k k) k (List.replicate k ⟨#[]⟩) ∧ OwnSt Y2 W0.heap.size (.slice (some ⟨g2, 0, none⟩) k k) k (List.replicate k ⟨#[]⟩) ∧ g1 ≠ g2) := by
    refine ⟨own_made ?_ (by omega) (by unfold maxLen; omega), own_made ?_ (by omega) (by unfold maxLen; omega), by omega⟩
    · rw [← hY2, heap_alloc_old _ _ (by omega), ← hY1, hM, ← hg1]
      exact heap_alloc_new W0.drew _
    · rw [← hY2, hM, ← hg2]
      exact heap_alloc_new Y1 _
  have q1 := HQ.out _ HB2.out
  obtain ⟨r0, r1⟩ := q1.cells
  have f0 := q1.frozen 0
  have f1 := q1.frozen 1
  clear hmk hin hM hY1 hY2 hg1 hg2 hge hge2 q1
  go_enter Tryz.func83, Tryz.ntmps83
  go_wp2_with fail
  rw [HE.out]
  clear HE
  go_region_held3 (fun W => True) (trivial) (fail)
  all_goals
    have HF : Hid (∀ u v : Value, OwnSt ((Y2.setCell ⟨w.heap.size, 0, none⟩ u).setCell ⟨w.heap.size, 1, none⟩ v) w.heap.size (.slice (some ⟨g1, 0, none⟩) k k) k (List.replicate k ⟨#[]⟩) ∧ OwnSt ((Y2.setCell ⟨w.heap.size, 0, none⟩ u).setCell ⟨w.heap.size, 1, none⟩ v) w.heap.size (.slice (some ⟨g2, 0, none⟩) k k) k (List.replicate k ⟨#[]⟩) ∧ g1 ≠ g2 ∧ Below w.heap.size w ((Y2.setCell ⟨w.heap.size, 0, none⟩ u).setCell ⟨w.heap.size, 1, none⟩ v)) := by
      intro u v
      have hz := HZ.out
      obtain ⟨o1, o2, hne⟩ := HO.out
      have n1 : blkOf (.slice (some ⟨g1, 0, none⟩) k k) ≠ some w.heap.size := fun e => by have := (o1.lt _ e).1; omega
      have n2 : blkOf (.slice (some ⟨g2, 0, none⟩) k k) ≠ some w.heap.size := fun e => by have := (o2.lt _ e).1; omega
      have hbw := HB.out.trans (HB2.out.mono HB.out.size)
      exact ⟨((o1.setCell n1 _).setCell n1 _).low (by omega), ((o2.setCell n2 _).setCell n2 _).low (by omega), hne, (hbw.setCell (Nat.le_refl _) _).setCell (Nat.le_refl _) _⟩
    clear HO
    go_wp2_with fail
    first
      | (refine bodyPost_ret (v := .agg #[.slice (some ⟨g1, 0, none⟩) k k, .slice (some ⟨g2, 0, none⟩) k k]) (by simp [results, Tryz.f83, go_sem, r0, r1]) rfl ?_; obtain ⟨p1, p2, p3, p4⟩ := HF.out (.slice (some ⟨g1, 0, none⟩) k k) (.slice (some ⟨g2, 0, none⟩) k k); refine ⟨⟨_, rfl, ?_⟩, p4⟩; rw [HN.out]; exact AnsD.mk' (by simp) (by simp) p1 p2 (fun q e e2 => p3 (by simp at e e2; omega)))
      | (refine bodyPost_ret (v := .agg #[.slice (some ⟨g2, 0, none⟩) k k, .slice (some ⟨g1, 0, none⟩) k k]) (by simp [results, Tryz.f83, go_sem, r0, r1]) rfl ?_; obtain ⟨p1, p2, p3, p4⟩ := HF.out (.slice (some ⟨g2, 0, none⟩) k k) (.slice (some ⟨g1, 0, none⟩) k k); refine ⟨⟨_, rfl, ?_⟩, p4⟩; rw [HN.out]; exact AnsD.mk' (by simp) (by simp) p2 p1 (fun q e e2 => p3 (by simp at e e2; omega)))

end Go.Proofs.YtemcjenpgdieoaaGreatDoor

namespace Go.Proofs.YtemcjenpgdieoaaGreatDoor
open Go.RowKit
set_option linter.unusedVariables false

set_option maxRecDepth 10000 in
set_option maxHeartbeats 1600000 in
theorem specStoreNew_any (n : Int) (w : World) :
    Calls Tryz.prog 42 #[.int .i64 n] w fun e w' => (∃ v, e = .returned v ∧ AnsS w.heap.size (List.replicate (newN n) ⟨#[]⟩) (List.replicate (newN n) ⟨#[]⟩) 0 0 [] v w') ∧ Below w.heap.size w w' := by
  obtain ⟨w0, hw0⟩ : ∃ w0, w.alloc (.cells #[.slice none 0 0, .slice none 0 0, .int .i64 0, .int .i64 0, .slice none 0 0] 29) = w0 := ⟨_, rfl⟩
  have HE : Hid (w.alloc (.cells #[.slice none 0 0, .slice none 0 0, .int .i64 0, .int .i64 0, .slice none 0 0] 29) = w0) := hw0
  have HB : Hid (Below w.heap.size w w0) := by show Below _ _ _; rw [← hw0]; exact (Below.refl _ _).alloc (Nat.le_refl _) _
  have HR : Hid (BoxN w0 w.heap.size 29 [.slice none 0 0, .slice none 0 0, .int .i64 0, .int .i64 0, .slice none 0 0]) := by show BoxN _ _ _ _; rw [← hw0]; exact BoxN.new _ _ _
  have hlt : w.heap.size < w0.heap.size := HR.out.lt
  clear hw0
  have HC : Hid (Calls Tryz.prog 77 #[.int .i64 n] w0 fun e w' => (∃ v, e = .returned v ∧ AnsD w0.heap.size (List.replicate (newN n) ⟨#[]⟩) (List.replicate (newN n) ⟨#[]⟩) v w') ∧ Below w0.heap.size w0 w') := specDnew_any n w0
  obtain ⟨RX, hRX⟩ : ∃ RX : List ByteArray, List.replicate (newN n) ⟨#[]⟩ = RX := ⟨_, rfl⟩
  rw [hRX] at HC ⊢
  obtain ⟨M, hM⟩ : ∃ M, RX.length = M := ⟨_, rfl⟩
  unfold AnsD at HC
  rw [hM] at HC
  clear hRX hM
  go_enter Tryz.func42, Tryz.ntmps42
  go_upto_region 1 with fail
  rw [HE.out]
  clear HE
  go_wp2_with fail
  refine HC.out.mono ?_
  rintro e x ⟨⟨v, rfl, A, C, A', C', rfl, o1, o2, hap⟩, hb⟩
  have HB1 : Hid (Below w.heap.size w x) := HB.out.trans (hb.mono HB.out.size)
  have HS : Hid (StoAt x w0.heap.size A M C RX A' M C' RX none 0 0 []) := ⟨o1, o2, hap, ⟨⟨rfl, .inl ⟨rfl, rfl⟩⟩, by simp, by simp⟩, rfl⟩
  have hR := HR.out.stays hb
  clear o1 o2 hap hb HC HB HR
  have a0 := hR.cell 0 rfl
  have a1 := hR.cell 1 rfl
  have a2 := hR.cell 2 rfl
  have a3 := hR.cell 3 rfl
  have a4 := hR.cell 4 rfl
  have e0 := hR.frozen 0
  have e1 := hR.frozen 1
  have e2 := hR.frozen 2
  have e3 := hR.frozen 3
  have e4 := hR.frozen 4
  go_wp2_with fail
  refine bodyPost_ret (v := .agg #[.slice A M C, .slice A' M C', .int .i64 0, .int .i64 0, .slice none 0 0]) (by simp [results, Tryz.f42, go_sem, a0, a1, a2, a3, a4]) rfl ?_
  refine ⟨⟨_, rfl, A, M, C, A', M, C', none, 0, 0, [], rfl, ?_, rfl⟩, ?_⟩
  · exact (((((HS.out.setLow (by omega) _).setLow (by omega) _).setLow (by omega) _).setLow (by omega) _).setLow (by omega) _).low (by omega)
  · exact ((((HB1.out.setCell (by dsimp only; omega) _).setCell (by dsimp only; omega) _).setCell (by dsimp only; omega) _).setCell (by dsimp only; omega) _).setCell (by dsimp only; omega) _

set_option maxRecDepth 10000 in
set_option maxHeartbeats 1600000 in
theorem implStoreNew_any (n : Int) (w : World) :
    Calls Tryz.prog 49 #[.int .i64 n] w fun e w' => (∃ v, e = .returned v ∧ AnsS w.heap.size (List.replicate (newN n) ⟨#[]⟩) (List.replicate (newN n) ⟨#[]⟩) 0 0 [] v w') ∧ Below w.heap.size w w' := by
  obtain ⟨w0, hw0⟩ : ∃ w0, w.alloc (.cells #[.slice none 0 0, .slice none 0 0, .int .i64 0, .int .i64 0, .slice none 0 0] 29) = w0 := ⟨_, rfl⟩
  have HE : Hid (w.alloc (.cells #[.slice none 0 0, .slice none 0 0, .int .i64 0, .int .i64 0, .slice none 0 0] 29) = w0) := hw0
  have HB : Hid (Below w.heap.size w w0) := by show Below _ _ _; rw [← hw0]; exact (Below.refl _ _).alloc (Nat.le_refl _) _
  have HR : Hid (BoxN w0 w.heap.size 29 [.slice none 0 0, .slice none 0 0, .int .i64 0, .int .i64 0, .slice none 0 0]) := by show BoxN _ _ _ _; rw [← hw0]; exact BoxN.new _ _ _
  have hlt : w.heap.size < w0.heap.size := HR.out.lt
  clear hw0
  have HC : Hid (Calls Tryz.prog 83 #[.int .i64 n] w0 fun e w' => (∃ v, e = .returned v ∧ AnsD w0.heap.size (List.replicate (newN n) ⟨#[]⟩) (List.replicate (newN n) ⟨#[]⟩) v w') ∧ Below w0.heap.size w0 w') := implDnew_any n w0
  obtain ⟨RX, hRX⟩ : ∃ RX : List ByteArray, List.replicate (newN n) ⟨#[]⟩ = RX := ⟨_, rfl⟩
  rw [hRX] at HC ⊢
  obtain ⟨M, hM⟩ : ∃ M, RX.length = M := ⟨_, rfl⟩
  unfold AnsD at HC
  rw [hM] at HC
  clear hRX hM
  go_enter Tryz.func49, Tryz.ntmps49
  go_upto_region 1 with fail
  rw [HE.out]
  clear HE
  go_wp2_with fail
  refine HC.out.mono ?_
  rintro e x ⟨⟨v, rfl, A, C, A', C', rfl, o1, o2, hap⟩, hb⟩
  have HB1 : Hid (Below w.heap.size w x) := HB.out.trans (hb.mono HB.out.size)
  have HS : Hid (StoAt x w0.heap.size A M C RX A' M C' RX none 0 0 []) := ⟨o1, o2, hap, ⟨⟨rfl, .inl ⟨rfl, rfl⟩⟩, by simp, by simp⟩, rfl⟩
  have hR := HR.out.stays hb
  clear o1 o2 hap hb HC HB HR
  have a0 := hR.cell 0 rfl
  have a1 := hR.cell 1 rfl
  have a2 := hR.cell 2 rfl
  have a3 := hR.cell 3 rfl
  have a4 := hR.cell 4 rfl
  have e0 := hR.frozen 0
  have e1 := hR.frozen 1
  have e2 := hR.frozen 2
  have e3 := hR.frozen 3
  have e4 := hR.frozen 4
  go_wp2_with fail
  refine bodyPost_ret (v := .agg #[.slice A M C, .slice A' M C', .int .i64 0, .int .i64 0, .slice none 0 0]) (by simp [results, Tryz.f49, go_sem, a0, a1, a2, a3, a4]) rfl ?_
  refine ⟨⟨_, rfl, A, M, C, A', M, C', none, 0, 0, [], rfl, ?_, rfl⟩, ?_⟩
  · exact (((((HS.out.setLow (by omega) _).setLow (by omega) _).setLow (by omega) _).setLow (by omega) _).setLow (by omega) _).low (by omega)
  · exact ((((HB1.out.setCell (by dsimp only; omega) _).setCell (by dsimp only; omega) _).setCell (by dsimp only; omega) _).setCell (by dsimp only; omega) _).setCell (by dsimp only; omega) _

end Go.Proofs.YtemcjenpgdieoaaGreatDoor

namespace Go.Proofs.YtemcjenpgdieoaaGreatDoor
open Go.RowKit
set_option linter.unusedVariables false

set_option maxRecDepth 10000 in
set_option maxHeartbeats 1600000 in
theorem specServerNew_any (n : Int) (w : World) :
    Calls Tryz.prog 14 #[.int .i64 n] w fun e w' => (∃ a c a' c' u uc, e = .returned (.agg #[.slice a (newN n) c, .slice a' (newN n) c', .int .i64 0, .int .i64 0, .slice u 0 uc, .slice none 0 0]) ∧ StoAt w' w.heap.size a (newN n) c (List.replicate (newN n) ⟨#[]⟩) a' (newN n) c' (List.replicate (newN n) ⟨#[]⟩) u 0 uc []) ∧ Below w.heap.size w w' := by
  obtain ⟨w0, hw0⟩ : ∃ w0, w.alloc (.cells #[.slice none 0 0, .slice none 0 0, .int .i64 0, .int .i64 0, .slice none 0 0, .slice none 0 0] 32) = w0 := ⟨_, rfl⟩
  have HE : Hid (w.alloc (.cells #[.slice none 0 0, .slice none 0 0, .int .i64 0, .int .i64 0, .slice none 0 0, .slice none 0 0] 32) = w0) := hw0
  have HB : Hid (Below w.heap.size w w0) := by show Below _ _ _; rw [← hw0]; exact (Below.refl _ _).alloc (Nat.le_refl _) _
  have HR : Hid (BoxN w0 w.heap.size 32 [.slice none 0 0, .slice none 0 0, .int .i64 0, .int .i64 0, .slice none 0 0, .slice none 0 0]) := by show BoxN _ _ _ _; rw [← hw0]; exact BoxN.new _ _ _
  have hlt : w.heap.size < w0.heap.size := HR.out.lt
  clear hw0
  have HC : Hid (Calls Tryz.prog 42 #[.int .i64 n] w0 fun e w' => (∃ a c a' c' u uc, e = .returned (.agg #[.slice a (newN n) c, .slice a' (newN n) c', .int .i64 0, .int .i64 0, .slice u 0 uc]) ∧ StoAt w' w0.heap.size a (newN n) c (List.replicate (newN n) ⟨#[]⟩) a' (newN n) c' (List.replicate (newN n) ⟨#[]⟩) u 0 uc []) ∧ Below w0.heap.size w0 w') := by
    refine (specStoreNew_any n w0).mono ?_
    rintro e w' ⟨⟨v, rfl, hv⟩, hb⟩
    obtain ⟨a, c, a', c', u, uc, l, rfl, hs, hm⟩ := hv.get
    obtain rfl : l = [] := by simpa using hm
    rw [List.length_replicate] at hs ⊢
    exact ⟨⟨a, c, a', c', u, uc, rfl, hs⟩, hb⟩
  generalize newN n = M at *
  generalize List.replicate M (⟨#[]⟩ : ByteArray) = RX at *
  go_enter Tryz.func14, Tryz.ntmps14
  go_upto_region 1 with fail
  rw [HE.out]
  clear HE
  go_wp2_with fail
  refine HC.out.mono ?_
  rintro e x ⟨⟨A, C, A', C', u, uc, rfl, hs⟩, hb⟩
  have HB1 : Hid (Below w.heap.size w x) := HB.out.trans (hb.mono HB.out.size)
  have HS : Hid (StoAt x w0.heap.size A M C RX A' M C' RX u 0 uc []) := hs
  have hR := HR.out.stays hb
  clear hs hb HC HB HR
  have a0 := hR.cell 0 rfl
  have a1 := hR.cell 1 rfl
  have a2 := hR.cell 2 rfl
  have a3 := hR.cell 3 rfl
  have a4 := hR.cell 4 rfl
  have a5 := hR.cell 5 rfl
  have e0 := hR.frozen 0
  have e1 := hR.frozen 1
  have e2 := hR.frozen 2
  have e3 := hR.frozen 3
  have e4 := hR.frozen 4
  have e5 := hR.frozen 5
  go_wp2_with fail
  refine bodyPost_ret (v := .agg #[.slice A M C, .slice A' M C', .int .i64 0, .int .i64 0, .slice u 0 uc, .slice none 0 0]) (by simp [results, Tryz.f14, go_sem, a0, a1, a2, a3, a4, a5]) rfl ?_
  refine ⟨⟨A, C, A', C', u, uc, rfl, ?_⟩, ?_⟩
  · exact ((((((HS.out.setLow (by omega) _).setLow (by omega) _).setLow (by omega) _).setLow (by omega) _).setLow (by omega) _).setLow (by omega) _).low (by omega)
  · exact (((((HB1.out.setCell (by dsimp only; omega) _).setCell (by dsimp only; omega) _).setCell (by dsimp only; omega) _).setCell (by dsimp only; omega) _).setCell (by dsimp only; omega) _).setCell (by dsimp only; omega) _

set_option maxRecDepth 10000 in
set_option maxHeartbeats 1600000 in
theorem implServerNew_any (n : Int) (w : World) :
    Calls Tryz.prog 18 #[.int .i64 n] w fun e w' => (∃ a c a' c' u uc, e = .returned (.agg #[.slice a (newN n) c, .slice a' (newN n) c', .int .i64 0, .int .i64 0, .slice u 0 uc, .slice none 0 0]) ∧ StoAt w' w.heap.size a (newN n) c (List.replicate (newN n) ⟨#[]⟩) a' (newN n) c' (List.replicate (newN n) ⟨#[]⟩) u 0 uc []) ∧ Below w.heap.size w w' := by
  obtain ⟨w0, hw0⟩ : ∃ w0, w.alloc (.cells #[.slice none 0 0, .slice none 0 0, .int .i64 0, .int .i64 0, .slice none 0 0, .slice none 0 0] 32) = w0 := ⟨_, rfl⟩
  have HE : Hid (w.alloc (.cells #[.slice none 0 0, .slice none 0 0, .int .i64 0, .int .i64 0, .slice none 0 0, .slice none 0 0] 32) = w0) := hw0
  have HB : Hid (Below w.heap.size w w0) := by show Below _ _ _; rw [← hw0]; exact (Below.refl _ _).alloc (Nat.le_refl _) _
  have HR : Hid (BoxN w0 w.heap.size 32 [.slice none 0 0, .slice none 0 0, .int .i64 0, .int .i64 0, .slice none 0 0, .slice none 0 0]) := by show BoxN _ _ _ _; rw [← hw0]; exact BoxN.new _ _ _
  have hlt : w.heap.size < w0.heap.size := HR.out.lt
  clear hw0
  have HC : Hid (Calls Tryz.prog 49 #[.int .i64 n] w0 fun e w' => (∃ a c a' c' u uc, e = .returned (.agg #[.slice a (newN n) c, .slice a' (newN n) c', .int .i64 0, .int .i64 0, .slice u 0 uc]) ∧ StoAt w' w0.heap.size a (newN n) c (List.replicate (newN n) ⟨#[]⟩) a' (newN n) c' (List.replicate (newN n) ⟨#[]⟩) u 0 uc []) ∧ Below w0.heap.size w0 w') := by
    refine (implStoreNew_any n w0).mono ?_
    rintro e w' ⟨⟨v, rfl, hv⟩, hb⟩
    obtain ⟨a, c, a', c', u, uc, l, rfl, hs, hm⟩ := hv.get
    obtain rfl : l = [] := by simpa using hm
    rw [List.length_replicate] at hs ⊢
    exact ⟨⟨a, c, a', c', u, uc, rfl, hs⟩, hb⟩
  generalize newN n = M at *
  generalize List.replicate M (⟨#[]⟩ : ByteArray) = RX at *
  go_enter Tryz.func18, Tryz.ntmps18
  go_upto_region 1 with fail
  rw [HE.out]
  clear HE
  go_wp2_with fail
  refine HC.out.mono ?_
  rintro e x ⟨⟨A, C, A', C', u, uc, rfl, hs⟩, hb⟩
  have HB1 : Hid (Below w.heap.size w x) := HB.out.trans (hb.mono HB.out.size)
  have HS : Hid (StoAt x w0.heap.size A M C RX A' M C' RX u 0 uc []) := hs
  have hR := HR.out.stays hb
  clear hs hb HC HB HR
  have a0 := hR.cell 0 rfl
  have a1 := hR.cell 1 rfl
  have a2 := hR.cell 2 rfl
  have a3 := hR.cell 3 rfl
  have a4 := hR.cell 4 rfl
  have a5 := hR.cell 5 rfl
  have e0 := hR.frozen 0
  have e1 := hR.frozen 1
  have e2 := hR.frozen 2
  have e3 := hR.frozen 3
  have e4 := hR.frozen 4
  have e5 := hR.frozen 5
  go_wp2_with fail
  refine bodyPost_ret (v := .agg #[.slice A M C, .slice A' M C', .int .i64 0, .int .i64 0, .slice u 0 uc, .slice none 0 0]) (by simp [results, Tryz.f18, go_sem, a0, a1, a2, a3, a4, a5]) rfl ?_
  refine ⟨⟨A, C, A', C', u, uc, rfl, ?_⟩, ?_⟩
  · exact ((((((HS.out.setLow (by omega) _).setLow (by omega) _).setLow (by omega) _).setLow (by omega) _).setLow (by omega) _).setLow (by omega) _).low (by omega)
  · exact (((((HB1.out.setCell (by dsimp only; omega) _).setCell (by dsimp only; omega) _).setCell (by dsimp only; omega) _).setCell (by dsimp only; omega) _).setCell (by dsimp only; omega) _).setCell (by dsimp only; omega) _

end Go.Proofs.YtemcjenpgdieoaaGreatDoor

namespace Go.Proofs.YtemcjenpgdieoaaGreatDoor
open Go.RowKit
set_option linter.unusedVariables false

set_option maxRecDepth 10000 in
set_option maxHeartbeats 1600000 in
theorem copyClS_any (id : ByteArray) (st off : Int) (a : Option Addr) (len cap : Nat) (zs : List Int) (w : World) (hs : Seg w a len zs) (hl : len ≤ 1048576) :
    Calls Tryz.prog 15 #[.agg #[.string id, .slice a len cap, .int .i64 st, .int .i64 off]] w fun e w' => ∃ a' cap', e = .returned (.agg #[.string id, .slice a' len cap', .int .i64 st, .int .i64 off]) ∧ Owns w' w.heap.size a' len cap' zs ∧ Below w.heap.size w w' := by
  obtain ⟨i0, hi, hz0, hz1, hz2⟩ := info_parts Tryz.info5
  have HS : Hid (Seg w a len zs) := hs
  have hzl := hs.1
  have HN : Hid (a = none → len = 0) := seg_nil hs
  clear hs
  go_enter Tryz.func15, Tryz.ntmps15
  go_upto_region 1 with fail
  obtain ⟨W2, hW2⟩ : ∃ W2, (w.alloc (.cells #[.string id, .slice a len cap, .int .i64 st, .int .i64 off] 51)).alloc (.cells #[.string ⟨#[]⟩, .slice none 0 0, .int .i64 0, .int .i64 0] 51) = W2 := ⟨_, rfl⟩
  have q1 : BoxN W2 w.heap.size 51 [.string id, .slice a len cap, .int .i64 st, .int .i64 off] := by rw [← hW2]; exact (BoxN.new _ _ _).alloc _
  have q2 : BoxN W2 (w.heap.size + 1) 51 [.string ⟨#[]⟩, .slice none 0 0, .int .i64 0, .int .i64 0] := by
    rw [← hW2]
    have := BoxN.new (w.alloc (.cells #[.string id, .slice a len cap, .int .i64 st, .int .i64 off] 51)) 51 [.string ⟨#[]⟩, .slice none 0 0, .int .i64 0, .int .i64 0]
    rwa [World.size_alloc] at this
  have HB2 : Hid (Below w.heap.size w W2) := by show Below _ _ _; rw [← hW2]; exact ((Below.refl _ _).alloc (Nat.le_refl _) _).alloc (by simp) _
  have HW2 : Hid (W2.heap.size = w.heap.size + 2) := by show _ = _; rw [← hW2]; simp
  have HQ : Hid (∀ W, Below W2.heap.size W2 W → BoxN W w.heap.size 51 [.string id, .slice a len cap, .int .i64 st, .int .i64 off] ∧ BoxN W (w.heap.size + 1) 51 [.string ⟨#[]⟩, .slice none 0 0, .int .i64 0, .int .i64 0]) := fun W h => ⟨q1.stays h, q2.stays h⟩
  rw [hW2]
  clear hW2 q1 q2
  have hbA : Below W2.heap.size W2 (W2.alloc (.cells #[] 5)) := (Below.refl _ _).alloc (Nat.le_refl _) _
  have HO1 : Hid ((W2.alloc (.cells #[] 5)).ownsRow W2.heap.size 5 1 (.slice (some ⟨W2.heap.size, 0, none⟩) 0 0) 0 []) := World.ownsRow_lit W2 #[] 0 (Nat.le_refl _) (Nat.zero_le _) rfl
  have HSA : Hid (Seg (W2.alloc (.cells #[] 5)) a len zs) := HS.out.below (HB2.out.trans (hbA.mono HB2.out.size))
  obtain ⟨c0, c1, c2, c3⟩ := (show _ ∧ _ ∧ _ ∧ _ from ⟨(HQ.out _ hbA).1.cell 0 rfl, (HQ.out _ hbA).1.cell 1 rfl, (HQ.out _ hbA).1.cell 2 rfl, (HQ.out _ hbA).1.cell 3 rfl⟩)
  clear hbA
  go_wp2_with (first | (refine wpList_plain rfl fun K hK => ?_; refine wp_append_src (.tmp 3) (.tmp 5) 47 rfl W2.heap.size 5 i0 (.int .u8 0) 1 1 Tryz.underlying47 hi hz0 hz1 hz2 rfl (by decide) W2.heap.size 0 0 [] rfl HO1.out a len cap (zs.map (Value.int .u8)) rfl HN.out (by simp [hzl]) (seg_src HSA.out) (ints_one zs) (by unfold maxLen; omega) (by omega) (by simp) ?_; intro v4 W4 hown4 hgrow4; obtain ⟨a4, k4, rfl⟩ := shape_of_owns hown4; refine Hid.out ?_) | fail)
  refine hidden ?_
  have hb4 : Below W2.heap.size W2 W4 := ((Below.refl _ _).alloc (Nat.le_refl _) _).grown hgrow4 (by simp) (by simp)
  have HG4 : Hid (Owns W4 W2.heap.size a4 len k4 zs) := ⟨by rw [Nat.zero_add] at hown4; simpa using hown4, HS.out.2.1⟩
  have h2 := HW2.out
  have hbw : Below w.heap.size w W4 := HB2.out.trans (hb4.mono HB2.out.size)
  obtain ⟨p1, p2⟩ := HQ.out _ hb4
  have hn0 : a4.map (·.block) ≠ some w.heap.size := fun e => by have h3 := (HG4.out.lt _ e).1; omega
  have hn1 : a4.map (·.block) ≠ some (w.heap.size + 1) := fun e => by have h3 := (HG4.out.lt _ e).1; omega
  obtain ⟨d0, d1, d2, d3⟩ := (show _ ∧ _ ∧ _ ∧ _ from ⟨p1.cell 0 rfl, p1.cell 1 rfl, p1.cell 2 rfl, p1.cell 3 rfl⟩)
  have f1 := p1.frozen 1
  have p3 := p1.set 1 (.slice a4 len k4)
  have p4 : BoxN (W4.setCell ⟨w.heap.size, 1, none⟩ (.slice a4 len k4)) (w.heap.size + 1) 51 [.string ⟨#[]⟩, .slice none 0 0, .int .i64 0, .int .i64 0] := p2.other (by omega) _
  have HG5 : Hid (Owns (W4.setCell ⟨w.heap.size, 1, none⟩ (.slice a4 len k4)) W2.heap.size a4 len k4 zs) := owns_set HG4.out hn0
  have HB5 : Hid (Below w.heap.size w (W4.setCell ⟨w.heap.size, 1, none⟩ (.slice a4 len k4))) := hbw.setCell (p := ⟨w.heap.size, 1, none⟩) (Nat.le_refl _) _
  obtain ⟨W5, hW5⟩ : ∃ W5, W4.setCell ⟨w.heap.size, 1, none⟩ (.slice a4 len k4) = W5 := ⟨_, rfl⟩
  rw [hW5] at p3 p4 HG5 HB5
  have HX5 : Hid (BoxN W5 w.heap.size 51 [.string id, .slice a4 len k4, .int .i64 st, .int .i64 off] ∧ BoxN W5 (w.heap.size + 1) 51 [.string ⟨#[]⟩, .slice none 0 0, .int .i64 0, .int .i64 0]) := ⟨p3, p4⟩
  have HE5 : Hid (W4.setCell ⟨w.heap.size, 1, none⟩ (.slice a4 len k4) = W5) := hW5
  refine hK _ _ ?_
  clear hK hown4 hgrow4 hb4 hbw p1 p2 p3 p4 HG4 hW5
  go_upto_region 2 with fail
  rw [HE5.out]
  clear c0 c1 c2 c3 d0 d1 d2 d3 f1 HE5
  obtain ⟨c0, c1, c2, c3⟩ := (show _ ∧ _ ∧ _ ∧ _ from ⟨HX5.out.1.cell 0 rfl, HX5.out.1.cell 1 rfl, HX5.out.1.cell 2 rfl, HX5.out.1.cell 3 rfl⟩)
  obtain ⟨g0, g1, g2, g3⟩ := (show _ ∧ _ ∧ _ ∧ _ from ⟨HX5.out.2.cell 0 rfl, HX5.out.2.cell 1 rfl, HX5.out.2.cell 2 rfl, HX5.out.2.cell 3 rfl⟩)
  have f0 := HX5.out.2.frozen 0
  have f1 := HX5.out.2.frozen 1
  have f2 := HX5.out.2.frozen 2
  have f3 := HX5.out.2.frozen 3
  have HO6 : Hid (Owns ((((W5.setCell ⟨w.heap.size + 1, 0, none⟩ (.string id)).setCell ⟨w.heap.size + 1, 1, none⟩ (.slice a4 len k4)).setCell ⟨w.heap.size + 1, 2, none⟩ (.int .i64 st)).setCell ⟨w.heap.size + 1, 3, none⟩ (.int .i64 off)) w.heap.size a4 len k4 zs ∧ Below w.heap.size w ((((W5.setCell ⟨w.heap.size + 1, 0, none⟩ (.string id)).setCell ⟨w.heap.size + 1, 1, none⟩ (.slice a4 len k4)).setCell ⟨w.heap.size + 1, 2, none⟩ (.int .i64 st)).setCell ⟨w.heap.size + 1, 3, none⟩ (.int .i64 off))) := by
    refine ⟨(owns_set (owns_set (owns_set (owns_set HG5.out hn1) hn1) hn1) hn1).low (by omega), ?_⟩
    repeat (refine Below.setCell ?_ (by dsimp only; omega) _)
    exact HB5.out
  clear HG5 HB5 HX5 hn0 hn1 h2
  go_wp2
  refine bodyPost_ret (v := .agg #[.string id, .slice a4 len k4, .int .i64 st, .int .i64 off]) (by simp [results, Tryz.f15, go_sem, g0, g1, g2, g3]) rfl ?_
  exact ⟨_, _, rfl, HO6.out.1, HO6.out.2⟩

end Go.Proofs.YtemcjenpgdieoaaGreatDoor
