/- What the program's DiskNew answers. -/
import Derived.Test.YtogopmngbjkcjauDskNewN
import Derived.Test.YtogopmngbjkcjauStepMakeS
import Derived.Deep.CutBlock
import Derived.Deep.RegionHeld3
namespace Go.Proofs.Ytogopmngbjkcjau
open Go.RowKit
set_option linter.unusedVariables false

theorem own_made {w : World} {g n : Nat} {base : Nat} (h : w.heap[g]? = some (.cells (List.replicate n (.string ⟨#[]⟩)).toArray 9 (0, 0))) (hb : base ≤ g) (hn : n ≤ maxLen) : OwnSt w base (.slice (some ⟨g, 0, none⟩) n n) n (List.replicate n ⟨#[]⟩) :=
  ⟨⟨by simp [scells], .inr ⟨g, n, _, rfl, hb, h, Nat.le_refl _, hn, by simp, by simp [scells]⟩⟩, fun x hx => by rw [(List.mem_replicate.1 hx).2]; exact Nat.zero_le _⟩

set_option maxRecDepth 10000 in
set_option maxHeartbeats 1600000 in
theorem implDnew_any (n : Int) (w : World) :
    Calls Try.prog 49 #[.int .i64 n] w fun e w' => (∃ v, e = .returned v ∧ AnsD w.heap.size (List.replicate (newN n) ⟨#[]⟩) (List.replicate (newN n) ⟨#[]⟩) v w') ∧ Below w.heap.size w w' := by
  obtain ⟨i0, hi, hz0, hz1, hz2⟩ := info_parts info_string
  obtain ⟨W0, hW0⟩ : ∃ W0, w.alloc (Obj.cells #[Value.slice none 0 0, Value.slice none 0 0] 34) = W0 := ⟨_, rfl⟩
  have HE : Hid (w.alloc (Obj.cells #[Value.slice none 0 0, Value.slice none 0 0] 34) = W0) := hW0
  have q0 : Box2R W0 w.heap.size 34 (.slice none 0 0) (.slice none 0 0) := by rw [← hW0]; exact Box2R.new _ _ _ _
  have HQ : Hid (∀ W, Below W0.heap.size W0 W → Box2R W w.heap.size 34 (.slice none 0 0) (.slice none 0 0)) := fun W h => q0.stays h
  have HB : Hid (Below w.heap.size w W0) := by show Below _ _ _; rw [← hW0]; exact (Below.refl _ _).alloc (Nat.le_refl _) _
  have HZ : Hid (W0.heap.size = w.heap.size + 1) := by show _ = _; rw [← hW0]; simp
  clear hW0 q0
  by_cases hin : n < 0 ∨ 200 < n
  · have HN : Hid (newN n = 0) := by
      show _ = _
      rw [newN]
      split <;> omega
    go_enter Try.func49, Try.ntmps49
    rcases hin with h | h
    all_goals
      go_wp2_with fail
      rw [HE.out]
      obtain ⟨r0, r1⟩ := (HQ.out _ (Below.refl _ _)).cells
      refine bodyPost_ret (v := .agg #[.slice none 0 0, .slice none 0 0]) (by simp [results, Try.f49, go_sem, r0, r1]) rfl ?_
      refine ⟨⟨_, rfl, ?_⟩, HB.out⟩
      rw [HN.out]
      exact AnsD.mk' (by simp) (by simp) ⟨⟨rfl, .inl ⟨rfl, rfl⟩⟩, by simp⟩ ⟨⟨rfl, .inl ⟨rfl, rfl⟩⟩, by simp⟩ (by simp)
  obtain ⟨k, rfl⟩ := Int.eq_ofNat_of_zero_le (show 0 ≤ n by omega)
  have hk : k ≤ 200 := by omega
  have HN : Hid (newN (k : Int) = k) := by
    show _ = _
    rw [newN, if_pos (by omega), Int.toNat_natCast]
  have hmk := run_make_str 22 9 i0 (.string ⟨#[]⟩) Try.underlying22 hi hz0 hz1 hz2 rfl k (by omega)
  obtain ⟨M, hM⟩ : ∃ M, Obj.cells (List.replicate k (.string ⟨#[]⟩)).toArray 9 = M := ⟨_, rfl⟩
  obtain ⟨Y1, hY1⟩ : ∃ Y1, W0.drew.alloc M = Y1 := ⟨_, rfl⟩
  obtain ⟨Y2, hY2⟩ : ∃ Y2, Y1.alloc M = Y2 := ⟨_, rfl⟩
  obtain ⟨g1, hg1⟩ : ∃ g1, W0.drew.heap.size = g1 := ⟨_, rfl⟩
  obtain ⟨g2, hg2⟩ : ∃ g2, Y1.heap.size = g2 := ⟨_, rfl⟩
  have hmk1 := hmk W0.drew
  have hmk2 := hmk Y1
  rw [hM, hY1, hg1] at hmk1
  rw [hM, hY2, hg2] at hmk2
  have hge : g1 = W0.heap.size := hg1.symm
  have hge2 : g2 = W0.heap.size + 1 := by
    rw [← hg2, ← hY1, World.size_alloc]
    rfl
  have HB2 : Hid (Below W0.heap.size W0 Y2) := by
    show Below _ _ _
    rw [← hY2, ← hY1]
    exact ((Below.refl _ _).drew.alloc (Nat.le_refl _) _).alloc (by rw [World.size_alloc]; show _ ≤ W0.heap.size + 1; omega) _
  have HO : Hid (OwnSt Y2 W0.heap.size (.slice (some ⟨g1, 0, none⟩) k k) k (List.replicate k ⟨#[]⟩) ∧ OwnSt Y2 W0.heap.size (.slice (some ⟨g2, 0, none⟩) k k) k (List.replicate k ⟨#[]⟩) ∧ g1 ≠ g2) := by
    refine ⟨own_made ?_ (by omega) (by unfold maxLen; omega), own_made ?_ (by omega) (by unfold maxLen; omega), by omega⟩
    · rw [← hY2, heap_alloc_old _ _ (by omega), ← hY1, hM, ← hg1]
      exact heap_alloc_new W0.drew _
    · rw [← hY2, hM, ← hg2]
      exact heap_alloc_new Y1 _
  have q1 := HQ.out _ HB2.out
  obtain ⟨r0, r1⟩ := q1.cells
  have f0 := q1.frozen 0
  have f1 := q1.frozen 1
  clear hmk hin hM hY1 hY2 hg1 hg2 hge hge2 q1
  go_enter Try.func49, Try.ntmps49
  go_wp2_with fail
  rw [HE.out]
  clear HE
  go_region_held3 (fun W => True) (trivial) (fail)
  all_goals
    have HF : Hid (∀ u v : Value, OwnSt ((Y2.setCell ⟨w.heap.size, 0, none⟩ u).setCell ⟨w.heap.size, 1, none⟩ v) w.heap.size (.slice (some ⟨g1, 0, none⟩) k k) k (List.replicate k ⟨#[]⟩) ∧ OwnSt ((Y2.setCell ⟨w.heap.size, 0, none⟩ u).setCell ⟨w.heap.size, 1, none⟩ v) w.heap.size (.slice (some ⟨g2, 0, none⟩) k k) k (List.replicate k ⟨#[]⟩) ∧ g1 ≠ g2 ∧ Below w.heap.size w ((Y2.setCell ⟨w.heap.size, 0, none⟩ u).setCell ⟨w.heap.size, 1, none⟩ v)) := by
      intro u v
      have hz := HZ.out
      obtain ⟨o1, o2, hne⟩ := HO.out
      have n1 : blkOf (.slice (some ⟨g1, 0, none⟩) k k) ≠ some w.heap.size := fun e => by have := (o1.lt _ e).1; omega
      have n2 : blkOf (.slice (some ⟨g2, 0, none⟩) k k) ≠ some w.heap.size := fun e => by have := (o2.lt _ e).1; omega
      have hbw := HB.out.trans (HB2.out.mono HB.out.size)
      exact ⟨((o1.setCell n1 _).setCell n1 _).low (by omega), ((o2.setCell n2 _).setCell n2 _).low (by omega), hne, (hbw.setCell (Nat.le_refl _) _).setCell (Nat.le_refl _) _⟩
    clear HO
    go_wp2_with fail
    first
      | (refine bodyPost_ret (v := .agg #[.slice (some ⟨g1, 0, none⟩) k k, .slice (some ⟨g2, 0, none⟩) k k]) (by simp [results, Try.f49, go_sem, r0, r1]) rfl ?_; obtain ⟨p1, p2, p3, p4⟩ := HF.out (.slice (some ⟨g1, 0, none⟩) k k) (.slice (some ⟨g2, 0, none⟩) k k); refine ⟨⟨_, rfl, ?_⟩, p4⟩; rw [HN.out]; exact AnsD.mk' (by simp) (by simp) p1 p2 (fun q e e2 => p3 (by simp at e e2; omega)))
      | (refine bodyPost_ret (v := .agg #[.slice (some ⟨g2, 0, none⟩) k k, .slice (some ⟨g1, 0, none⟩) k k]) (by simp [results, Try.f49, go_sem, r0, r1]) rfl ?_; obtain ⟨p1, p2, p3, p4⟩ := HF.out (.slice (some ⟨g2, 0, none⟩) k k) (.slice (some ⟨g1, 0, none⟩) k k); refine ⟨⟨_, rfl, ?_⟩, p4⟩; rw [HN.out]; exact AnsD.mk' (by simp) (by simp) p2 p1 (fun q e e2 => p3 (by simp at e e2; omega)))

end Go.Proofs.Ytogopmngbjkcjau
