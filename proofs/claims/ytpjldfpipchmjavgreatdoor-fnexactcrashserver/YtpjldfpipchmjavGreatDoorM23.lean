/- What spec.l12Copy answers. -/
import Derived.Test.YtpjldfpipchmjavGreatDoorM04
import Derived.Test.YtpjldfpipchmjavGreatDoorM22
import Derived.Test.YtpjldfpipchmjavGreatDoorM22
import Derived.Deep.RegionHeld3
import Derived.Deep.CutBlock
namespace Go.Proofs.YtpjldfpipchmjavGreatDoor
open Go.RowKit
set_option linter.unusedVariables false

set_option maxRecDepth 10000 in
set_option maxHeartbeats 3200000 in
theorem specDcopy_any (a : Option Addr) (n ca : Nat) (xs : List ByteArray) (a' : Option Addr) (n' ca' : Nat) (ys : List ByteArray) (w : World) (h1 : Strs w a n xs) (h2 : Strs w a' n' ys) (hn : n ≤ 2097152) (hn' : n' ≤ 2097152) :
    Calls Tryz.prog 108 #[.agg #[.slice a n ca, .slice a' n' ca']] w fun e w' => (∃ v, e = .returned v ∧ AnsD w.heap.size xs ys v w') ∧ Below w.heap.size w w' := by
  obtain ⟨i0, hi, hz0, hz1, hz2⟩ := info_parts info_string
  have HM0 : Hid (∀ x ∈ xs, x.size ≤ maxLen) := h1.2.1
  have HM1 : Hid (∀ x ∈ ys, x.size ≤ maxLen) := h2.2.1
  have HLn : Hid (xs.length = n ∧ ys.length = n') := ⟨h1.1, h2.1⟩
  obtain ⟨W2, hW2⟩ : ∃ W2, (w.alloc (.cells #[.slice a n ca, .slice a' n' ca'] 33)).alloc (.cells #[.slice none 0 0, .slice none 0 0] 33) = W2 := ⟨_, rfl⟩
  have HE : Hid ((w.alloc (.cells #[.slice a n ca, .slice a' n' ca'] 33)).alloc (.cells #[.slice none 0 0, .slice none 0 0] 33) = W2) := hW2
  have HB2 : Hid (Below w.heap.size w W2) := by show Below _ _ _; rw [← hW2]; exact ((Below.refl _ _).alloc (Nat.le_refl _) _).alloc (by simp) _
  have HZ2 : Hid (W2.heap.size = w.heap.size + 2) := by show _ = _; rw [← hW2]; simp
  have q1 : Box2R W2 w.heap.size 33 (.slice a n ca) (.slice a' n' ca') := by rw [← hW2]; exact (Box2R.new _ _ _ _).alloc _
  have q2 : Box2R W2 (w.heap.size + 1) 33 (.slice none 0 0) (.slice none 0 0) := by
    rw [← hW2]
    have := Box2R.new (w.alloc (.cells #[.slice a n ca, .slice a' n' ca'] 33)) 33 (.slice none 0 0) (.slice none 0 0)
    rwa [World.size_alloc] at this
  have HQ : Hid (∀ W, Below W2.heap.size W2 W → Box2R W w.heap.size 33 (.slice a n ca) (.slice a' n' ca') ∧ Box2R W (w.heap.size + 1) 33 (.slice none 0 0) (.slice none 0 0)) := fun W h => ⟨q1.stays h, q2.stays h⟩
  have HX : Hid (∀ W, Below W2.heap.size W2 W → Strs W a n xs ∧ Strs W a' n' ys) := fun W h => by
    have hw := HB2.out.trans (h.mono HB2.out.size)
    exact ⟨h1.below hw, h2.below hw⟩
  have HBa : Hid (Below W2.heap.size W2 (W2.alloc (.cells #[] 9))) := (Below.refl _ _).alloc (Nat.le_refl _) _
  have HBb : Hid (Below W2.heap.size W2 ((W2.alloc (.cells #[] 9)).alloc (.cells #[] 9))) := ((Below.refl _ _).alloc (Nat.le_refl _) _).alloc (by simp) _
  have HBad : Hid (Below W2.heap.size W2 (W2.alloc (.cells #[] 9)).drew) := HBa.out.drew
  have HBbd : Hid (Below W2.heap.size W2 ((W2.alloc (.cells #[] 9)).alloc (.cells #[] 9)).drew) := HBb.out.drew
  have HLa : Hid ((W2.alloc (.cells #[] 9)).heap[W2.heap.size]? = some (.cells #[] 9)) := heap_alloc_new _ _
  have HLb : Hid (((W2.alloc (.cells #[] 9)).alloc (.cells #[] 9)).heap[W2.heap.size]? = some (.cells #[] 9)) := by
    show _ = _
    rw [heap_alloc_old _ _ (by simp)]
    exact heap_alloc_new _ _
  have HLc : Hid (((W2.alloc (.cells #[] 9)).alloc (.cells #[] 9)).heap[W2.heap.size + 1]? = some (.cells #[] 9)) := by
    have := heap_alloc_new (W2.alloc (.cells #[] 9)) (.cells #[] 9)
    rwa [World.size_alloc] at this
  clear hW2 q1 q2 h1 h2
  have hne : w.heap.size ≠ w.heap.size + 1 := by omega
  have hs2 : w.heap.size + 1 < W2.heap.size := by have := HZ2.out; omega
  go_enter Tryz.func108, Tryz.ntmps108
  go_upto_region 1 with fail
  rw [HE.out]
  clear HE
  obtain ⟨c0, c1⟩ := (HQ.out _ (Below.refl _ _)).1.cells
  go_cut [] from 3 (fun W => Hid (∃ g1 c1 g2 c2, Box2R W (w.heap.size + 1) 33 (.slice (some ⟨g1, 0, none⟩) n c1) (.slice (some ⟨g2, 0, none⟩) n' c2) ∧ g1 ≠ g2 ∧ OwnSt W w.heap.size (.slice (some ⟨g1, 0, none⟩) n c1) n xs ∧ OwnSt W w.heap.size (.slice (some ⟨g2, 0, none⟩) n' c2) n' ys ∧ Below w.heap.size w W))
  case first =>
    go_region_held3 (fun W => W.cell? ⟨w.heap.size, 0, none⟩ = some (.slice a n ca) ∧ W.cell? ⟨w.heap.size, 1, none⟩ = some (.slice a' n' ca')) (first | (refine ⟨?_, ?_⟩ <;> assumption) | (refine ⟨?_, ?_⟩ <;> (exact cellD_kept hne (cellD_kept hne (by assumption)))) | go_keep) (first
      | (refine step_append_lit rfl (.tmp 7) (.tmp 9) 22 22 rfl W2.heap.size 9 i0 (.string ⟨#[]⟩) 1 16 Tryz.underlying22 hi hz0 hz1 hz2 rfl (by decide) (W2.heap.size + 1) rfl hl2 (by omega) _ n' (scells ys) rfl (HX.out _ hB1).2.src (by unfold maxLen; omega) (by omega) hB1.size ?_; intro g2 c2 y2 hown2 hb2 hw2; have hB2 : Below W2.heap.size W2 y2 := hB1.trans (hb2.mono hB1.size); obtain ⟨m0, m1⟩ := (HQ.out _ hB2).1.cells; obtain ⟨r0, r1⟩ := (HQ.out _ hB2).2.cells; have f0 := (HQ.out _ hB2).2.frozen 0; have f1 := (HQ.out _ hB2).2.frozen 1; have hne12 : g1 ≠ g2 := (by rcases hw2 with h | h <;> omega); have hownP := own_below hown1 hb2)
      | (refine step_append_lit rfl (.tmp 7) (.tmp 9) 22 22 rfl W2.heap.size 9 i0 (.string ⟨#[]⟩) 1 16 Tryz.underlying22 hi hz0 hz1 hz2 rfl (by decide) W2.heap.size rfl hl3 (by omega) _ n' (scells ys) rfl (HX.out _ hB1).2.src (by unfold maxLen; omega) (by omega) hB1.size ?_; intro g2 c2 y2 hown2 hb2 hw2; have hB2 : Below W2.heap.size W2 y2 := hB1.trans (hb2.mono hB1.size); obtain ⟨m0, m1⟩ := (HQ.out _ hB2).1.cells; obtain ⟨r0, r1⟩ := (HQ.out _ hB2).2.cells; have f0 := (HQ.out _ hB2).2.frozen 0; have f1 := (HQ.out _ hB2).2.frozen 1; have hne12 : g1 ≠ g2 := (by rcases hw2 with h | h <;> omega); have hownP := own_below hown1 hb2)
      | (refine step_append_lit rfl (.tmp 7) (.tmp 9) 22 22 rfl W2.heap.size 9 i0 (.string ⟨#[]⟩) 1 16 Tryz.underlying22 hi hz0 hz1 hz2 rfl (by decide) y1.heap.size rfl (heap_alloc_new y1 _) (by omega) _ n' (scells ys) rfl (HX.out _ (hB1.alloc hB1.size (.cells #[] 9))).2.src (by unfold maxLen; omega) (by omega) (hB1.alloc hB1.size (.cells #[] 9)).size ?_; intro g2 c2 y2 hown2 hb2 hw2; have hB2 : Below W2.heap.size W2 y2 := (hB1.alloc hB1.size (.cells #[] 9)).trans (hb2.mono (hB1.alloc hB1.size (.cells #[] 9)).size); obtain ⟨m0, m1⟩ := (HQ.out _ hB2).1.cells; obtain ⟨r0, r1⟩ := (HQ.out _ hB2).2.cells; have f0 := (HQ.out _ hB2).2.frozen 0; have f1 := (HQ.out _ hB2).2.frozen 1; have hne12 : g1 ≠ g2 := (by rw [World.size_alloc] at hw2; rcases hw2 with h | h <;> omega); have hownP := own_below hown1 (((Below.refl y1.heap.size y1).alloc (Nat.le_refl _) _).trans (hb2.mono (by simp))))
      | (refine step_append_lit rfl (.tmp 3) (.tmp 5) 22 22 rfl W2.heap.size 9 i0 (.string ⟨#[]⟩) 1 16 Tryz.underlying22 hi hz0 hz1 hz2 rfl (by decide) W2.heap.size rfl HLa.out (by omega) _ n (scells xs) rfl (HX.out _ HBad.out).1.src (by unfold maxLen; omega) (by omega) HBad.out.size ?_; intro g1 c1 y1 hown1 hb1 hw1; have hB1 : Below W2.heap.size W2 y1 := HBad.out.trans (hb1.mono HBad.out.size); obtain ⟨e0, e1⟩ := (HQ.out _ hB1).1.cells; have hy1 := hB1.size; have hg1 := (show g1 < y1.heap.size from (OwnSt.lt ⟨hown1, HM0.out⟩ g1 rfl).2); have mark1 := trivial)
      | (refine step_append_lit rfl (.tmp 3) (.tmp 5) 22 22 rfl W2.heap.size 9 i0 (.string ⟨#[]⟩) 1 16 Tryz.underlying22 hi hz0 hz1 hz2 rfl (by decide) W2.heap.size rfl HLb.out (by omega) _ n (scells xs) rfl (HX.out _ HBbd.out).1.src (by unfold maxLen; omega) (by omega) HBbd.out.size ?_; intro g1 c1 y1 hown1 hb1 hw1; have hB1 : Below W2.heap.size W2 y1 := HBbd.out.trans (hb1.mono HBbd.out.size); obtain ⟨e0, e1⟩ := (HQ.out _ hB1).1.cells; have hy1 := hB1.size; have hg1 := (show g1 < y1.heap.size from (OwnSt.lt ⟨hown1, HM0.out⟩ g1 rfl).2); have hl2 : y1.heap[W2.heap.size + 1]? = some (.cells #[] 9) := (hb1.block _ (by show W2.heap.size + 1 < ((W2.alloc (.cells #[] 9)).alloc (.cells #[] 9)).heap.size; simp)).trans HLc.out; have hap : g1 ≠ W2.heap.size + 1 := (by have hz : ((W2.alloc (.cells #[] 9)).alloc (.cells #[] 9)).drew.heap.size = W2.heap.size + 2 := (by show ((W2.alloc (.cells #[] 9)).alloc (.cells #[] 9)).heap.size = _; simp); rcases hw1 with h | h <;> omega))
      | (refine step_append_lit rfl (.tmp 3) (.tmp 5) 22 22 rfl W2.heap.size 9 i0 (.string ⟨#[]⟩) 1 16 Tryz.underlying22 hi hz0 hz1 hz2 rfl (by decide) (W2.heap.size + 1) rfl HLc.out (by omega) _ n (scells xs) rfl (HX.out _ HBbd.out).1.src (by unfold maxLen; omega) (by omega) HBbd.out.size ?_; intro g1 c1 y1 hown1 hb1 hw1; have hB1 : Below W2.heap.size W2 y1 := HBbd.out.trans (hb1.mono HBbd.out.size); obtain ⟨e0, e1⟩ := (HQ.out _ hB1).1.cells; have hy1 := hB1.size; have hg1 := (show g1 < y1.heap.size from (OwnSt.lt ⟨hown1, HM0.out⟩ g1 rfl).2); have hl3 : y1.heap[W2.heap.size]? = some (.cells #[] 9) := (hb1.block _ (by show W2.heap.size < ((W2.alloc (.cells #[] 9)).alloc (.cells #[] 9)).heap.size; simp; omega)).trans HLb.out; have hap : g1 ≠ W2.heap.size := (by have hz : ((W2.alloc (.cells #[] 9)).alloc (.cells #[] 9)).drew.heap.size = W2.heap.size + 2 := (by show ((W2.alloc (.cells #[] 9)).alloc (.cells #[] 9)).heap.size = _; simp); rcases hw1 with h | h <;> omega))
      | fail)
    all_goals
      have HF : Hid (Box2R ((y2.setCell ⟨w.heap.size + 1, 0, none⟩ (.slice (some ⟨g1, 0, none⟩) n c1)).setCell ⟨w.heap.size + 1, 1, none⟩ (.slice (some ⟨g2, 0, none⟩) n' c2)) (w.heap.size + 1) 33 (.slice (some ⟨g1, 0, none⟩) n c1) (.slice (some ⟨g2, 0, none⟩) n' c2) ∧ g1 ≠ g2 ∧ OwnSt ((y2.setCell ⟨w.heap.size + 1, 0, none⟩ (.slice (some ⟨g1, 0, none⟩) n c1)).setCell ⟨w.heap.size + 1, 1, none⟩ (.slice (some ⟨g2, 0, none⟩) n' c2)) w.heap.size (.slice (some ⟨g1, 0, none⟩) n c1) n xs ∧ OwnSt ((y2.setCell ⟨w.heap.size + 1, 0, none⟩ (.slice (some ⟨g1, 0, none⟩) n c1)).setCell ⟨w.heap.size + 1, 1, none⟩ (.slice (some ⟨g2, 0, none⟩) n' c2)) w.heap.size (.slice (some ⟨g2, 0, none⟩) n' c2) n' ys ∧ Below w.heap.size w ((y2.setCell ⟨w.heap.size + 1, 0, none⟩ (.slice (some ⟨g1, 0, none⟩) n c1)).setCell ⟨w.heap.size + 1, 1, none⟩ (.slice (some ⟨g2, 0, none⟩) n' c2))) := by
        have o1 : OwnSt y2 W2.heap.size (.slice (some ⟨g1, 0, none⟩) n c1) n xs := ⟨hownP, HM0.out⟩
        have o2 : OwnSt y2 W2.heap.size (.slice (some ⟨g2, 0, none⟩) n' c2) n' ys := ⟨hown2, HM1.out⟩
        have l1 := (o1.lt g1 rfl).1
        have l2 := (o2.lt g2 rfl).1
        have hbw := HB2.out.trans (hB2.mono HB2.out.size)
        exact ⟨((HQ.out _ hB2).2.set0 _).set1 _, hne12, ((o1.setCell (by simp [blkOf]; omega) _).setCell (by simp [blkOf]; omega) _).low (by omega), ((o2.setCell (by simp [blkOf]; omega) _).setCell (by simp [blkOf]; omega) _).low (by omega), (hbw.setCell (by dsimp only; omega) _).setCell (by dsimp only; omega) _⟩
      clear hown1 hown2 hownP hb1 hb2 hB1 hB2 hw1 hw2 e0 e1 m0 m1 r0 r1 f0 f1 hg1 hy1
      go_wp2_with fail
      go_meet
      exact ⟨g1, c1, g2, c2, HF.out⟩
  case rest =>
  obtain ⟨x3, hx3⟩ : ∃ x3, wc = x3 := ⟨_, rfl⟩
  rw [hx3] at hcut ⊢
  obtain ⟨g1, c1, g2, c2, hbx, hne12, o1, o2, hbw⟩ := hcut
  have HO : Hid (OwnSt x3 w.heap.size (.slice (some ⟨g1, 0, none⟩) n c1) n xs ∧ OwnSt x3 w.heap.size (.slice (some ⟨g2, 0, none⟩) n' c2) n' ys ∧ Below w.heap.size w x3) := ⟨o1, o2, hbw⟩
  clear hx3 o1 o2 hbw HBa HBb HBad HBbd HLa HLb HLc
  obtain ⟨d0, d1⟩ := hbx.cells
  go_wp2_with fail
  refine bodyPost_ret (v := .agg #[.slice (some ⟨g1, 0, none⟩) n c1, .slice (some ⟨g2, 0, none⟩) n' c2]) (by simp [results, Tryz.f108, go_sem, d0, d1]) rfl ?_
  have hl := HLn.out
  exact ⟨⟨_, rfl, AnsD.mk' (by omega) (by omega) HO.out.1 HO.out.2.1 (fun q e e2 => hne12 (by simp at e e2; omega))⟩, HO.out.2.2⟩

end Go.Proofs.YtpjldfpipchmjavGreatDoor
