/- What spec.l12Copy answers. What the specification's copy of a store answers. A region that draws its order: operations that only read and callees that leave all that was there, and behind all of them a few that come one by one: walked once, in the order of the text. No program in it. -/
import Derived.Test.YtlkgopoicpnacaaGreatDoorM05
import Derived.Test.YtlkgopoicpnacaaGreatDoorM20
import Derived.Test.YtlkgopoicpnacaaGreatDoorM20
import Derived.Deep.RegionHeld3
import Derived.Deep.CutBlock
import Derived.Test.YtlkgopoicpnacaaGreatDoorM08
import Derived.Test.YtlkgopoicpnacaaGreatDoorM15
import Derived.StillTail
namespace Go.Proofs.YtlkgopoicpnacaaGreatDoor
open Go.RowKit
set_option linter.unusedVariables false

set_option maxRecDepth 10000 in
set_option maxHeartbeats 3200000 in
theorem specDcopy_any (a : Option Addr) (n ca : Nat) (xs : List ByteArray) (a' : Option Addr) (n' ca' : Nat) (ys : List ByteArray) (w : World) (h1 : Strs w a n xs) (h2 : Strs w a' n' ys) (hn : n ≤ 2097152) (hn' : n' ≤ 2097152) :
    Calls Tryz.prog 78 #[.agg #[.slice a n ca, .slice a' n' ca']] w fun e w' => (∃ v, e = .returned v ∧ AnsD w.heap.size xs ys v w') ∧ Below w.heap.size w w' := by
  obtain ⟨i0, hi, hz0, hz1, hz2⟩ := info_parts info_string
  have HM0 : Hid (∀ x ∈ xs, x.size ≤ maxLen) := h1.2.1
  have HM1 : Hid (∀ x ∈ ys, x.size ≤ maxLen) := h2.2.1
  have HLn : Hid (xs.length = n ∧ ys.length = n') := ⟨h1.1, h2.1⟩
  obtain ⟨W2, hW2⟩ : ∃ W2, (w.alloc (.cells #[.slice a n ca, .slice a' n' ca'] 26)).alloc (.cells #[.slice none 0 0, .slice none 0 0] 26) = W2 := ⟨_, rfl⟩
  have HE : Hid ((w.alloc (.cells #[.slice a n ca, .slice a' n' ca'] 26)).alloc (.cells #[.slice none 0 0, .slice none 0 0] 26) = W2) := hW2
  have HB2 : Hid (Below w.heap.size w W2) := by show Below _ _ _; rw [← hW2]; exact ((Below.refl _ _).alloc (Nat.le_refl _) _).alloc (by simp) _
  have HZ2 : Hid (W2.heap.size = w.heap.size + 2) := by show _ = _; rw [← hW2]; simp
  have q1 : Box2R W2 w.heap.size 26 (.slice a n ca) (.slice a' n' ca') := by rw [← hW2]; exact (Box2R.new _ _ _ _).alloc _
  have q2 : Box2R W2 (w.heap.size + 1) 26 (.slice none 0 0) (.slice none 0 0) := by
    rw [← hW2]
    have := Box2R.new (w.alloc (.cells #[.slice a n ca, .slice a' n' ca'] 26)) 26 (.slice none 0 0) (.slice none 0 0)
    rwa [World.size_alloc] at this
  have HQ : Hid (∀ W, Below W2.heap.size W2 W → Box2R W w.heap.size 26 (.slice a n ca) (.slice a' n' ca') ∧ Box2R W (w.heap.size + 1) 26 (.slice none 0 0) (.slice none 0 0)) := fun W h => ⟨q1.stays h, q2.stays h⟩
  have HX : Hid (∀ W, Below W2.heap.size W2 W → Strs W a n xs ∧ Strs W a' n' ys) := fun W h => by
    have hw := HB2.out.trans (h.mono HB2.out.size)
    exact ⟨h1.below hw, h2.below hw⟩
  have HBa : Hid (Below W2.heap.size W2 (W2.alloc (.cells #[] 9))) := (Below.refl _ _).alloc (Nat.le_refl _) _
  have HBb : Hid (Below W2.heap.size W2 ((W2.alloc (.cells #[] 9)).alloc (.cells #[] 9))) := ((Below.refl _ _).alloc (Nat.le_refl _) _).alloc (by simp) _
  have HBad : Hid (Below W2.heap.size W2 (W2.alloc (.cells #[] 9)).drew) := HBa.out.drew
  have HBbd : Hid (Below W2.heap.size W2 ((W2.alloc (.cells #[] 9)).alloc (.cells #[] 9)).drew) := HBb.out.drew
  have HLa : Hid ((W2.alloc (.cells #[] 9)).heap[W2.heap.size]? = some (.cells #[] 9)) := heap_alloc_new _ _
  have HLb : Hid (((W2.alloc (.cells #[] 9)).alloc (.cells #[] 9)).heap[W2.heap.size]? = some (.cells #[] 9)) := by
    show _ = _
    rw [heap_alloc_old _ _ (by simp)]
    exact heap_alloc_new _ _
  have HLc : Hid (((W2.alloc (.cells #[] 9)).alloc (.cells #[] 9)).heap[W2.heap.size + 1]? = some (.cells #[] 9)) := by
    have := heap_alloc_new (W2.alloc (.cells #[] 9)) (.cells #[] 9)
    rwa [World.size_alloc] at this
  clear hW2 q1 q2 h1 h2
  have hne : w.heap.size ≠ w.heap.size + 1 := by omega
  have hs2 : w.heap.size + 1 < W2.heap.size := by have := HZ2.out; omega
  go_enter Tryz.func78, Tryz.ntmps78
  go_upto_region 1 with fail
  rw [HE.out]
  clear HE
  obtain ⟨c0, c1⟩ := (HQ.out _ (Below.refl _ _)).1.cells
  go_cut [] from 3 (fun W => Hid (∃ g1 c1 g2 c2, Box2R W (w.heap.size + 1) 26 (.slice (some ⟨g1, 0, none⟩) n c1) (.slice (some ⟨g2, 0, none⟩) n' c2) ∧ g1 ≠ g2 ∧ OwnSt W w.heap.size (.slice (some ⟨g1, 0, none⟩) n c1) n xs ∧ OwnSt W w.heap.size (.slice (some ⟨g2, 0, none⟩) n' c2) n' ys ∧ Below w.heap.size w W))
  case first =>
    go_region_held3 (fun W => W.cell? ⟨w.heap.size, 0, none⟩ = some (.slice a n ca) ∧ W.cell? ⟨w.heap.size, 1, none⟩ = some (.slice a' n' ca')) (first | (refine ⟨?_, ?_⟩ <;> assumption) | (refine ⟨?_, ?_⟩ <;> (exact cellD_kept hne (cellD_kept hne (by assumption)))) | go_keep) (first
      | (refine step_append_lit rfl (.tmp 7) (.tmp 9) 24 24 rfl W2.heap.size 9 i0 (.string ⟨#[]⟩) 1 16 Tryz.underlying24 hi hz0 hz1 hz2 rfl (by decide) (W2.heap.size + 1) rfl hl2 (by omega) _ n' (scells ys) rfl (HX.out _ hB1).2.src (by unfold maxLen; omega) (by omega) hB1.size ?_; intro g2 c2 y2 hown2 hb2 hw2; have hB2 : Below W2.heap.size W2 y2 := hB1.trans (hb2.mono hB1.size); obtain ⟨m0, m1⟩ := (HQ.out _ hB2).1.cells; obtain ⟨r0, r1⟩ := (HQ.out _ hB2).2.cells; have f0 := (HQ.out _ hB2).2.frozen 0; have f1 := (HQ.out _ hB2).2.frozen 1; have hne12 : g1 ≠ g2 := (by rcases hw2 with h | h <;> omega); have hownP := own_below hown1 hb2)
      | (refine step_append_lit rfl (.tmp 7) (.tmp 9) 24 24 rfl W2.heap.size 9 i0 (.string ⟨#[]⟩) 1 16 Tryz.underlying24 hi hz0 hz1 hz2 rfl (by decide) W2.heap.size rfl hl3 (by omega) _ n' (scells ys) rfl (HX.out _ hB1).2.src (by unfold maxLen; omega) (by omega) hB1.size ?_; intro g2 c2 y2 hown2 hb2 hw2; have hB2 : Below W2.heap.size W2 y2 := hB1.trans (hb2.mono hB1.size); obtain ⟨m0, m1⟩ := (HQ.out _ hB2).1.cells; obtain ⟨r0, r1⟩ := (HQ.out _ hB2).2.cells; have f0 := (HQ.out _ hB2).2.frozen 0; have f1 := (HQ.out _ hB2).2.frozen 1; have hne12 : g1 ≠ g2 := (by rcases hw2 with h | h <;> omega); have hownP := own_below hown1 hb2)
      | (refine step_append_lit rfl (.tmp 7) (.tmp 9) 24 24 rfl W2.heap.size 9 i0 (.string ⟨#[]⟩) 1 16 Tryz.underlying24 hi hz0 hz1 hz2 rfl (by decide) y1.heap.size rfl (heap_alloc_new y1 _) (by omega) _ n' (scells ys) rfl (HX.out _ (hB1.alloc hB1.size (.cells #[] 9))).2.src (by unfold maxLen; omega) (by omega) (hB1.alloc hB1.size (.cells #[] 9)).size ?_; intro g2 c2 y2 hown2 hb2 hw2; have hB2 : Below W2.heap.size W2 y2 := (hB1.alloc hB1.size (.cells #[] 9)).trans (hb2.mono (hB1.alloc hB1.size (.cells #[] 9)).size); obtain ⟨m0, m1⟩ := (HQ.out _ hB2).1.cells; obtain ⟨r0, r1⟩ := (HQ.out _ hB2).2.cells; have f0 := (HQ.out _ hB2).2.frozen 0; have f1 := (HQ.out _ hB2).2.frozen 1; have hne12 : g1 ≠ g2 := (by rw [World.size_alloc] at hw2; rcases hw2 with h | h <;> omega); have hownP := own_below hown1 (((Below.refl y1.heap.size y1).alloc (Nat.le_refl _) _).trans (hb2.mono (by simp))))
      | (refine step_append_lit rfl (.tmp 3) (.tmp 5) 24 24 rfl W2.heap.size 9 i0 (.string ⟨#[]⟩) 1 16 Tryz.underlying24 hi hz0 hz1 hz2 rfl (by decide) W2.heap.size rfl HLa.out (by omega) _ n (scells xs) rfl (HX.out _ HBad.out).1.src (by unfold maxLen; omega) (by omega) HBad.out.size ?_; intro g1 c1 y1 hown1 hb1 hw1; have hB1 : Below W2.heap.size W2 y1 := HBad.out.trans (hb1.mono HBad.out.size); obtain ⟨e0, e1⟩ := (HQ.out _ hB1).1.cells; have hy1 := hB1.size; have hg1 := (show g1 < y1.heap.size from (OwnSt.lt ⟨hown1, HM0.out⟩ g1 rfl).2); have mark1 := trivial)
      | (refine step_append_lit rfl (.tmp 3) (.tmp 5) 24 24 rfl W2.heap.size 9 i0 (.string ⟨#[]⟩) 1 16 Tryz.underlying24 hi hz0 hz1 hz2 rfl (by decide) W2.heap.size rfl HLb.out (by omega) _ n (scells xs) rfl (HX.out _ HBbd.out).1.src (by unfold maxLen; omega) (by omega) HBbd.out.size ?_; intro g1 c1 y1 hown1 hb1 hw1; have hB1 : Below W2.heap.size W2 y1 := HBbd.out.trans (hb1.mono HBbd.out.size); obtain ⟨e0, e1⟩ := (HQ.out _ hB1).1.cells; have hy1 := hB1.size; have hg1 := (show g1 < y1.heap.size from (OwnSt.lt ⟨hown1, HM0.out⟩ g1 rfl).2); have hl2 : y1.heap[W2.heap.size + 1]? = some (.cells #[] 9) := (hb1.block _ (by show W2.heap.size + 1 < ((W2.alloc (.cells #[] 9)).alloc (.cells #[] 9)).heap.size; simp)).trans HLc.out; have hap : g1 ≠ W2.heap.size + 1 := (by have hz : ((W2.alloc (.cells #[] 9)).alloc (.cells #[] 9)).drew.heap.size = W2.heap.size + 2 := (by show ((W2.alloc (.cells #[] 9)).alloc (.cells #[] 9)).heap.size = _; simp); rcases hw1 with h | h <;> omega))
      | (refine step_append_lit rfl (.tmp 3) (.tmp 5) 24 24 rfl W2.heap.size 9 i0 (.string ⟨#[]⟩) 1 16 Tryz.underlying24 hi hz0 hz1 hz2 rfl (by decide) (W2.heap.size + 1) rfl HLc.out (by omega) _ n (scells xs) rfl (HX.out _ HBbd.out).1.src (by unfold maxLen; omega) (by omega) HBbd.out.size ?_; intro g1 c1 y1 hown1 hb1 hw1; have hB1 : Below W2.heap.size W2 y1 := HBbd.out.trans (hb1.mono HBbd.out.size); obtain ⟨e0, e1⟩ := (HQ.out _ hB1).1.cells; have hy1 := hB1.size; have hg1 := (show g1 < y1.heap.size from (OwnSt.lt ⟨hown1, HM0.out⟩ g1 rfl).2); have hl3 : y1.heap[W2.heap.size]? = some (.cells #[] 9) := (hb1.block _ (by show W2.heap.size < ((W2.alloc (.cells #[] 9)).alloc (.cells #[] 9)).heap.size; simp; omega)).trans HLb.out; have hap : g1 ≠ W2.heap.size := (by have hz : ((W2.alloc (.cells #[] 9)).alloc (.cells #[] 9)).drew.heap.size = W2.heap.size + 2 := (by show ((W2.alloc (.cells #[] 9)).alloc (.cells #[] 9)).heap.size = _; simp); rcases hw1 with h | h <;> omega))
      | fail)
    all_goals
      have HF : Hid (Box2R ((y2.setCell ⟨w.heap.size + 1, 0, none⟩ (.slice (some ⟨g1, 0, none⟩) n c1)).setCell ⟨w.heap.size + 1, 1, none⟩ (.slice (some ⟨g2, 0, none⟩) n' c2)) (w.heap.size + 1) 26 (.slice (some ⟨g1, 0, none⟩) n c1) (.slice (some ⟨g2, 0, none⟩) n' c2) ∧ g1 ≠ g2 ∧ OwnSt ((y2.setCell ⟨w.heap.size + 1, 0, none⟩ (.slice (some ⟨g1, 0, none⟩) n c1)).setCell ⟨w.heap.size + 1, 1, none⟩ (.slice (some ⟨g2, 0, none⟩) n' c2)) w.heap.size (.slice (some ⟨g1, 0, none⟩) n c1) n xs ∧ OwnSt ((y2.setCell ⟨w.heap.size + 1, 0, none⟩ (.slice (some ⟨g1, 0, none⟩) n c1)).setCell ⟨w.heap.size + 1, 1, none⟩ (.slice (some ⟨g2, 0, none⟩) n' c2)) w.heap.size (.slice (some ⟨g2, 0, none⟩) n' c2) n' ys ∧ Below w.heap.size w ((y2.setCell ⟨w.heap.size + 1, 0, none⟩ (.slice (some ⟨g1, 0, none⟩) n c1)).setCell ⟨w.heap.size + 1, 1, none⟩ (.slice (some ⟨g2, 0, none⟩) n' c2))) := by
        have o1 : OwnSt y2 W2.heap.size (.slice (some ⟨g1, 0, none⟩) n c1) n xs := ⟨hownP, HM0.out⟩
        have o2 : OwnSt y2 W2.heap.size (.slice (some ⟨g2, 0, none⟩) n' c2) n' ys := ⟨hown2, HM1.out⟩
        have l1 := (o1.lt g1 rfl).1
        have l2 := (o2.lt g2 rfl).1
        have hbw := HB2.out.trans (hB2.mono HB2.out.size)
        exact ⟨((HQ.out _ hB2).2.set0 _).set1 _, hne12, ((o1.setCell (by simp [blkOf]; omega) _).setCell (by simp [blkOf]; omega) _).low (by omega), ((o2.setCell (by simp [blkOf]; omega) _).setCell (by simp [blkOf]; omega) _).low (by omega), (hbw.setCell (by dsimp only; omega) _).setCell (by dsimp only; omega) _⟩
      clear hown1 hown2 hownP hb1 hb2 hB1 hB2 hw1 hw2 e0 e1 m0 m1 r0 r1 f0 f1 hg1 hy1
      go_wp2_with fail
      go_meet
      exact ⟨g1, c1, g2, c2, HF.out⟩
  case rest =>
  obtain ⟨x3, hx3⟩ : ∃ x3, wc = x3 := ⟨_, rfl⟩
  rw [hx3] at hcut ⊢
  obtain ⟨g1, c1, g2, c2, hbx, hne12, o1, o2, hbw⟩ := hcut
  have HO : Hid (OwnSt x3 w.heap.size (.slice (some ⟨g1, 0, none⟩) n c1) n xs ∧ OwnSt x3 w.heap.size (.slice (some ⟨g2, 0, none⟩) n' c2) n' ys ∧ Below w.heap.size w x3) := ⟨o1, o2, hbw⟩
  clear hx3 o1 o2 hbw HBa HBb HBad HBbd HLa HLb HLc
  obtain ⟨d0, d1⟩ := hbx.cells
  go_wp2_with fail
  refine bodyPost_ret (v := .agg #[.slice (some ⟨g1, 0, none⟩) n c1, .slice (some ⟨g2, 0, none⟩) n' c2]) (by simp [results, Tryz.f78, go_sem, d0, d1]) rfl ?_
  have hl := HLn.out
  exact ⟨⟨_, rfl, AnsD.mk' (by omega) (by omega) HO.out.1 HO.out.2.1 (fun q e e2 => hne12 (by simp at e e2; omega))⟩, HO.out.2.2⟩

end Go.Proofs.YtlkgopoicpnacaaGreatDoor

namespace Go.Proofs.YtlkgopoicpnacaaGreatDoor
open Go.RowKit
set_option linter.unusedVariables false

set_option maxRecDepth 10000 in
set_option maxHeartbeats 3200000 in
theorem specScopy_any (a : Option Addr) (n ca : Nat) (X : List ByteArray) (a' : Option Addr) (n' ca' : Nat) (Y : List ByteArray) (ep nx : Int) (ua : Option Addr) (un uc lo : Nat) (l : List UE) (w : World) (h1 : Strs w a n X) (h2 : Strs w a' n' Y) (hn : n ≤ 1048576) (hn' : n' ≤ 1048576) (hu : UpRow w lo (.slice ua un uc) l) (hun : un = l.length) (hul : un ≤ 1048576) (hz : ∀ e ∈ l, e.n ≤ 1099511627776) :
    Calls Tryz.prog 70 #[.agg #[.slice a n ca, .slice a' n' ca', .int .i64 ep, .int .i64 nx, .slice ua un uc]] w fun e w' => (∃ v, e = .returned v ∧ AnsS w.heap.size X Y ep nx (l.map UE.u) v w') ∧ Below w.heap.size w w' := by
  have HLn : Hid (X.length = n ∧ Y.length = n' ∧ un = l.length ∧ ∀ e ∈ l, e.n ≤ 1099511627776) := ⟨h1.1, h2.1, hun, hz⟩
  obtain ⟨W2, hW2⟩ : ∃ W2, (w.alloc (.cells #[.slice a n ca, .slice a' n' ca', .int .i64 ep, .int .i64 nx, .slice ua un uc] 29)).alloc (.cells #[.slice none 0 0, .slice none 0 0, .int .i64 0, .int .i64 0, .slice none 0 0] 29) = W2 := ⟨_, rfl⟩
  have HE : Hid ((w.alloc (.cells #[.slice a n ca, .slice a' n' ca', .int .i64 ep, .int .i64 nx, .slice ua un uc] 29)).alloc (.cells #[.slice none 0 0, .slice none 0 0, .int .i64 0, .int .i64 0, .slice none 0 0] 29) = W2) := hW2
  have HB2 : Hid (Below w.heap.size w W2) := by show Below _ _ _; rw [← hW2]; exact ((Below.refl _ _).alloc (Nat.le_refl _) _).alloc (by simp) _
  have HZ2 : Hid (W2.heap.size = w.heap.size + 2) := by show _ = _; rw [← hW2]; simp
  have q1 : BoxN W2 w.heap.size 29 [.slice a n ca, .slice a' n' ca', .int .i64 ep, .int .i64 nx, .slice ua un uc] := by rw [← hW2]; exact (BoxN.new _ _ _).alloc _
  have q2 : BoxN W2 (w.heap.size + 1) 29 [.slice none 0 0, .slice none 0 0, .int .i64 0, .int .i64 0, .slice none 0 0] := by
    rw [← hW2]
    have := BoxN.new (w.alloc (.cells #[.slice a n ca, .slice a' n' ca', .int .i64 ep, .int .i64 nx, .slice ua un uc] 29)) 29 [.slice none 0 0, .slice none 0 0, .int .i64 0, .int .i64 0, .slice none 0 0]
    rwa [World.size_alloc] at this
  have HQ : Hid (∀ W, Below W2.heap.size W2 W → BoxN W w.heap.size 29 [.slice a n ca, .slice a' n' ca', .int .i64 ep, .int .i64 nx, .slice ua un uc] ∧ BoxN W (w.heap.size + 1) 29 [.slice none 0 0, .slice none 0 0, .int .i64 0, .int .i64 0, .slice none 0 0]) := fun W h => ⟨q1.stays h, q2.stays h⟩
  have HX : Hid (∀ W, Below W2.heap.size W2 W → Strs W a n X ∧ Strs W a' n' Y ∧ UpRow W lo (.slice ua un uc) l) := fun W h => by
    have hw := HB2.out.trans (h.mono HB2.out.size)
    exact ⟨h1.below hw, h2.below hw, hu.stays hw⟩
  have HBd : Hid (Below W2.heap.size W2 W2.drew) := (Below.refl _ _).drew
  clear hW2 q1 q2 h1 h2 hu hun hz
  have hne : w.heap.size ≠ w.heap.size + 1 := by omega
  have hs2 : w.heap.size + 1 < W2.heap.size := by have := HZ2.out; omega
  go_enter Tryz.func70, Tryz.ntmps70
  go_upto_region 1 with fail
  rw [HE.out]
  clear HE
  have bq := (HQ.out _ (Below.refl _ _)).1
  have c0 := bq.cell 0 rfl
  have c1 := bq.cell 1 rfl
  have c2 := bq.cell 2 rfl
  have c3 := bq.cell 3 rfl
  have c4 := bq.cell 4 rfl
  clear bq
  go_region_held3 (fun W => W.cell? ⟨w.heap.size, 0, none⟩ = some (.slice a n ca) ∧ W.cell? ⟨w.heap.size, 1, none⟩ = some (.slice a' n' ca') ∧ W.cell? ⟨w.heap.size, 2, none⟩ = some (.int .i64 ep) ∧ W.cell? ⟨w.heap.size, 3, none⟩ = some (.int .i64 nx) ∧ W.cell? ⟨w.heap.size, 4, none⟩ = some (.slice ua un uc)) (first | with_reducible exact ⟨m0, m1, m2, m3, m4⟩ | with_reducible exact ⟨e0, e1, e2, e3, e4⟩ | with_reducible exact ⟨cellD_kept hne (cellD_kept hne (cellD_kept hne (cellD_kept hne (cellD_kept hne m0)))), cellD_kept hne (cellD_kept hne (cellD_kept hne (cellD_kept hne (cellD_kept hne m1)))), cellD_kept hne (cellD_kept hne (cellD_kept hne (cellD_kept hne (cellD_kept hne m2)))), cellD_kept hne (cellD_kept hne (cellD_kept hne (cellD_kept hne (cellD_kept hne m3)))), cellD_kept hne (cellD_kept hne (cellD_kept hne (cellD_kept hne (cellD_kept hne m4))))⟩ | exact ⟨c0, c1, c2, c3, c4⟩) (first
    | (go_at_call 101; refine (specCopyU_any ua un uc lo l _ (HX.out _ hB1).2.2 HLn.out.2.2.1 hul HLn.out.2.2.2).mono ?_; rintro e y2 ⟨⟨v2, l2, rfl, own2, hm2, hg2⟩, hb2⟩
       have hB2 : Below W2.heap.size W2 y2 := hB1.trans (hb2.mono hB1.size)
       have m0 := (HQ.out _ hB2).1.cell 0 rfl
       have m1 := (HQ.out _ hB2).1.cell 1 rfl
       have m2 := (HQ.out _ hB2).1.cell 2 rfl
       have m3 := (HQ.out _ hB2).1.cell 3 rfl
       have m4 := (HQ.out _ hB2).1.cell 4 rfl
       have r0 := (HQ.out _ hB2).2.cell 0 rfl
       have r1 := (HQ.out _ hB2).2.cell 1 rfl
       have r2 := (HQ.out _ hB2).2.cell 2 rfl
       have r3 := (HQ.out _ hB2).2.cell 3 rfl
       have r4 := (HQ.out _ hB2).2.cell 4 rfl
       have f0 := (HQ.out _ hB2).2.frozen 0
       have f1 := (HQ.out _ hB2).2.frozen 1
       have f2 := (HQ.out _ hB2).2.frozen 2
       have f3 := (HQ.out _ hB2).2.frozen 3
       have f4 := (HQ.out _ hB2).2.frozen 4
       obtain ⟨A3, C3, rfl⟩ := own2.shape)
    | (go_at_call 78; refine (specDcopy_any a n ca X a' n' ca' Y _ (HX.out _ HBd.out).1 (HX.out _ HBd.out).2.1 (by omega) (by omega)).mono ?_; rintro e y1 ⟨⟨v1, rfl, A1, C1, A2, C2, rfl, own1, own1', hap⟩, hb1⟩
       have hB1 : Below W2.heap.size W2 y1 := HBd.out.trans (hb1.mono (Nat.le_refl _))
       have e0 := (HQ.out _ hB1).1.cell 0 rfl
       have e1 := (HQ.out _ hB1).1.cell 1 rfl
       have e2 := (HQ.out _ hB1).1.cell 2 rfl
       have e3 := (HQ.out _ hB1).1.cell 3 rfl
       have e4 := (HQ.out _ hB1).1.cell 4 rfl)
    | fail)
  all_goals
    have HF : Hid (StoAt y2 (w.heap.size + 2) A1 X.length C1 X A2 Y.length C2 Y A3 l2.length C3 l2 ∧ l2.map UE.u = l.map UE.u ∧ Below w.heap.size w y2) := by
      have hz := HZ2.out
      refine ⟨⟨(own1.below hb2).low (by show _ ≤ W2.heap.size; omega), (own1'.below hb2).low (by show _ ≤ W2.heap.size; omega), hap, own2.low (by have := hB1.size; omega), rfl⟩, hm2, HB2.out.trans (hB2.mono HB2.out.size)⟩
    clear own1 own1' own2 hap hb1 hb2 hB1 hB2 hm2 hg2 e0 e1 e2 e3 e4 m0 m1 m2 m3 m4 c0 c1 c2 c3 c4 HQ HX HBd HB2
    go_wp2_with fail
    refine bodyPost_ret (v := .agg #[.slice A1 X.length C1, .slice A2 Y.length C2, .int .i64 ep, .int .i64 nx, .slice A3 l2.length C3]) (by simp [results, Tryz.f70, go_sem, r0, r1, r2, r3, r4]) rfl ?_
    refine ⟨⟨_, rfl, A1, X.length, C1, A2, Y.length, C2, A3, l2.length, C3, l2, rfl, ?_, HF.out.2.1⟩, ?_⟩
    · exact (((((HF.out.1.setLow (by omega) _).setLow (by omega) _).setLow (by omega) _).setLow (by omega) _).setLow (by omega) _).low (by omega)
    · exact ((((HF.out.2.2.setCell (by dsimp only; omega) _).setCell (by dsimp only; omega) _).setCell (by dsimp only; omega) _).setCell (by dsimp only; omega) _).setCell (by dsimp only; omega) _

end Go.Proofs.YtlkgopoicpnacaaGreatDoor

namespace Go.Proofs.YtlkgopoicpnacaaGreatDoor
open Go.RowKit
set_option linter.unusedVariables false

section
variable {P : Program} {ops : Array Oper} {md : Region.Mode} {C : World → Prop}

/-- Each operation from the m-th to the n-th is waited for by a later one of these, or by the n-th. -/
def sinkFrom (md : Region.Mode) (ops : Array Oper) (m n : Nat) : Bool :=
  (List.range n).all fun i => decide (i < m) || (List.range (n + 1)).any fun j => decide (i < j) && Region.waitsFor md ops j i

theorem tail_waitsF {m n : Nat} {listed : Array Bool} (hs : sinkFrom md ops m n = true) (hc : Region.chainB md ops n = true) (hn : n < ops.size) (inv : HeadInv md ops n listed) :
    ∀ (d i : Nat), n - i = d → m ≤ i → i < n → listed.getD i true = false → ∀ t, n ≤ t → t ∉ Region.ready md ops listed := by
  intro d
  induction d using Nat.strongRecOn with
  | _ d ih =>
    intro i hd hmi hi hun t ht hr
    obtain ⟨_, ot, hot, hall⟩ := mem_ready.1 hr
    have htlt : t < ops.size := (Array.getElem?_eq_some_iff.1 hot).1
    by_cases htn : t = n
    · subst htn
      have h1 := List.all_eq_true.1 hs i (List.mem_range.2 hi)
      rw [decide_eq_false (by omega), Bool.false_or] at h1
      obtain ⟨j, hj, hj2⟩ := List.any_eq_true.1 h1
      simp only [Bool.and_eq_true, decide_eq_true_eq] at hj2
      obtain ⟨oj, hoj, e, he, hb, hon⟩ := Region.waitsFor_spec hj2.2
      have hjle : j ≤ t := by have := List.mem_range.1 hj; omega
      by_cases hjt : j = t
      · subst hjt
        have : oj = ot := Option.some.inj (hoj.symm.trans hot)
        subst this
        have h2 := hall e he hb
        rw [hon, getD_both hun] at h2
        cases h2
      · cases hl : listed.getD j false with
        | true =>
          have h2 := inv.closed j oj hoj hl e he hb
          rw [hon, getD_both hun] at h2
          cases h2
        | false =>
          have hjs : j < listed.size := by rw [inv.size]; omega
          exact ih (t - j) (by omega) j rfl (by omega) (by omega) (getD_in hjs hl) t (Nat.le_refl _) hr
    · have h1 := List.all_eq_true.1 hc t (List.mem_range.2 htlt)
      simp only [Bool.or_eq_true, decide_eq_true_eq] at h1
      rcases h1 with h1 | h1
      · omega
      · obtain ⟨o', ho', e, he, hb, hon⟩ := Region.waitsFor_spec h1
        have : o' = ot := Option.some.inj (ho'.symm.trans hot)
        subst this
        have h2 := hall e he hb
        rw [hon, getD_both (inv.tail (t - 1) (by omega) (by omega))] at h2
        cases h2

/-- Whatever order is picked of the operations ahead of the n-th. -/
def wpHeadQ (P : Program) (md : Region.Mode) (ops : Array Oper) (C : World → Prop) (n : Nat) (L : Array Bool → Act → Prop) : Nat → Array Bool → Act → Prop
  | 0, listed, a => L listed a
  | f + 1, listed, a => Region.ready md ops listed ≠ [] ∧ ∀ i ∈ Region.ready md ops listed, i < n ∧ qOp P ops C i (wpHeadQ P md ops C n L f (listed.setIfInBounds i true)) a

theorem wpAny_of_headQ {n g : Nat} {L : Array Bool → Act → Prop} {Q' : Exit → Act → World → Prop} (hL : ∀ listed a w, C w → L listed a → wpAny P md ops Q' g listed a w) :
    ∀ (f : Nat) (listed : Array Bool) (a : Act) (w : World), C w → wpHeadQ P md ops C n L f listed a → wpAny P md ops Q' (f + g) listed a w
  | 0, listed, a, w, hC, h => by rw [Nat.zero_add]; exact hL _ _ _ hC h
  | f + 1, listed, a, w, hC, h => by
    rw [show f + 1 + g = (f + g) + 1 by omega]
    exact ⟨fun h0 => absurd h0 h.1, fun i hi => wpOp_of_qOp hC (fun a' w' hC' h' => wpAny_of_headQ hL f _ a' w' hC' h') (h.2 i hi).2⟩

theorem wpHeadQ_first {m n i : Nat} {oi : Oper} {v : Value} {L : Array Bool → Act → Prop} (hi : ops[i]? = some oi) (hsel : ∀ (j : Nat) (o : Oper) cs b, ops[j]? = some o → o.op ≠ .select cs b)
    (hs : sinkFrom md ops m n = true) (hc : Region.chainB md ops n = true) (hn : n < ops.size) (him : m ≤ i) (hin : i < n)
    (hdone : ∀ listed a, L listed a → ∀ j ∈ Region.ready md ops listed, n ≤ j) :
    ∀ (f : Nat) (listed : Array Bool) (a : Act), HeadInv md ops n listed →
      (∀ j oj, ops[j]? = some oj → j ≠ i → listed.getD j true = false → (∀ e ∈ oj.after, Region.binds md e = true → e.on ≠ i) → oi.apart ops oj = true) →
      i ∈ Region.ready md ops listed → YieldsIn P ops C oi v a →
      wpHeadQ P md ops C n L f (listed.setIfInBounds i true) (a.put oi.dst v) → wpHeadQ P md ops C n L (f + 1) listed a := by
  intro f
  induction f with
  | zero =>
    intro listed a inv _ hr hy H
    have hun := (mem_ready.1 hr).1
    refine ⟨fun h => (by rw [h] at hr; cases hr), fun j hj => ?_⟩
    have hjn : j < n := by
      rcases Nat.lt_or_ge j n with h | h
      · exact h
      · exact absurd hj (tail_waitsF hs hc hn inv _ i rfl him hin hun j h)
    refine ⟨hjn, ?_⟩
    by_cases hji : j = i
    · subst hji; exact hy.qOp hi H
    · have := hdone _ _ H j (ready_mono hj hji)
      omega
  | succ f ih =>
    intro listed a inv hfree hr hy H
    have hun := (mem_ready.1 hr).1
    refine ⟨fun h => (by rw [h] at hr; cases hr), fun j hj => ?_⟩
    have hjn : j < n := by
      rcases Nat.lt_or_ge j n with h | h
      · exact h
      · exact absurd hj (tail_waitsF hs hc hn inv _ i rfl him hin hun j h)
    refine ⟨hjn, ?_⟩
    by_cases hji : j = i
    · subst hji; exact hy.qOp hi H
    · have h1 := (H.2 j (ready_mono hj hji)).2
      obtain ⟨hjun, oj, hoj, hall⟩ := mem_ready.1 hj
      have hnot : ∀ e ∈ oj.after, Region.binds md e = true → e.on ≠ i := fun e he hb heq => by
        have h1 := hall e he hb
        rw [heq, getD_both hun] at h1
        cases h1
      have h2 := qOp_put hoj (hfree j oj hoj hji hjun hnot) (fun cs b => hsel i oi cs b hi) (fun cs b => hsel j oj cs b hoj) hy h1
      have hfree' : ∀ k ok, ops[k]? = some ok → k ≠ i → (listed.setIfInBounds j true).getD k true = false →
          (∀ e ∈ ok.after, Region.binds md e = true → e.on ≠ i) → oi.apart ops ok = true := fun k ok hk hki hun hno => by
        refine hfree k ok hk hki ?_ hno
        by_cases hjk : j = k
        · subst hjk; exact hjun
        · rw [getD_set_ne true hjk] at hun; exact hun
      refine qOp_mono (fun a' h3 => ih (listed.setIfInBounds j true) a' (inv.set hj hjn) hfree' (ready_mono hr (Ne.symm hji)) h3.1 ?_) h2
      rw [Array.setIfInBounds_comm _ _ hji]
      exact h3.2

theorem wpHeadQ_lex {m n g : Nat} {Lq : Act → Prop} (hsel : Region.noSelect ops = true) (hs : sinkFrom md ops m n = true) (hc : Region.chainB md ops n = true) (hn : n < ops.size) :
    ∀ (l : List Oper) (k : Nat) (listed : Array Bool) (a : Act), (∀ j, j < l.length → l[j]? = ops[k + j]?) → m ≤ k → k + l.length = n → HeadInv md ops n listed →
    Region.lexHead md ops g l.length k listed = true → wpQuiet P ops C Lq l a →
    wpHeadQ P md ops C n (fun listed' a' => Region.seqB md ops g n listed' = true ∧ Lq a') l.length listed a
  | [], k, listed, a, _, _, hk, _, hB, h => by
    have : k = n := by simpa using hk
    subst this
    exact ⟨by simpa [Region.lexHead] using hB, h⟩
  | o :: l, k, listed, a, hl, hmk, hk, inv, hB, h => by
    have h0 : ops[k]? = some o := by simpa using (hl 0 (by simp)).symm
    simp only [List.length_cons, Region.lexHead, Bool.and_eq_true] at hB
    obtain ⟨⟨hr, hf⟩, hB'⟩ := hB
    have hkn : k < n := by simp only [List.length_cons] at hk; omega
    have hr' : k ∈ Region.ready md ops listed := by simpa using hr
    have hst : qOp P ops C k (wpQuiet P ops C Lq l) a := by unfold qOp; simp only [h0]; exact h
    obtain ⟨v, hy, hK⟩ := yieldsIn_of_qOp h0 hst
    exact wpHeadQ_first h0 (Region.noSelect_spec hsel) hs hc hn hmk hkn (fun listed' a' hL => seqB_ready hL.1) l.length listed a inv (Region.free_spec h0 hf) hr' hy
      (wpHeadQ_lex hsel hs hc hn l (k + 1) _ _ (fun j hj => by have := hl (j + 1) (by simp; omega); simpa [Nat.add_assoc, Nat.add_comm 1 j] using this) (by omega) (by simp only [List.length_cons] at hk; omega) (inv.set hr' hkn) hB' hK)

/-- The bounds of a region whose first m operations are taken ahead, whose head is quiet, whose tail comes one by one. -/
def pastB (ops : Array Oper) (m n : Nat) : Bool :=
  Region.noSelect ops && decide (n < ops.size) && decide (m ≤ n) && sinkFrom .any ops m n && Region.chainB .any ops n && Region.lexHead .any ops (ops.size - n) (n - m) m ((List.range m).foldl (fun l i => l.setIfInBounds i true) (Array.replicate ops.size false))

/-- The head is quiet in the class, the tail comes one by one in whatever world of the class. -/
theorem wpAny_quiet_tail {Q : Exit → Act → World → Prop} {a : Act} {w : World} {l : List Oper} (m n : Nat) (listed : Array Bool) (hl : (List.range m).foldl (fun l i => l.setIfInBounds i true) (Array.replicate l.toArray.size false) = listed) (hB : pastB l.toArray m n = true) (inv0 : HeadInv .any l.toArray n listed) (hC : C w)
    (h : wpQuiet P l.toArray C (fun a' => ∀ w', C w' → wpList P l.toArray Q (l.drop n) a' w') ((l.take n).drop m) a) : wpAny P .any l.toArray Q (l.length - m) listed a w := by
  simp only [pastB, Bool.and_eq_true, decide_eq_true_eq] at hB
  obtain ⟨⟨⟨⟨⟨hsel, hn⟩, hmn⟩, hs⟩, hc⟩, hlex⟩ := hB
  rw [hl] at hlex
  have hn' : n < l.length := by simpa using hn
  have htl : ((l.take n).drop m).length = n - m := by simp; omega
  have hdl : (l.drop n).length = l.toArray.size - n := by simp
  have H := wpHeadQ_lex (md := .any) (g := l.toArray.size - n) (C := C) hsel hs hc hn ((l.take n).drop m) m listed a (fun j hj => by
    have hj' : m + j < n := by rw [htl] at hj; omega
    rw [List.getElem?_drop, List.getElem?_take_of_lt hj']
    simp) (Nat.le_refl _) (by rw [htl]; omega) inv0 (by rw [htl]; exact hlex) h
  have := wpAny_of_headQ (Q' := Q) (g := l.toArray.size - n) (fun listed a' w' hC' hL => by
    have := wpAny_of_seq (md := .any) (Q' := Q) (l.drop n) n listed a' w' (fun j => by simp [List.getElem?_drop]) (by rw [hdl]; exact hL.1) (hL.2 w' hC')
    rwa [hdl] at this) _ _ _ _ hC H
  rw [htl, show n - m + (l.toArray.size - n) = l.length - m by simp; omega] at this
  exact this

theorem headInv0 (l : List Oper) (n : Nat) : HeadInv .any l.toArray n (Array.replicate l.toArray.size false) :=
  ⟨by simp, fun j oj _ hl => (by rw [getD_replicate_false] at hl; cases hl), fun t _ ht => getD_in (by simpa using ht) (getD_replicate_false _ _)⟩
end

/-- All in the class of worlds in which all that lay in w is as it was; the region's row hidden behind a name. -/
theorem wp_region_past_tail {P : Program} {id : Nat} {Q : Exit → Act → World → Prop} {a : Act} {w : World} {l : List Oper} (n : Nat) (hm : P.follows .mixedOrders = true) (hB : pastB l.toArray 0 n = true)
    (h : ∀ ops : Array Oper, Hid (ops = l.toArray) → wpQuiet P ops (fun w' => ∃ p : Past w, w' = p.world) (fun a' => ∀ w', (∃ p : Past w, w' = p.world) → wpList P ops Q (l.drop n) a' w') (l.take n) a) : (Code.region id l.toArray true).wp P Q a w := by
  refine wp_region_any hm ?_
  have := wpAny_quiet_tail (C := fun w' => ∃ p : Past w, w' = p.world) (Q := Q) 0 n _ rfl hB (headInv0 l n) ⟨⟨w.drew, (Below.refl _ _).drew⟩, rfl⟩ (by rw [List.drop_zero]; exact h _ rfl)
  simpa using this

/-- The same where the first operation only moves a value, whenever it comes; nothing panics. -/
theorem wp_region_past_tail1 {P : Program} {id : Nat} {Q : Exit → Act → World → Prop} {a : Act} {w : World} {o : Oper} {l : List Oper} (n : Nat) (hm : P.follows .mixedOrders = true) (hB : pastB (o :: l).toArray 1 n = true) (hf : Region.free .any (o :: l).toArray (Array.replicate (o :: l).toArray.size false) 0 = true) (hr : (Region.ready .any (o :: l).toArray (Array.replicate (o :: l).toArray.size false)).contains 0 = true) (ha : o.after = #[]) (hg : o.guard = none) (x : Operand) (ho : o.op = .move x)
    (h : ∀ ops : Array Oper, Hid (ops = (o :: l).toArray) → wpQuiet P ops (fun w' => ∃ p : Past w, w' = p.world) (fun a' => ∀ w', (∃ p : Past w, w' = p.world) → wpList P ops (fun e a w => e = .normal ∧ Q .normal a w) ((o :: l).drop n) a' w') (((o :: l).take n).drop 1) (a.put o.dst (a.eval x))) : (Code.region id (o :: l).toArray true).wp P Q a w := by
  have hsel : Region.noSelect (o :: l).toArray = true := by
    simp only [pastB, Bool.and_eq_true] at hB
    exact hB.1.1.1.1.1
  have hn : 1 ≤ n ∧ n < (o :: l).length := by
    simp only [pastB, Bool.and_eq_true, decide_eq_true_eq] at hB
    exact ⟨hB.1.1.1.2, by simpa using hB.1.1.1.1.2⟩
  have hy : Yields P (o :: l).toArray o (a.eval x) a := .inl ⟨by simp [Region.wanted, hg], fun w => by simp [execOp, ho]⟩
  have inv1 : HeadInv .any (o :: l).toArray n ((Array.replicate (o :: l).toArray.size false).setIfInBounds 0 true) := by
    refine ⟨by simp, fun j oj hj hl e he hb => ?_, fun t ht ht' => ?_⟩
    · by_cases hj0 : 0 = j
      · subst hj0
        obtain rfl : o = oj := by simpa using hj
        rw [ha] at he
        simp at he
      · rw [getD_set_ne false hj0, getD_replicate_false] at hl
        cases hl
    · rw [getD_set_ne true (by omega)]
      exact getD_in (by simpa using ht') (getD_replicate_false _ _)
  have H := wpAny_quiet_tail (C := fun w' => ∃ p : Past w, w' = p.world) (Q := fun e a w => e = .normal ∧ Q .normal a w) 1 n _ rfl hB inv1 ⟨⟨w.drew, (Below.refl _ _).drew⟩, rfl⟩ (h _ rfl)
  have H2 : wpAny P .any (o :: l).toArray (fun e a w => e = .normal ∧ Q .normal a w) (o :: l).toArray.size (Array.replicate (o :: l).toArray.size false) a { w with drawn := w.drawn + 1 } :=
    wpAny_take (fuel := l.length) (v := a.eval x) (by simp) hsel hf hr (fun c a w h => by cases h.1) hy (by simpa using H)
  exact Code.wp_mono (fun e a w h => by obtain ⟨rfl, h⟩ := h; exact h) (wp_region_any hm H2)

end Go.Proofs.YtlkgopoicpnacaaGreatDoor
