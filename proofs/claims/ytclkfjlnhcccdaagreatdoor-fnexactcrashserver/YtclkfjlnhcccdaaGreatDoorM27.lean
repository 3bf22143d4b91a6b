/- What the specification's copy of a store answers. What the specification's copy of a server answers. What spec.FlushDisk answers. What the specification's SyncStore answers. What the specification's SyncAll answers. The library's Clone of answers that wait: the same in memory of its own. An append onto a row of the call's own from a slice that may be nil: as an operation, as a step of a region that draws. No program in it. The library's Clone of texts, and the program's copy of a disk: the same in memory of its own. -/
import Derived.Test.YtclkfjlnhcccdaaGreatDoorM05
import Derived.Test.YtclkfjlnhcccdaaGreatDoorM26
import Derived.Test.YtclkfjlnhcccdaaGreatDoorM14
import Derived.Deep.CutBlock
import Derived.Deep.RegionHeld3
import Derived.Test.YtclkfjlnhcccdaaGreatDoorM10
import Derived.Test.YtclkfjlnhcccdaaGreatDoorM08
import Derived.Test.YtclkfjlnhcccdaaGreatDoorM04
import Derived.Test.YtclkfjlnhcccdaaGreatDoorM25
import Derived.Lib.SliceRun
import Derived.Deep.RegionLaw
import Derived.Deep.AppendSrc
import Derived.Laws.AppendOwn
import Derived.WalkKit
namespace Go.Proofs.YtclkfjlnhcccdaaGreatDoor
open Go.RowKit
set_option linter.unusedVariables false

set_option maxRecDepth 10000 in
set_option maxHeartbeats 3200000 in
theorem specScopy_any (a : Option Addr) (n ca : Nat) (X : List ByteArray) (a' : Option Addr) (n' ca' : Nat) (Y : List ByteArray) (ep nx : Int) (ua : Option Addr) (un uc lo : Nat) (l : List UE) (w : World) (h1 : Strs w a n X) (h2 : Strs w a' n' Y) (hn : n ≤ 1048576) (hn' : n' ≤ 1048576) (hu : UpRow w lo (.slice ua un uc) l) (hun : un = l.length) (hul : un ≤ 1048576) (hz : ∀ e ∈ l, e.n ≤ 1099511627776) :
    Calls Tryz.prog 42 #[.agg #[.slice a n ca, .slice a' n' ca', .int .i64 ep, .int .i64 nx, .slice ua un uc]] w fun e w' => (∃ v, e = .returned v ∧ AnsS w.heap.size X Y ep nx (l.map UE.u) v w') ∧ Below w.heap.size w w' := by
  have HLn : Hid (X.length = n ∧ Y.length = n' ∧ un = l.length ∧ ∀ e ∈ l, e.n ≤ 1099511627776) := ⟨h1.1, h2.1, hun, hz⟩
  obtain ⟨W2, hW2⟩ : ∃ W2, (w.alloc (.cells #[.slice a n ca, .slice a' n' ca', .int .i64 ep, .int .i64 nx, .slice ua un uc] 35)).alloc (.cells #[.slice none 0 0, .slice none 0 0, .int .i64 0, .int .i64 0, .slice none 0 0] 35) = W2 := ⟨_, rfl⟩
  have HE : Hid ((w.alloc (.cells #[.slice a n ca, .slice a' n' ca', .int .i64 ep, .int .i64 nx, .slice ua un uc] 35)).alloc (.cells #[.slice none 0 0, .slice none 0 0, .int .i64 0, .int .i64 0, .slice none 0 0] 35) = W2) := hW2
  have HB2 : Hid (Below w.heap.size w W2) := by show Below _ _ _; rw [← hW2]; exact ((Below.refl _ _).alloc (Nat.le_refl _) _).alloc (by simp) _
  have HZ2 : Hid (W2.heap.size = w.heap.size + 2) := by show _ = _; rw [← hW2]; simp
  have q1 : BoxN W2 w.heap.size 35 [.slice a n ca, .slice a' n' ca', .int .i64 ep, .int .i64 nx, .slice ua un uc] := by rw [← hW2]; exact (BoxN.new _ _ _).alloc _
  have q2 : BoxN W2 (w.heap.size + 1) 35 [.slice none 0 0, .slice none 0 0, .int .i64 0, .int .i64 0, .slice none 0 0] := by
    rw [← hW2]
    have := BoxN.new (w.alloc (.cells #[.slice a n ca, .slice a' n' ca', .int .i64 ep, .int .i64 nx, .slice ua un uc] 35)) 35 [.slice none 0 0, .slice none 0 0, .int .i64 0, .int .i64 0, .slice none 0 0]
    rwa [World.size_alloc] at this
  have HQ : Hid (∀ W, Below W2.heap.size W2 W → BoxN W w.heap.size 35 [.slice a n ca, .slice a' n' ca', .int .i64 ep, .int .i64 nx, .slice ua un uc] ∧ BoxN W (w.heap.size + 1) 35 [.slice none 0 0, .slice none 0 0, .int .i64 0, .int .i64 0, .slice none 0 0]) := fun W h => ⟨q1.stays h, q2.stays h⟩
  have HX : Hid (∀ W, Below W2.heap.size W2 W → Strs W a n X ∧ Strs W a' n' Y ∧ UpRow W lo (.slice ua un uc) l) := fun W h => by
    have hw := HB2.out.trans (h.mono HB2.out.size)
    exact ⟨h1.below hw, h2.below hw, hu.stays hw⟩
  have HBd : Hid (Below W2.heap.size W2 W2.drew) := (Below.refl _ _).drew
  clear hW2 q1 q2 h1 h2 hu hun hz
  have hne : w.heap.size ≠ w.heap.size + 1 := by omega
  have hs2 : w.heap.size + 1 < W2.heap.size := by have := HZ2.out; omega
  go_enter Tryz.func42, Tryz.ntmps42
  go_upto_region 1 with fail
  rw [HE.out]
  clear HE
  have bq := (HQ.out _ (Below.refl _ _)).1
  have c0 := bq.cell 0 rfl
  have c1 := bq.cell 1 rfl
  have c2 := bq.cell 2 rfl
  have c3 := bq.cell 3 rfl
  have c4 := bq.cell 4 rfl
  clear bq
  go_region_held3 (fun W => W.cell? ⟨w.heap.size, 0, none⟩ = some (.slice a n ca) ∧ W.cell? ⟨w.heap.size, 1, none⟩ = some (.slice a' n' ca') ∧ W.cell? ⟨w.heap.size, 2, none⟩ = some (.int .i64 ep) ∧ W.cell? ⟨w.heap.size, 3, none⟩ = some (.int .i64 nx) ∧ W.cell? ⟨w.heap.size, 4, none⟩ = some (.slice ua un uc)) (first | with_reducible exact ⟨m0, m1, m2, m3, m4⟩ | with_reducible exact ⟨e0, e1, e2, e3, e4⟩ | with_reducible exact ⟨cellD_kept hne (cellD_kept hne (cellD_kept hne (cellD_kept hne (cellD_kept hne m0)))), cellD_kept hne (cellD_kept hne (cellD_kept hne (cellD_kept hne (cellD_kept hne m1)))), cellD_kept hne (cellD_kept hne (cellD_kept hne (cellD_kept hne (cellD_kept hne m2)))), cellD_kept hne (cellD_kept hne (cellD_kept hne (cellD_kept hne (cellD_kept hne m3)))), cellD_kept hne (cellD_kept hne (cellD_kept hne (cellD_kept hne (cellD_kept hne m4))))⟩ | exact ⟨c0, c1, c2, c3, c4⟩) (first
    | (go_at_call 74; refine (specCopyU_any ua un uc lo l _ (HX.out _ hB1).2.2 HLn.out.2.2.1 hul HLn.out.2.2.2).mono ?_; rintro e y2 ⟨⟨v2, l2, rfl, own2, hm2, hg2⟩, hb2⟩
       have hB2 : Below W2.heap.size W2 y2 := hB1.trans (hb2.mono hB1.size)
       have m0 := (HQ.out _ hB2).1.cell 0 rfl
       have m1 := (HQ.out _ hB2).1.cell 1 rfl
       have m2 := (HQ.out _ hB2).1.cell 2 rfl
       have m3 := (HQ.out _ hB2).1.cell 3 rfl
       have m4 := (HQ.out _ hB2).1.cell 4 rfl
       have r0 := (HQ.out _ hB2).2.cell 0 rfl
       have r1 := (HQ.out _ hB2).2.cell 1 rfl
       have r2 := (HQ.out _ hB2).2.cell 2 rfl
       have r3 := (HQ.out _ hB2).2.cell 3 rfl
       have r4 := (HQ.out _ hB2).2.cell 4 rfl
       have f0 := (HQ.out _ hB2).2.frozen 0
       have f1 := (HQ.out _ hB2).2.frozen 1
       have f2 := (HQ.out _ hB2).2.frozen 2
       have f3 := (HQ.out _ hB2).2.frozen 3
       have f4 := (HQ.out _ hB2).2.frozen 4
       obtain ⟨A3, C3, rfl⟩ := own2.shape)
    | (go_at_call 66; refine (specDcopy_any a n ca X a' n' ca' Y _ (HX.out _ HBd.out).1 (HX.out _ HBd.out).2.1 (by omega) (by omega)).mono ?_; rintro e y1 ⟨⟨v1, rfl, A1, C1, A2, C2, rfl, own1, own1', hap⟩, hb1⟩
       have hB1 : Below W2.heap.size W2 y1 := HBd.out.trans (hb1.mono (Nat.le_refl _))
       have e0 := (HQ.out _ hB1).1.cell 0 rfl
       have e1 := (HQ.out _ hB1).1.cell 1 rfl
       have e2 := (HQ.out _ hB1).1.cell 2 rfl
       have e3 := (HQ.out _ hB1).1.cell 3 rfl
       have e4 := (HQ.out _ hB1).1.cell 4 rfl)
    | fail)
  all_goals
    have HF : Hid (StoAt y2 (w.heap.size + 2) A1 X.length C1 X A2 Y.length C2 Y A3 l2.length C3 l2 ∧ l2.map UE.u = l.map UE.u ∧ Below w.heap.size w y2) := by
      have hz := HZ2.out
      refine ⟨⟨(own1.below hb2).low (by show _ ≤ W2.heap.size; omega), (own1'.below hb2).low (by show _ ≤ W2.heap.size; omega), hap, own2.low (by have := hB1.size; omega), rfl⟩, hm2, HB2.out.trans (hB2.mono HB2.out.size)⟩
    clear own1 own1' own2 hap hb1 hb2 hB1 hB2 hm2 hg2 e0 e1 e2 e3 e4 m0 m1 m2 m3 m4 c0 c1 c2 c3 c4 HQ HX HBd HB2
    go_wp2_with fail
    refine bodyPost_ret (v := .agg #[.slice A1 X.length C1, .slice A2 Y.length C2, .int .i64 ep, .int .i64 nx, .slice A3 l2.length C3]) (by simp [results, Tryz.f42, go_sem, r0, r1, r2, r3, r4]) rfl ?_
    refine ⟨⟨_, rfl, A1, X.length, C1, A2, Y.length, C2, A3, l2.length, C3, l2, rfl, ?_, HF.out.2.1⟩, ?_⟩
    · exact (((((HF.out.1.setLow (by omega) _).setLow (by omega) _).setLow (by omega) _).setLow (by omega) _).setLow (by omega) _).low (by omega)
    · exact ((((HF.out.2.2.setCell (by dsimp only; omega) _).setCell (by dsimp only; omega) _).setCell (by dsimp only; omega) _).setCell (by dsimp only; omega) _).setCell (by dsimp only; omega) _

end Go.Proofs.YtclkfjlnhcccdaaGreatDoor

namespace Go.Proofs.YtclkfjlnhcccdaaGreatDoor
open Go.RowKit
set_option linter.unusedVariables false

set_option maxRecDepth 10000 in
set_option maxHeartbeats 3200000 in
theorem specVcopy_any (a : Option Addr) (n ca : Nat) (X : List ByteArray) (a' : Option Addr) (n' ca' : Nat) (Y : List ByteArray) (ep nx : Int) (ua : Option Addr) (un uc lo : Nat) (l : List UE) (ha : Option Addr) (hn hc : Nat) (hs : List Hd) (w : World) (h1 : Strs w a n X) (h2 : Strs w a' n' Y) (hln : n ≤ 1048576) (hln' : n' ≤ 1048576) (hu : UpRow w lo (.slice ua un uc) l) (hun : un = l.length) (hul : un ≤ 1048576) (hz : ∀ e ∈ l, e.n ≤ 1099511627776) (hh : Helds w ha hn hs) (hhl : hn ≤ 1048576) :
    Calls Tryz.prog 22 #[.agg #[.slice a n ca, .slice a' n' ca', .int .i64 ep, .int .i64 nx, .slice ua un uc, .slice ha hn hc]] w fun e w' => (∃ v, e = .returned v ∧ AnsV false w.heap.size X Y ep nx (l.map UE.u) hs v w') ∧ Below w.heap.size w w' := by
  obtain ⟨W2, hW2⟩ : ∃ W2, (w.alloc (.cells #[.slice a n ca, .slice a' n' ca', .int .i64 ep, .int .i64 nx, .slice ua un uc, .slice ha hn hc] 38)).alloc (.cells #[.slice none 0 0, .slice none 0 0, .int .i64 0, .int .i64 0, .slice none 0 0, .slice none 0 0] 38) = W2 := ⟨_, rfl⟩
  have HE : Hid ((w.alloc (.cells #[.slice a n ca, .slice a' n' ca', .int .i64 ep, .int .i64 nx, .slice ua un uc, .slice ha hn hc] 38)).alloc (.cells #[.slice none 0 0, .slice none 0 0, .int .i64 0, .int .i64 0, .slice none 0 0, .slice none 0 0] 38) = W2) := hW2
  have HB2 : Hid (Below w.heap.size w W2) := by show Below _ _ _; rw [← hW2]; exact ((Below.refl _ _).alloc (Nat.le_refl _) _).alloc (by simp) _
  have HZ2 : Hid (W2.heap.size = w.heap.size + 2) := by show _ = _; rw [← hW2]; simp
  have q1 : BoxN W2 w.heap.size 38 [.slice a n ca, .slice a' n' ca', .int .i64 ep, .int .i64 nx, .slice ua un uc, .slice ha hn hc] := by rw [← hW2]; exact (BoxN.new _ _ _).alloc _
  have q2 : BoxN W2 (w.heap.size + 1) 38 [.slice none 0 0, .slice none 0 0, .int .i64 0, .int .i64 0, .slice none 0 0, .slice none 0 0] := by
    rw [← hW2]
    have := BoxN.new (w.alloc (.cells #[.slice a n ca, .slice a' n' ca', .int .i64 ep, .int .i64 nx, .slice ua un uc, .slice ha hn hc] 38)) 38 [.slice none 0 0, .slice none 0 0, .int .i64 0, .int .i64 0, .slice none 0 0, .slice none 0 0]
    rwa [World.size_alloc] at this
  have HQ : Hid (∀ W, Below W2.heap.size W2 W → BoxN W w.heap.size 38 [.slice a n ca, .slice a' n' ca', .int .i64 ep, .int .i64 nx, .slice ua un uc, .slice ha hn hc] ∧ BoxN W (w.heap.size + 1) 38 [.slice none 0 0, .slice none 0 0, .int .i64 0, .int .i64 0, .slice none 0 0, .slice none 0 0]) := fun W h => ⟨q1.stays h, q2.stays h⟩
  have HX : Hid (∀ W, Below W2.heap.size W2 W → Strs W a n X ∧ Strs W a' n' Y ∧ UpRow W lo (.slice ua un uc) l ∧ Helds W ha hn hs) := fun W h => by
    have hw := HB2.out.trans (h.mono HB2.out.size)
    exact ⟨h1.below hw, h2.below hw, hu.stays hw, hh.below hw⟩
  have HCp : Hid (∀ W, Below W2.heap.size W2 W → Calls Tryz.prog 42 #[.agg #[.slice a n ca, .slice a' n' ca', .int .i64 ep, .int .i64 nx, .slice ua un uc]] W fun e w' => (∃ b cb b' cb' va vc l', e = .returned (.agg #[.slice b n cb, .slice b' n' cb', .int .i64 ep, .int .i64 nx, .slice va un vc]) ∧ StoAt w' W.heap.size b n cb X b' n' cb' Y va un vc l' ∧ l'.map UE.u = l.map UE.u) ∧ Below W.heap.size W w') := fun W hb => by
    refine (specScopy_any a n ca X a' n' ca' Y ep nx ua un uc lo l W (HX.out _ hb).1 (HX.out _ hb).2.1 hln hln' (HX.out _ hb).2.2.1 hun hul hz).mono ?_
    rintro e y1 ⟨⟨v1, rfl, hv1⟩, hb1⟩
    obtain ⟨b, cb, b', cb', va, vc, l', rfl, hs1, hm1⟩ := hv1.get
    rw [List.length_map, ← hun, h1.1, h2.1] at hs1 ⊢
    exact ⟨⟨b, cb, b', cb', va, vc, l', rfl, hs1, hm1⟩, hb1⟩
  have hne : w.heap.size ≠ w.heap.size + 1 := by omega
  have HL : Hid (un = l.length ∧ (∀ e ∈ l, e.n ≤ 1099511627776) ∧ hs.length = hn ∧ ∀ s ∈ hs, hd64 s) := ⟨hun, hz, hh.1, hh.2.1⟩
  have HBd : Hid (Below W2.heap.size W2 W2.drew) := (Below.refl _ _).drew
  have hs2 : w.heap.size + 1 < W2.heap.size := q2.lt
  clear hW2 q1 q2 h1 h2 hu hun hz hh
  obtain ⟨i0, hi, hz0, hz1, hz2⟩ := info_parts info_held
  have HBa : Hid (Below W2.heap.size W2 (W2.alloc (.cells #[] 67))) := (Below.refl _ _).alloc (Nat.le_refl _) _
  have HBad : Hid (Below W2.heap.size W2 (W2.alloc (.cells #[] 67)).drew) := HBa.out.drew
  have HLa : Hid ((W2.alloc (.cells #[] 67)).heap[W2.heap.size]? = some (.cells #[] 67)) := heap_alloc_new _ _
  go_enter Tryz.func22, Tryz.ntmps22
  go_upto_region 1 with fail
  rw [HE.out]
  clear HE
  obtain ⟨c0, c1, c2, c3, c4, c5⟩ := (show _ ∧ _ ∧ _ ∧ _ ∧ _ ∧ _ from ⟨BoxN.cell (HQ.out _ (Below.refl _ _)).1 0 rfl, BoxN.cell (HQ.out _ (Below.refl _ _)).1 1 rfl, BoxN.cell (HQ.out _ (Below.refl _ _)).1 2 rfl, BoxN.cell (HQ.out _ (Below.refl _ _)).1 3 rfl, BoxN.cell (HQ.out _ (Below.refl _ _)).1 4 rfl, BoxN.cell (HQ.out _ (Below.refl _ _)).1 5 rfl⟩)
  obtain ⟨d0, d1, d2, d3, d4, d5⟩ := (show _ ∧ _ ∧ _ ∧ _ ∧ _ ∧ _ from ⟨BoxN.cell (HQ.out _ HBd.out).1 0 rfl, BoxN.cell (HQ.out _ HBd.out).1 1 rfl, BoxN.cell (HQ.out _ HBd.out).1 2 rfl, BoxN.cell (HQ.out _ HBd.out).1 3 rfl, BoxN.cell (HQ.out _ HBd.out).1 4 rfl, BoxN.cell (HQ.out _ HBd.out).1 5 rfl⟩)
  obtain ⟨k0, k1, k2, k3, k4, k5⟩ := (show _ ∧ _ ∧ _ ∧ _ ∧ _ ∧ _ from ⟨BoxN.cell (HQ.out _ HBad.out).1 0 rfl, BoxN.cell (HQ.out _ HBad.out).1 1 rfl, BoxN.cell (HQ.out _ HBad.out).1 2 rfl, BoxN.cell (HQ.out _ HBad.out).1 3 rfl, BoxN.cell (HQ.out _ HBad.out).1 4 rfl, BoxN.cell (HQ.out _ HBad.out).1 5 rfl⟩)
  go_region_held3 (fun W => W.cell? ⟨w.heap.size, 0, none⟩ = some (.slice a n ca) ∧ W.cell? ⟨w.heap.size, 1, none⟩ = some (.slice a' n' ca') ∧ W.cell? ⟨w.heap.size, 2, none⟩ = some (.int .i64 ep) ∧ W.cell? ⟨w.heap.size, 3, none⟩ = some (.int .i64 nx) ∧ W.cell? ⟨w.heap.size, 4, none⟩ = some (.slice ua un uc) ∧ W.cell? ⟨w.heap.size, 5, none⟩ = some (.slice ha hn hc)) (first | with_reducible exact ⟨m0, m1, m2, m3, m4, m5⟩ | with_reducible exact ⟨cellD_kept hne (cellD_kept hne (cellD_kept hne (cellD_kept hne (cellD_kept hne (cellD_kept hne (m0)))))), cellD_kept hne (cellD_kept hne (cellD_kept hne (cellD_kept hne (cellD_kept hne (cellD_kept hne (m1)))))), cellD_kept hne (cellD_kept hne (cellD_kept hne (cellD_kept hne (cellD_kept hne (cellD_kept hne (m2)))))), cellD_kept hne (cellD_kept hne (cellD_kept hne (cellD_kept hne (cellD_kept hne (cellD_kept hne (m3)))))), cellD_kept hne (cellD_kept hne (cellD_kept hne (cellD_kept hne (cellD_kept hne (cellD_kept hne (m4)))))), cellD_kept hne (cellD_kept hne (cellD_kept hne (cellD_kept hne (cellD_kept hne (cellD_kept hne (m5))))))⟩ | with_reducible exact ⟨e0, e1, e2, e3, e4, e5⟩ | with_reducible exact ⟨x0, x1, x2, x3, x4, x5⟩ | with_reducible exact ⟨k0, k1, k2, k3, k4, k5⟩ | with_reducible exact ⟨d0, d1, d2, d3, d4, d5⟩ | exact ⟨c0, c1, c2, c3, c4, c5⟩ | fail) (first
    | (refine step_append_lit rfl (.tmp 6) (.tmp 8) 36 36 rfl W2.heap.size 67 i0 (.agg #[.int .i64 0, .int .i64 0, .int .i64 0]) 3 24 Tryz.underlying36 hi hz0 hz1 hz2 rfl (by decide) W2.heap.size rfl hl1 (Nat.le_refl _) _ hn (heCells hs) rfl (HX.out _ hB1).2.2.2.src (by unfold maxLen; omega) (by omega) (Below.size hB1) ?_; intro g2 cg2 y2 hown2 hb2 hw2
       have hB2 : Below W2.heap.size W2 y2 := Below.trans hB1 (hb2.mono (Below.size hB1))
       have m0 := BoxN.cell (HQ.out _ hB2).1 0 rfl
       have m1 := BoxN.cell (HQ.out _ hB2).1 1 rfl
       have m2 := BoxN.cell (HQ.out _ hB2).1 2 rfl
       have m3 := BoxN.cell (HQ.out _ hB2).1 3 rfl
       have m4 := BoxN.cell (HQ.out _ hB2).1 4 rfl
       have m5 := BoxN.cell (HQ.out _ hB2).1 5 rfl
       have r0 := BoxN.cell (HQ.out _ hB2).2 0 rfl
       have r1 := BoxN.cell (HQ.out _ hB2).2 1 rfl
       have r2 := BoxN.cell (HQ.out _ hB2).2 2 rfl
       have r3 := BoxN.cell (HQ.out _ hB2).2 3 rfl
       have r4 := BoxN.cell (HQ.out _ hB2).2 4 rfl
       have r5 := BoxN.cell (HQ.out _ hB2).2 5 rfl
       have f0 := BoxN.frozen (HQ.out _ hB2).2 0
       have f1 := BoxN.frozen (HQ.out _ hB2).2 1
       have f2 := BoxN.frozen (HQ.out _ hB2).2 2
       have f3 := BoxN.frozen (HQ.out _ hB2).2 3
       have f4 := BoxN.frozen (HQ.out _ hB2).2 4
       have f5 := BoxN.frozen (HQ.out _ hB2).2 5
       have hS2 : StoAt y2 W2.heap.size b n cb X b' n' cb' Y va un vc l' := hs1.stays hb2)
    | (refine step_append_lit rfl (.tmp 6) (.tmp 8) 36 36 rfl W2.heap.size 67 i0 (.agg #[.int .i64 0, .int .i64 0, .int .i64 0]) 3 24 Tryz.underlying36 hi hz0 hz1 hz2 rfl (by decide) y1.heap.size rfl (heap_alloc_new y1 _) (Below.size hB1) _ hn (heCells hs) rfl (HX.out _ hBz).2.2.2.src (by unfold maxLen; omega) (by omega) (Below.size hBz) ?_; intro g2 cg2 y2 hown2 hb2 hw2
       have hB2 : Below W2.heap.size W2 y2 := Below.trans hBz (hb2.mono (Below.size hBz))
       have m0 := BoxN.cell (HQ.out _ hB2).1 0 rfl
       have m1 := BoxN.cell (HQ.out _ hB2).1 1 rfl
       have m2 := BoxN.cell (HQ.out _ hB2).1 2 rfl
       have m3 := BoxN.cell (HQ.out _ hB2).1 3 rfl
       have m4 := BoxN.cell (HQ.out _ hB2).1 4 rfl
       have m5 := BoxN.cell (HQ.out _ hB2).1 5 rfl
       have r0 := BoxN.cell (HQ.out _ hB2).2 0 rfl
       have r1 := BoxN.cell (HQ.out _ hB2).2 1 rfl
       have r2 := BoxN.cell (HQ.out _ hB2).2 2 rfl
       have r3 := BoxN.cell (HQ.out _ hB2).2 3 rfl
       have r4 := BoxN.cell (HQ.out _ hB2).2 4 rfl
       have r5 := BoxN.cell (HQ.out _ hB2).2 5 rfl
       have f0 := BoxN.frozen (HQ.out _ hB2).2 0
       have f1 := BoxN.frozen (HQ.out _ hB2).2 1
       have f2 := BoxN.frozen (HQ.out _ hB2).2 2
       have f3 := BoxN.frozen (HQ.out _ hB2).2 3
       have f4 := BoxN.frozen (HQ.out _ hB2).2 4
       have f5 := BoxN.frozen (HQ.out _ hB2).2 5
       have hS2 : StoAt y2 W2.heap.size b n cb X b' n' cb' Y va un vc l' := (hs1.stays ((Below.refl y1.heap.size y1).alloc (Nat.le_refl _) _)).stays hb2)
    | (go_at_call 42; (with_reducible show Calls _ _ _ W2.drew _); refine (HCp.out W2.drew HBd.out).mono ?_; rintro e y1 ⟨⟨b, cb, b', cb', va, vc, l', rfl, hs1, hm1⟩, hb1⟩
       have hB1 : Below W2.heap.size W2 y1 := HBd.out.trans (hb1.mono (Nat.le_refl _))
       have hBz : Below W2.heap.size W2 (y1.alloc (.cells #[] 67)) := hB1.alloc hB1.size _
       have x0 := BoxN.cell (HQ.out _ hBz).1 0 rfl
       have x1 := BoxN.cell (HQ.out _ hBz).1 1 rfl
       have x2 := BoxN.cell (HQ.out _ hBz).1 2 rfl
       have x3 := BoxN.cell (HQ.out _ hBz).1 3 rfl
       have x4 := BoxN.cell (HQ.out _ hBz).1 4 rfl
       have x5 := BoxN.cell (HQ.out _ hBz).1 5 rfl
       have e0 := BoxN.cell (HQ.out _ hB1).1 0 rfl
       have e1 := BoxN.cell (HQ.out _ hB1).1 1 rfl
       have e2 := BoxN.cell (HQ.out _ hB1).1 2 rfl
       have e3 := BoxN.cell (HQ.out _ hB1).1 3 rfl
       have e4 := BoxN.cell (HQ.out _ hB1).1 4 rfl
       have e5 := BoxN.cell (HQ.out _ hB1).1 5 rfl)
    | (go_at_call 42; (with_reducible show Calls _ _ _ (W2.alloc _).drew _); refine (HCp.out (W2.alloc (.cells #[] 67)).drew HBad.out).mono ?_; rintro e y1 ⟨⟨b, cb, b', cb', va, vc, l', rfl, hs1, hm1⟩, hb1⟩
       have hB1 : Below W2.heap.size W2 y1 := HBad.out.trans (hb1.mono HBad.out.size)
       have hs1 := StoAt.low hs1 (Below.size HBad.out)
       have hl1 : y1.heap[W2.heap.size]? = some (.cells #[] 67) := (hb1.block _ (by show W2.heap.size < (W2.alloc (.cells #[] 67)).heap.size; simp)).trans HLa.out
       have e0 := BoxN.cell (HQ.out _ hB1).1 0 rfl
       have e1 := BoxN.cell (HQ.out _ hB1).1 1 rfl
       have e2 := BoxN.cell (HQ.out _ hB1).1 2 rfl
       have e3 := BoxN.cell (HQ.out _ hB1).1 3 rfl
       have e4 := BoxN.cell (HQ.out _ hB1).1 4 rfl
       have e5 := BoxN.cell (HQ.out _ hB1).1 5 rfl)
    | fail)
  all_goals
    have HF : Hid (StoAt y2 (w.heap.size + 2) b n cb X b' n' cb' Y va un vc l' ∧ l'.map UE.u = l.map UE.u ∧ OwnH y2 (w.heap.size + 2) (some ⟨g2, 0, none⟩) hn cg2 hs ∧ Below w.heap.size w y2 ∧ True) := by
      have hz := HZ2.out
      exact ⟨hS2.low (by show _ ≤ W2.heap.size; omega), hm1, OwnH.low ⟨hown2, HL.out.2.2.2⟩ (by show _ ≤ W2.heap.size; omega), HB2.out.trans (hB2.mono HB2.out.size), trivial⟩
    clear hs1 hm1 hS2 hown2 hb1 hb2 hw2 hB1 hB2 e0 e1 e2 e3 e4 e5 m0 m1 m2 m3 m4 m5 c0 c1 c2 c3 c4 c5 d0 d1 d2 d3 d4 d5 k0 k1 k2 k3 k4 k5 HQ HX HBd HB2 HBa HBad HLa
    go_wp2_with fail
    refine bodyPost_ret (v := .agg #[.slice b n cb, .slice b' n' cb', .int .i64 ep, .int .i64 nx, .slice va un vc, .slice (some ⟨g2, 0, none⟩) hn cg2]) (by simp [results, Tryz.f22, go_sem, r0, r1, r2, r3, r4, r5]) rfl ?_
    refine ⟨⟨_, rfl, b, n, cb, b', n', cb', va, un, vc, l', some ⟨g2, 0, none⟩, hn, cg2, rfl, ⟨?_, ?_⟩, HF.out.2.1, ?_⟩, ?_⟩
    · exact ((((((HF.out.1.setLow (by omega) _).setLow (by omega) _).setLow (by omega) _).setLow (by omega) _).setLow (by omega) _).setLow (by omega) _).low (by omega)
    · exact ((((((HF.out.2.2.1.setLow (by omega) _).setLow (by omega) _).setLow (by omega) _).setLow (by omega) _).setLow (by omega) _).setLow (by omega) _).low (by omega)
    · exact fun h => Bool.noConfusion h
    · exact (((((HF.out.2.2.2.1.setCell (by dsimp only; omega) _).setCell (by dsimp only; omega) _).setCell (by dsimp only; omega) _).setCell (by dsimp only; omega) _).setCell (by dsimp only; omega) _).setCell (by dsimp only; omega) _

end Go.Proofs.YtclkfjlnhcccdaaGreatDoor

namespace Go.Proofs.YtclkfjlnhcccdaaGreatDoor
open Go.RowKit
set_option linter.unusedVariables false

set_option maxRecDepth 10000 in
set_option maxHeartbeats 3200000 in
theorem specFlush_any (a : Option Addr) (n ca : Nat) (xs : List ByteArray) (a' : Option Addr) (n' ca' : Nat) (ys : List ByteArray) (w : World) (h1 : Strs w a n xs) (h2 : Strs w a' n' ys) (hn : n ≤ 2097152) (hn' : n' ≤ 2097152) :
    Calls Tryz.prog 45 #[.agg #[.slice a n ca, .slice a' n' ca']] w fun e w' => (∃ v, e = .returned v ∧ AnsD w.heap.size xs xs v w') ∧ Below w.heap.size w w' := by
  obtain ⟨i0, hi, hz0, hz1, hz2⟩ := info_parts info_string
  have HM0 : Hid (∀ x ∈ xs, x.size ≤ maxLen) := h1.2.1
  have HM1 : Hid (∀ x ∈ ys, x.size ≤ maxLen) := h2.2.1
  have HLn : Hid (xs.length = n ∧ ys.length = n') := ⟨h1.1, h2.1⟩
  obtain ⟨W2, hW2⟩ : ∃ W2, (w.alloc (.cells #[.slice a n ca, .slice a' n' ca'] 32)).alloc (.cells #[.slice none 0 0, .slice none 0 0] 32) = W2 := ⟨_, rfl⟩
  have HE : Hid ((w.alloc (.cells #[.slice a n ca, .slice a' n' ca'] 32)).alloc (.cells #[.slice none 0 0, .slice none 0 0] 32) = W2) := hW2
  have HB2 : Hid (Below w.heap.size w W2) := by show Below _ _ _; rw [← hW2]; exact ((Below.refl _ _).alloc (Nat.le_refl _) _).alloc (by simp) _
  have HZ2 : Hid (W2.heap.size = w.heap.size + 2) := by show _ = _; rw [← hW2]; simp
  have q1 : Box2R W2 w.heap.size 32 (.slice a n ca) (.slice a' n' ca') := by rw [← hW2]; exact (Box2R.new _ _ _ _).alloc _
  have q2 : Box2R W2 (w.heap.size + 1) 32 (.slice none 0 0) (.slice none 0 0) := by
    rw [← hW2]
    have := Box2R.new (w.alloc (.cells #[.slice a n ca, .slice a' n' ca'] 32)) 32 (.slice none 0 0) (.slice none 0 0)
    rwa [World.size_alloc] at this
  have HQ : Hid (∀ W, Below W2.heap.size W2 W → Box2R W w.heap.size 32 (.slice a n ca) (.slice a' n' ca') ∧ Box2R W (w.heap.size + 1) 32 (.slice none 0 0) (.slice none 0 0)) := fun W h => ⟨q1.stays h, q2.stays h⟩
  have HX : Hid (∀ W, Below W2.heap.size W2 W → Strs W a n xs ∧ Strs W a' n' ys) := fun W h => by
    have hw := HB2.out.trans (h.mono HB2.out.size)
    exact ⟨h1.below hw, h2.below hw⟩
  have HBa : Hid (Below W2.heap.size W2 (W2.alloc (.cells #[] 9))) := (Below.refl _ _).alloc (Nat.le_refl _) _
  have HBb : Hid (Below W2.heap.size W2 ((W2.alloc (.cells #[] 9)).alloc (.cells #[] 9))) := ((Below.refl _ _).alloc (Nat.le_refl _) _).alloc (by simp) _
  have HBad : Hid (Below W2.heap.size W2 (W2.alloc (.cells #[] 9)).drew) := HBa.out.drew
  have HBbd : Hid (Below W2.heap.size W2 ((W2.alloc (.cells #[] 9)).alloc (.cells #[] 9)).drew) := HBb.out.drew
  have HLa : Hid ((W2.alloc (.cells #[] 9)).heap[W2.heap.size]? = some (.cells #[] 9)) := heap_alloc_new _ _
  have HLb : Hid (((W2.alloc (.cells #[] 9)).alloc (.cells #[] 9)).heap[W2.heap.size]? = some (.cells #[] 9)) := by
    show _ = _
    rw [heap_alloc_old _ _ (by simp)]
    exact heap_alloc_new _ _
  have HLc : Hid (((W2.alloc (.cells #[] 9)).alloc (.cells #[] 9)).heap[W2.heap.size + 1]? = some (.cells #[] 9)) := by
    have := heap_alloc_new (W2.alloc (.cells #[] 9)) (.cells #[] 9)
    rwa [World.size_alloc] at this
  clear hW2 q1 q2 h1 h2
  have hne : w.heap.size ≠ w.heap.size + 1 := by omega
  have hs2 : w.heap.size + 1 < W2.heap.size := by have := HZ2.out; omega
  go_enter Tryz.func45, Tryz.ntmps45
  go_upto_region 1 with fail
  rw [HE.out]
  clear HE
  obtain ⟨c0, c1⟩ := (HQ.out _ (Below.refl _ _)).1.cells
  go_cut [] from 3 (fun W => Hid (∃ g1 c1 g2 c2, Box2R W (w.heap.size + 1) 32 (.slice (some ⟨g1, 0, none⟩) n c1) (.slice (some ⟨g2, 0, none⟩) n c2) ∧ g1 ≠ g2 ∧ OwnSt W w.heap.size (.slice (some ⟨g1, 0, none⟩) n c1) n xs ∧ OwnSt W w.heap.size (.slice (some ⟨g2, 0, none⟩) n c2) n xs ∧ Below w.heap.size w W))
  case first =>
    go_region_held3 (fun W => W.cell? ⟨w.heap.size, 0, none⟩ = some (.slice a n ca) ∧ W.cell? ⟨w.heap.size, 1, none⟩ = some (.slice a' n' ca')) (first | (refine ⟨?_, ?_⟩ <;> assumption) | (refine ⟨?_, ?_⟩ <;> (exact cellD_kept hne (cellD_kept hne (by assumption)))) | go_keep) (first
      | (refine step_append_lit rfl (.tmp 7) (.tmp 9) 22 22 rfl W2.heap.size 9 i0 (.string ⟨#[]⟩) 1 16 Tryz.underlying22 hi hz0 hz1 hz2 rfl (by decide) (W2.heap.size + 1) rfl hl2 (by omega) _ n (scells xs) rfl (HX.out _ hB1).1.src (by unfold maxLen; omega) (by omega) hB1.size ?_; intro g2 c2 y2 hown2 hb2 hw2; have hB2 : Below W2.heap.size W2 y2 := hB1.trans (hb2.mono hB1.size); obtain ⟨m0, m1⟩ := (HQ.out _ hB2).1.cells; obtain ⟨r0, r1⟩ := (HQ.out _ hB2).2.cells; have f0 := (HQ.out _ hB2).2.frozen 0; have f1 := (HQ.out _ hB2).2.frozen 1; have hne12 : g1 ≠ g2 := (by rcases hw2 with h | h <;> omega); have hownP := own_below hown1 hb2)
      | (refine step_append_lit rfl (.tmp 7) (.tmp 9) 22 22 rfl W2.heap.size 9 i0 (.string ⟨#[]⟩) 1 16 Tryz.underlying22 hi hz0 hz1 hz2 rfl (by decide) W2.heap.size rfl hl3 (by omega) _ n (scells xs) rfl (HX.out _ hB1).1.src (by unfold maxLen; omega) (by omega) hB1.size ?_; intro g2 c2 y2 hown2 hb2 hw2; have hB2 : Below W2.heap.size W2 y2 := hB1.trans (hb2.mono hB1.size); obtain ⟨m0, m1⟩ := (HQ.out _ hB2).1.cells; obtain ⟨r0, r1⟩ := (HQ.out _ hB2).2.cells; have f0 := (HQ.out _ hB2).2.frozen 0; have f1 := (HQ.out _ hB2).2.frozen 1; have hne12 : g1 ≠ g2 := (by rcases hw2 with h | h <;> omega); have hownP := own_below hown1 hb2)
      | (refine step_append_lit rfl (.tmp 7) (.tmp 9) 22 22 rfl W2.heap.size 9 i0 (.string ⟨#[]⟩) 1 16 Tryz.underlying22 hi hz0 hz1 hz2 rfl (by decide) y1.heap.size rfl (heap_alloc_new y1 _) (by omega) _ n (scells xs) rfl (HX.out _ (hB1.alloc hB1.size (.cells #[] 9))).1.src (by unfold maxLen; omega) (by omega) (hB1.alloc hB1.size (.cells #[] 9)).size ?_; intro g2 c2 y2 hown2 hb2 hw2; have hB2 : Below W2.heap.size W2 y2 := (hB1.alloc hB1.size (.cells #[] 9)).trans (hb2.mono (hB1.alloc hB1.size (.cells #[] 9)).size); obtain ⟨m0, m1⟩ := (HQ.out _ hB2).1.cells; obtain ⟨r0, r1⟩ := (HQ.out _ hB2).2.cells; have f0 := (HQ.out _ hB2).2.frozen 0; have f1 := (HQ.out _ hB2).2.frozen 1; have hne12 : g1 ≠ g2 := (by rw [World.size_alloc] at hw2; rcases hw2 with h | h <;> omega); have hownP := own_below hown1 (((Below.refl y1.heap.size y1).alloc (Nat.le_refl _) _).trans (hb2.mono (by simp))))
      | (refine step_append_lit rfl (.tmp 3) (.tmp 5) 22 22 rfl W2.heap.size 9 i0 (.string ⟨#[]⟩) 1 16 Tryz.underlying22 hi hz0 hz1 hz2 rfl (by decide) W2.heap.size rfl HLa.out (by omega) _ n (scells xs) rfl (HX.out _ HBad.out).1.src (by unfold maxLen; omega) (by omega) HBad.out.size ?_; intro g1 c1 y1 hown1 hb1 hw1; have hB1 : Below W2.heap.size W2 y1 := HBad.out.trans (hb1.mono HBad.out.size); obtain ⟨e0, e1⟩ := (HQ.out _ hB1).1.cells; have hy1 := hB1.size; have hg1 := (show g1 < y1.heap.size from (OwnSt.lt ⟨hown1, HM0.out⟩ g1 rfl).2); have mark1 := trivial)
      | (refine step_append_lit rfl (.tmp 3) (.tmp 5) 22 22 rfl W2.heap.size 9 i0 (.string ⟨#[]⟩) 1 16 Tryz.underlying22 hi hz0 hz1 hz2 rfl (by decide) W2.heap.size rfl HLb.out (by omega) _ n (scells xs) rfl (HX.out _ HBbd.out).1.src (by unfold maxLen; omega) (by omega) HBbd.out.size ?_; intro g1 c1 y1 hown1 hb1 hw1; have hB1 : Below W2.heap.size W2 y1 := HBbd.out.trans (hb1.mono HBbd.out.size); obtain ⟨e0, e1⟩ := (HQ.out _ hB1).1.cells; have hy1 := hB1.size; have hg1 := (show g1 < y1.heap.size from (OwnSt.lt ⟨hown1, HM0.out⟩ g1 rfl).2); have hl2 : y1.heap[W2.heap.size + 1]? = some (.cells #[] 9) := (hb1.block _ (by show W2.heap.size + 1 < ((W2.alloc (.cells #[] 9)).alloc (.cells #[] 9)).heap.size; simp)).trans HLc.out; have hap : g1 ≠ W2.heap.size + 1 := (by have hz : ((W2.alloc (.cells #[] 9)).alloc (.cells #[] 9)).drew.heap.size = W2.heap.size + 2 := (by show ((W2.alloc (.cells #[] 9)).alloc (.cells #[] 9)).heap.size = _; simp); rcases hw1 with h | h <;> omega))
      | (refine step_append_lit rfl (.tmp 3) (.tmp 5) 22 22 rfl W2.heap.size 9 i0 (.string ⟨#[]⟩) 1 16 Tryz.underlying22 hi hz0 hz1 hz2 rfl (by decide) (W2.heap.size + 1) rfl HLc.out (by omega) _ n (scells xs) rfl (HX.out _ HBbd.out).1.src (by unfold maxLen; omega) (by omega) HBbd.out.size ?_; intro g1 c1 y1 hown1 hb1 hw1; have hB1 : Below W2.heap.size W2 y1 := HBbd.out.trans (hb1.mono HBbd.out.size); obtain ⟨e0, e1⟩ := (HQ.out _ hB1).1.cells; have hy1 := hB1.size; have hg1 := (show g1 < y1.heap.size from (OwnSt.lt ⟨hown1, HM0.out⟩ g1 rfl).2); have hl3 : y1.heap[W2.heap.size]? = some (.cells #[] 9) := (hb1.block _ (by show W2.heap.size < ((W2.alloc (.cells #[] 9)).alloc (.cells #[] 9)).heap.size; simp; omega)).trans HLb.out; have hap : g1 ≠ W2.heap.size := (by have hz : ((W2.alloc (.cells #[] 9)).alloc (.cells #[] 9)).drew.heap.size = W2.heap.size + 2 := (by show ((W2.alloc (.cells #[] 9)).alloc (.cells #[] 9)).heap.size = _; simp); rcases hw1 with h | h <;> omega))
      | fail)
    all_goals
      have HF : Hid (Box2R ((y2.setCell ⟨w.heap.size + 1, 0, none⟩ (.slice (some ⟨g1, 0, none⟩) n c1)).setCell ⟨w.heap.size + 1, 1, none⟩ (.slice (some ⟨g2, 0, none⟩) n c2)) (w.heap.size + 1) 32 (.slice (some ⟨g1, 0, none⟩) n c1) (.slice (some ⟨g2, 0, none⟩) n c2) ∧ g1 ≠ g2 ∧ OwnSt ((y2.setCell ⟨w.heap.size + 1, 0, none⟩ (.slice (some ⟨g1, 0, none⟩) n c1)).setCell ⟨w.heap.size + 1, 1, none⟩ (.slice (some ⟨g2, 0, none⟩) n c2)) w.heap.size (.slice (some ⟨g1, 0, none⟩) n c1) n xs ∧ OwnSt ((y2.setCell ⟨w.heap.size + 1, 0, none⟩ (.slice (some ⟨g1, 0, none⟩) n c1)).setCell ⟨w.heap.size + 1, 1, none⟩ (.slice (some ⟨g2, 0, none⟩) n c2)) w.heap.size (.slice (some ⟨g2, 0, none⟩) n c2) n xs ∧ Below w.heap.size w ((y2.setCell ⟨w.heap.size + 1, 0, none⟩ (.slice (some ⟨g1, 0, none⟩) n c1)).setCell ⟨w.heap.size + 1, 1, none⟩ (.slice (some ⟨g2, 0, none⟩) n c2))) := by
        have o1 : OwnSt y2 W2.heap.size (.slice (some ⟨g1, 0, none⟩) n c1) n xs := ⟨hownP, HM0.out⟩
        have o2 : OwnSt y2 W2.heap.size (.slice (some ⟨g2, 0, none⟩) n c2) n xs := ⟨hown2, HM0.out⟩
        have l1 := (o1.lt g1 rfl).1
        have l2 := (o2.lt g2 rfl).1
        have hbw := HB2.out.trans (hB2.mono HB2.out.size)
        exact ⟨((HQ.out _ hB2).2.set0 _).set1 _, hne12, ((o1.setCell (by simp [blkOf]; omega) _).setCell (by simp [blkOf]; omega) _).low (by omega), ((o2.setCell (by simp [blkOf]; omega) _).setCell (by simp [blkOf]; omega) _).low (by omega), (hbw.setCell (by dsimp only; omega) _).setCell (by dsimp only; omega) _⟩
      clear hown1 hown2 hownP hb1 hb2 hB1 hB2 hw1 hw2 e0 e1 m0 m1 r0 r1 f0 f1 hg1 hy1
      go_wp2_with fail
      go_meet
      exact ⟨g1, c1, g2, c2, HF.out⟩
  case rest =>
  obtain ⟨x3, hx3⟩ : ∃ x3, wc = x3 := ⟨_, rfl⟩
  rw [hx3] at hcut ⊢
  obtain ⟨g1, c1, g2, c2, hbx, hne12, o1, o2, hbw⟩ := hcut
  have HO : Hid (OwnSt x3 w.heap.size (.slice (some ⟨g1, 0, none⟩) n c1) n xs ∧ OwnSt x3 w.heap.size (.slice (some ⟨g2, 0, none⟩) n c2) n xs ∧ Below w.heap.size w x3) := ⟨o1, o2, hbw⟩
  clear hx3 o1 o2 hbw HBa HBb HBad HBbd HLa HLb HLc
  obtain ⟨d0, d1⟩ := hbx.cells
  go_wp2_with fail
  refine bodyPost_ret (v := .agg #[.slice (some ⟨g1, 0, none⟩) n c1, .slice (some ⟨g2, 0, none⟩) n c2]) (by simp [results, Tryz.f45, go_sem, d0, d1]) rfl ?_
  have hl := HLn.out
  exact ⟨⟨_, rfl, AnsD.mk' (by omega) (by omega) HO.out.1 HO.out.2.1 (fun q e e2 => hne12 (by simp at e e2; omega))⟩, HO.out.2.2⟩

end Go.Proofs.YtclkfjlnhcccdaaGreatDoor

namespace Go.Proofs.YtclkfjlnhcccdaaGreatDoor
open Go.RowKit
set_option linter.unusedVariables false

set_option maxRecDepth 10000 in
set_option maxHeartbeats 3200000 in
theorem specSync_any (a : Option Addr) (n ca : Nat) (X : List ByteArray) (a' : Option Addr) (n' ca' : Nat) (Y : List ByteArray) (ep nx : Int) (ua : Option Addr) (un uc lo : Nat) (l : List UE) (w : World) (h1 : Strs w a n X) (h2 : Strs w a' n' Y) (hn : n ≤ 1048576) (hn' : n' ≤ 1048576) (hzx : ∀ x ∈ X, x.size ≤ 1048576) (hu : UpRow w lo (.slice ua un uc) l) (hun : un = l.length) (hul : un ≤ 1048576) (hz : ∀ e ∈ l, e.n ≤ 1099511627776) :
    Calls Tryz.prog 24 #[.agg #[.slice a n ca, .slice a' n' ca', .int .i64 ep, .int .i64 nx, .slice ua un uc]] w fun e w' => (∃ v, e = .returned v ∧ AnsS w.heap.size X (syncY X Y ep nx (l.map UE.u)) ep nx (l.map UE.u) v w') ∧ Below w.heap.size w w' := by
  obtain ⟨W2, hW2⟩ : ∃ W2, (w.alloc (.cells #[.slice a n ca, .slice a' n' ca', .int .i64 ep, .int .i64 nx, .slice ua un uc] 35)).alloc (.cells #[.slice none 0 0, .slice none 0 0, .int .i64 0, .int .i64 0, .slice none 0 0] 35) = W2 := ⟨_, rfl⟩
  have HE : Hid ((w.alloc (.cells #[.slice a n ca, .slice a' n' ca', .int .i64 ep, .int .i64 nx, .slice ua un uc] 35)).alloc (.cells #[.slice none 0 0, .slice none 0 0, .int .i64 0, .int .i64 0, .slice none 0 0] 35) = W2) := hW2
  have HB2 : Hid (Below w.heap.size w W2) := by show Below _ _ _; rw [← hW2]; exact ((Below.refl _ _).alloc (Nat.le_refl _) _).alloc (by simp) _
  have q1 : BoxN W2 w.heap.size 35 [.slice a n ca, .slice a' n' ca', .int .i64 ep, .int .i64 nx, .slice ua un uc] := by rw [← hW2]; exact (BoxN.new _ _ _).alloc _
  have q2 : BoxN W2 (w.heap.size + 1) 35 [.slice none 0 0, .slice none 0 0, .int .i64 0, .int .i64 0, .slice none 0 0] := by
    rw [← hW2]
    have := BoxN.new (w.alloc (.cells #[.slice a n ca, .slice a' n' ca', .int .i64 ep, .int .i64 nx, .slice ua un uc] 35)) 35 [.slice none 0 0, .slice none 0 0, .int .i64 0, .int .i64 0, .slice none 0 0]
    rwa [World.size_alloc] at this
  have HQ : Hid (∀ W, Below W2.heap.size W2 W → BoxN W w.heap.size 35 [.slice a n ca, .slice a' n' ca', .int .i64 ep, .int .i64 nx, .slice ua un uc] ∧ BoxN W (w.heap.size + 1) 35 [.slice none 0 0, .slice none 0 0, .int .i64 0, .int .i64 0, .slice none 0 0]) := fun W h => ⟨q1.stays h, q2.stays h⟩
  have HX : Hid (∀ W, Below W2.heap.size W2 W → Strs W a n X ∧ Strs W a' n' Y ∧ UpRow W lo (.slice ua un uc) l) := fun W h => by
    have hw := HB2.out.trans (h.mono HB2.out.size)
    exact ⟨h1.below hw, h2.below hw, hu.stays hw⟩
  have HL : Hid (un = l.length ∧ (∀ e ∈ l, e.n ≤ 1099511627776) ∧ ∀ x ∈ X, x.size ≤ 1048576) := ⟨hun, hz, hzx⟩
  have hs2 : w.heap.size + 1 < W2.heap.size := q2.lt
  clear hW2 q1 q2 h1 h2 hu hun hz hzx
  obtain ⟨c0, c1, c2, c3, c4⟩ := (show _ ∧ _ ∧ _ ∧ _ ∧ _ from ⟨(HQ.out _ (Below.refl _ _)).1.cell 0 rfl, (HQ.out _ (Below.refl _ _)).1.cell 1 rfl, (HQ.out _ (Below.refl _ _)).1.cell 2 rfl, (HQ.out _ (Below.refl _ _)).1.cell 3 rfl, (HQ.out _ (Below.refl _ _)).1.cell 4 rfl⟩)
  go_enter Tryz.func24, Tryz.ntmps24
  go_upto_region 1 with fail
  rw [HE.out]
  clear HE
  go_wp2_with fail
  refine (specScopy_any a n ca X a' n' ca' Y ep nx ua un uc lo l W2 (HX.out _ (Below.refl _ _)).1 (HX.out _ (Below.refl _ _)).2.1 hn hn' (HX.out _ (Below.refl _ _)).2.2 HL.out.1 hul HL.out.2.1).mono ?_
  rintro e y1 ⟨⟨v, rfl, hv⟩, hb1⟩
  obtain ⟨b, cb, b', cb', va, vc, l', rfl, hs1, hm1⟩ := hv.get
  rw [List.length_map, ← HL.out.1] at hs1 ⊢
  have HA1 : Hid (SAt (y1.alloc (.cells #[.slice b X.length cb, .slice b' Y.length cb', .int .i64 ep, .int .i64 nx, .slice va un vc] 35)) W2.heap.size y1.heap.size b X.length cb X b' Y.length cb' Y ep nx va un vc l') := SAt.new hs1 hb1.size
  have HC1 : Hid (Below W2.heap.size W2 (y1.alloc (.cells #[.slice b X.length cb, .slice b' Y.length cb', .int .i64 ep, .int .i64 nx, .slice va un vc] 35))) := hb1.alloc hb1.size _
  have HM : Hid (l'.map UE.u = l.map UE.u) := hm1
  clear hv hs1 hb1 hm1 c0 c1 c2 c3 c4
  obtain ⟨d0, d1, d2, d3, d4⟩ := (show _ ∧ _ ∧ _ ∧ _ ∧ _ from ⟨(HQ.out _ HC1.out).1.cell 0 rfl, (HQ.out _ HC1.out).1.cell 1 rfl, (HQ.out _ HC1.out).1.cell 2 rfl, (HQ.out _ HC1.out).1.cell 3 rfl, (HQ.out _ HC1.out).1.cell 4 rfl⟩)
  go_wp2_with fail
  obtain ⟨w1, hw1⟩ : ∃ w1, y1.alloc (.cells #[.slice b X.length cb, .slice b' Y.length cb', .int .i64 ep, .int .i64 nx, .slice va un vc] 35) = w1 := ⟨_, rfl⟩
  rw [hw1] at HA1 HC1 ⊢
  clear hw1 d0 d1 d2 d3 d4
  generalize y1.heap.size = bo at *
  refine (specSok_any a n ca X a' n' ca' Y ep nx ua un uc lo l w1 (HX.out _ HC1.out).1 (HX.out _ HC1.out).2.1 hn hn' HL.out.2.2 (HX.out _ HC1.out).2.2 HL.out.1 hul).mono ?_
  rintro e y2 ⟨⟨ok, rfl, hok⟩, hb2⟩
  have HA2 : Hid (SAt y2 W2.heap.size bo b X.length cb X b' Y.length cb' Y ep nx va un vc l') := HA1.out.stays hb2
  have HC2 : Hid (Below W2.heap.size W2 y2) := HC1.out.trans (hb2.mono HC1.out.size)
  have hdb : decB (SOk X Y ep nx (l.map UE.u)) = ok := by
    rw [Bool.eq_iff_iff, hok]
    simp [decB]
  have HSy : Hid (syncY X Y ep nx (l.map UE.u) = if ok = true then X else Y) := by show _ = _; rw [syncY, hdb]
  have hlo : W2.heap.size ≤ bo := HA1.out.lob
  clear hb2 hok hdb HA1 HC1
  cases ok with
  | false =>
    obtain ⟨r0, r1, r2, r3, r4⟩ := (show _ ∧ _ ∧ _ ∧ _ ∧ _ from ⟨(HQ.out _ HC2.out).2.cell 0 rfl, (HQ.out _ HC2.out).2.cell 1 rfl, (HQ.out _ HC2.out).2.cell 2 rfl, (HQ.out _ HC2.out).2.cell 3 rfl, (HQ.out _ HC2.out).2.cell 4 rfl⟩)
    obtain ⟨o0, o1, o2, o3, o4⟩ := (show _ ∧ _ ∧ _ ∧ _ ∧ _ from ⟨HA2.out.box.cell 0 rfl, HA2.out.box.cell 1 rfl, HA2.out.box.cell 2 rfl, HA2.out.box.cell 3 rfl, HA2.out.box.cell 4 rfl⟩)
    obtain ⟨f0, f1, f2, f3, f4⟩ := (show _ ∧ _ ∧ _ ∧ _ ∧ _ from ⟨(HQ.out _ HC2.out).2.frozen 0, (HQ.out _ HC2.out).2.frozen 1, (HQ.out _ HC2.out).2.frozen 2, (HQ.out _ HC2.out).2.frozen 3, (HQ.out _ HC2.out).2.frozen 4⟩)
    have HBw : Hid (Below w.heap.size w y2) := HB2.out.trans (HC2.out.mono HB2.out.size)
    clear HQ HX HC2
    go_wp2_with fail
    refine bodyPost_ret (v := .agg #[.slice b X.length cb, .slice b' Y.length cb', .int .i64 ep, .int .i64 nx, .slice va un vc]) (by simp [results, Tryz.f24, go_sem, r0, r1, r2, r3, r4]) rfl ?_
    refine ⟨⟨_, rfl, b, X.length, cb, b', Y.length, cb', va, un, vc, l', rfl, ?_, HM.out⟩, ?_⟩
    · rw [HSy.out]
      exact (((((HA2.out.sto.setLow (by omega) _).setLow (by omega) _).setLow (by omega) _).setLow (by omega) _).setLow (by omega) _).low (by omega)
    · exact ((((HBw.out.setCell (by dsimp only; omega) _).setCell (by dsimp only; omega) _).setCell (by dsimp only; omega) _).setCell (by dsimp only; omega) _).setCell (by dsimp only; omega) _
  | true =>
    obtain ⟨d0, d1, d2, d3, d4⟩ := (show _ ∧ _ ∧ _ ∧ _ ∧ _ from ⟨(HQ.out _ HC2.out).1.cell 0 rfl, (HQ.out _ HC2.out).1.cell 1 rfl, (HQ.out _ HC2.out).1.cell 2 rfl, (HQ.out _ HC2.out).1.cell 3 rfl, (HQ.out _ HC2.out).1.cell 4 rfl⟩)
    go_wp2_with fail
    refine (specFlush_any a n ca X a' n' ca' Y y2 (HX.out _ HC2.out).1 (HX.out _ HC2.out).2.1 (by omega) (by omega)).mono ?_
    rintro e y3 ⟨⟨v3, rfl, A, C, A', C', rfl, ow, ow', hap⟩, hb3⟩
    have HA3 : Hid (SAt y3 W2.heap.size bo b X.length cb X b' Y.length cb' Y ep nx va un vc l') := HA2.out.stays hb3
    have HC3 : Hid (Below W2.heap.size W2 y3) := HC2.out.trans (hb3.mono HC2.out.size)
    have hbo : bo < y2.heap.size := HA2.out.box.lt
    have hlo2 : w.heap.size + 2 ≤ W2.heap.size := by omega
    have ho := HA3.out.box
    obtain ⟨o0, o1, o2, o3, o4⟩ := (show _ ∧ _ ∧ _ ∧ _ ∧ _ from ⟨ho.cell 0 rfl, ho.cell 1 rfl, ho.cell 2 rfl, ho.cell 3 rfl, ho.cell 4 rfl⟩)
    have z0 := ho.frozen 0
    have z1 := ho.frozen 1
    obtain ⟨x4, hx4⟩ : ∃ x4, (y3.setCell ⟨bo, 0, none⟩ (.slice A X.length C)).setCell ⟨bo, 1, none⟩ (.slice A' X.length C') = x4 := ⟨_, rfl⟩
    have HE4 : Hid ((y3.setCell ⟨bo, 0, none⟩ (.slice A X.length C)).setCell ⟨bo, 1, none⟩ (.slice A' X.length C') = x4) := hx4
    have HO4 : Hid (BoxN x4 bo 35 [.slice A X.length C, .slice A' X.length C', .int .i64 ep, .int .i64 nx, .slice va un vc]) := by
      show BoxN _ _ _ _
      rw [← hx4]
      exact (ho.set 0 _).set 1 _
    have HR4 : Hid (BoxN x4 (w.heap.size + 1) 35 [.slice none 0 0, .slice none 0 0, .int .i64 0, .int .i64 0, .slice none 0 0]) := by
      show BoxN _ _ _ _
      rw [← hx4]
      exact ((HQ.out _ HC3.out).2.other (by omega) _).other (by omega) _
    have hba : ∀ q, A.map (·.block) = some q → y2.heap.size ≤ q := fun q e => (ow.lt q (by rw [blk_own]; exact e)).1
    have hba' : ∀ q, A'.map (·.block) = some q → y2.heap.size ≤ q := fun q e => (ow'.lt q (by rw [blk_own]; exact e)).1
    have hn1 : blkOf (.slice A X.length C) ≠ some bo := fun e => by have := hba _ (by rw [← blk_own A X.length C]; exact e); omega
    have hn2 : blkOf (.slice A' X.length C') ≠ some bo := fun e => by have := hba' _ (by rw [← blk_own A' X.length C']; exact e); omega
    have hy2 : W2.heap.size ≤ y2.heap.size := HC2.out.size
    have HS4 : Hid (StoAt x4 (w.heap.size + 2) A X.length C X A' X.length C' X va un vc l') := by
      have hin := HA3.out.inn
      refine ⟨?_, ?_, hap, ?_, HA3.out.sto.len⟩
      · rw [← hx4]; exact ((ow.setCell hn1 _).setCell hn1 _).low (by omega)
      · rw [← hx4]; exact ((ow'.setCell hn2 _).setCell hn2 _).low (by omega)
      · rw [← hx4]
        have g1 : ∀ q, some bo = some q → (Value.slice va un vc).ownBlock ≠ some q := fun q hq hq2 => by injection hq with hq; have := hin.2.2.1 q (by rw [← ownBlock_sU va un vc]; exact hq2); omega
        have g2 : ∀ e ∈ l', ∀ q, some bo = some q → e.a.map (·.block) ≠ some q := fun e he q hq hq2 => by injection hq with hq; have := hin.2.2.2 e he q hq2; omega
        exact (((HA3.out.sto.ups.grown (grownBy_setU _ bo 0 _) g1 g2).grown (grownBy_setU _ bo 1 _) g1 g2)).low (by omega)
    have HB4 : Hid (Below w.heap.size w x4) := by
      show Below _ _ _
      rw [← hx4]
      exact ((HB2.out.trans (HC3.out.mono HB2.out.size)).setCell (by dsimp only; omega) _).setCell (by dsimp only; omega) _
    clear hx4 ow ow' hap hb3 ho hba hba' hn1 hn2 HA2 HA3 HC2 HC3 HQ HX d0 d1 d2 d3 d4
    go_upto_region 4 with fail
    rw [HE4.out]
    clear HE4 z0 z1 o0 o1 o2 o3 o4
    obtain ⟨o0, o1, o2, o3, o4⟩ := (show _ ∧ _ ∧ _ ∧ _ ∧ _ from ⟨HO4.out.cell 0 rfl, HO4.out.cell 1 rfl, HO4.out.cell 2 rfl, HO4.out.cell 3 rfl, HO4.out.cell 4 rfl⟩)
    obtain ⟨r0, r1, r2, r3, r4⟩ := (show _ ∧ _ ∧ _ ∧ _ ∧ _ from ⟨HR4.out.cell 0 rfl, HR4.out.cell 1 rfl, HR4.out.cell 2 rfl, HR4.out.cell 3 rfl, HR4.out.cell 4 rfl⟩)
    obtain ⟨f0, f1, f2, f3, f4⟩ := (show _ ∧ _ ∧ _ ∧ _ ∧ _ from ⟨HR4.out.frozen 0, HR4.out.frozen 1, HR4.out.frozen 2, HR4.out.frozen 3, HR4.out.frozen 4⟩)
    clear HO4 HR4
    go_wp2_with fail
    refine bodyPost_ret (v := .agg #[.slice A X.length C, .slice A' X.length C', .int .i64 ep, .int .i64 nx, .slice va un vc]) (by simp [results, Tryz.f24, go_sem, r0, r1, r2, r3, r4]) rfl ?_
    refine ⟨⟨_, rfl, A, X.length, C, A', X.length, C', va, un, vc, l', rfl, ?_, HM.out⟩, ?_⟩
    · rw [HSy.out]
      exact (((((HS4.out.setLow (by omega) _).setLow (by omega) _).setLow (by omega) _).setLow (by omega) _).setLow (by omega) _).low (by omega)
    · exact ((((HB4.out.setCell (by dsimp only; omega) _).setCell (by dsimp only; omega) _).setCell (by dsimp only; omega) _).setCell (by dsimp only; omega) _).setCell (by dsimp only; omega) _

end Go.Proofs.YtclkfjlnhcccdaaGreatDoor

namespace Go.Proofs.YtclkfjlnhcccdaaGreatDoor
open Go.RowKit
set_option linter.unusedVariables false

set_option maxRecDepth 10000 in
set_option maxHeartbeats 6400000 in
theorem specSyncAll_any (a : Option Addr) (n ca : Nat) (X : List ByteArray) (a' : Option Addr) (n' ca' : Nat) (Y : List ByteArray) (ep nx : Int) (ua : Option Addr) (un uc lo : Nat) (l : List UE) (ha : Option Addr) (hn hc : Nat) (hs : List Hd) (w : World) (h1 : Strs w a n X) (h2 : Strs w a' n' Y) (hln : n ≤ 1048576) (hln' : n' ≤ 1048576) (hzx : ∀ x ∈ X, x.size ≤ 1048576) (hu : UpRow w lo (.slice ua un uc) l) (hun : un = l.length) (hul : un ≤ 1048576) (hz : ∀ e ∈ l, e.n ≤ 1099511627776) (hh : Helds w ha hn hs) (hhl : hn ≤ 1048576) :
    Calls Tryz.prog 6 #[.agg #[.slice a n ca, .slice a' n' ca', .int .i64 ep, .int .i64 nx, .slice ua un uc, .slice ha hn hc]] w fun e w' => (∃ v u, e = .returned (.tuple #[v, u]) ∧ AnsVL false w.heap.size X (saY X Y ep nx (l.map UE.u) hs) ep nx (l.map UE.u) (saH X Y ep nx (l.map UE.u) hs) (saL X Y ep nx (l.map UE.u) hs) v u w') ∧ Below w.heap.size w w' := by
  obtain ⟨W2, hW2⟩ : ∃ W2, (w.alloc (.cells #[.slice a n ca, .slice a' n' ca', .int .i64 ep, .int .i64 nx, .slice ua un uc, .slice ha hn hc] 38)).alloc (.cells #[.slice none 0 0, .slice none 0 0, .int .i64 0, .int .i64 0, .slice none 0 0, .slice none 0 0] 38) = W2 := ⟨_, rfl⟩
  have HE : Hid ((w.alloc (.cells #[.slice a n ca, .slice a' n' ca', .int .i64 ep, .int .i64 nx, .slice ua un uc, .slice ha hn hc] 38)).alloc (.cells #[.slice none 0 0, .slice none 0 0, .int .i64 0, .int .i64 0, .slice none 0 0, .slice none 0 0] 38) = W2) := hW2
  have HB2 : Hid (Below w.heap.size w W2) := by show Below _ _ _; rw [← hW2]; exact ((Below.refl _ _).alloc (Nat.le_refl _) _).alloc (by simp) _
  have HZ2 : Hid (W2.heap.size = w.heap.size + 2) := by show _ = _; rw [← hW2]; simp
  have q1 : BoxN W2 w.heap.size 38 [.slice a n ca, .slice a' n' ca', .int .i64 ep, .int .i64 nx, .slice ua un uc, .slice ha hn hc] := by rw [← hW2]; exact (BoxN.new _ _ _).alloc _
  have q2 : BoxN W2 (w.heap.size + 1) 38 [.slice none 0 0, .slice none 0 0, .int .i64 0, .int .i64 0, .slice none 0 0, .slice none 0 0] := by
    rw [← hW2]
    have := BoxN.new (w.alloc (.cells #[.slice a n ca, .slice a' n' ca', .int .i64 ep, .int .i64 nx, .slice ua un uc, .slice ha hn hc] 38)) 38 [.slice none 0 0, .slice none 0 0, .int .i64 0, .int .i64 0, .slice none 0 0, .slice none 0 0]
    rwa [World.size_alloc] at this
  have HQ : Hid (∀ W, Below W2.heap.size W2 W → BoxN W w.heap.size 38 [.slice a n ca, .slice a' n' ca', .int .i64 ep, .int .i64 nx, .slice ua un uc, .slice ha hn hc] ∧ BoxN W (w.heap.size + 1) 38 [.slice none 0 0, .slice none 0 0, .int .i64 0, .int .i64 0, .slice none 0 0, .slice none 0 0]) := fun W h => ⟨q1.stays h, q2.stays h⟩
  have HX : Hid (∀ W, Below W2.heap.size W2 W → Strs W a n X ∧ Strs W a' n' Y ∧ UpRow W lo (.slice ua un uc) l ∧ Helds W ha hn hs) := fun W h => by
    have hw := HB2.out.trans (h.mono HB2.out.size)
    exact ⟨h1.below hw, h2.below hw, hu.stays hw, hh.below hw⟩
  have HL : Hid (un = l.length ∧ (∀ e ∈ l, e.n ≤ 1099511627776) ∧ hs.length = hn ∧ (∀ s ∈ hs, hd64 s) ∧ X.length = n ∧ Y.length = n' ∧ ∀ x ∈ X, x.size ≤ 1048576) := ⟨hun, hz, hh.1, hh.2.1, h1.1, h2.1, hzx⟩
  have HA0 : Hid (Below W2.heap.size W2 W2) := Below.refl _ _
  have hs2 : w.heap.size + 1 < W2.heap.size := q2.lt
  have hne : w.heap.size ≠ w.heap.size + 1 := by omega
  clear hW2 q1 q2 h1 h2 hu hun hz hh hzx
  have HCp : Hid (∀ W, Below W2.heap.size W2 W → Calls Tryz.prog 22 #[.agg #[.slice a n ca, .slice a' n' ca', .int .i64 ep, .int .i64 nx, .slice ua un uc, .slice ha hn hc]] W fun e w' => (∃ b cb b' cb' va vc l' pa pc, e = .returned (.agg #[.slice b n cb, .slice b' n' cb', .int .i64 ep, .int .i64 nx, .slice va un vc, .slice pa hn pc]) ∧ SvAt w' W.heap.size b n cb X b' n' cb' Y va un vc l' pa hn pc hs ∧ l'.map UE.u = l.map UE.u) ∧ Below W.heap.size W w') := fun W hb => by
    refine (specVcopy_any a n ca X a' n' ca' Y ep nx ua un uc lo l ha hn hc hs W (HX.out _ hb).1 (HX.out _ hb).2.1 hln hln' (HX.out _ hb).2.2.1 HL.out.1 hul HL.out.2.1 (HX.out _ hb).2.2.2 hhl).mono ?_
    rintro e y1 ⟨⟨v1, rfl, hv1⟩, hb1⟩
    obtain ⟨b, cb, b', cb', va, vc, l', pa, pc, rfl, hs1, hm1, _⟩ := hv1.get
    rw [List.length_map, ← HL.out.1, HL.out.2.2.2.2.1, HL.out.2.2.2.2.2.1, HL.out.2.2.1] at hs1 ⊢
    exact ⟨⟨b, cb, b', cb', va, vc, l', pa, pc, rfl, hs1, hm1⟩, hb1⟩
  have HSy : Hid (∀ W, Below W2.heap.size W2 W → SOk X Y ep nx (l.map UE.u) → Calls Tryz.prog 24 #[.agg #[.slice a n ca, .slice a' n' ca', .int .i64 ep, .int .i64 nx, .slice ua un uc]] W fun e w' => (∃ b cb b' cb' va vc l', e = .returned (.agg #[.slice b n cb, .slice b' n cb', .int .i64 ep, .int .i64 nx, .slice va un vc]) ∧ StoAt w' W.heap.size b n cb X b' n cb' X va un vc l' ∧ l'.map UE.u = l.map UE.u) ∧ Below W.heap.size W w') := fun W hb hok => by
    refine (specSync_any a n ca X a' n' ca' Y ep nx ua un uc lo l W (HX.out _ hb).1 (HX.out _ hb).2.1 hln hln' HL.out.2.2.2.2.2.2 (HX.out _ hb).2.2.1 HL.out.1 hul HL.out.2.1).mono ?_
    rintro e y1 ⟨⟨v1, rfl, hv1⟩, hb1⟩
    rw [syncY_len hok] at hv1
    obtain ⟨b, cb, b', cb', va, vc, l', rfl, hs1, hm1⟩ := hv1.get
    rw [List.length_map, ← HL.out.1, HL.out.2.2.2.2.1] at hs1 ⊢
    exact ⟨⟨b, cb, b', cb', va, vc, l', rfl, hs1, hm1⟩, hb1⟩
  have HOk : Hid (∀ W, Below W2.heap.size W2 W → Calls Tryz.prog 23 #[.agg #[.slice a n ca, .slice a' n' ca', .int .i64 ep, .int .i64 nx, .slice ua un uc, .slice ha hn hc]] W fun e w' => e = .returned (.bool (svB X Y ep nx (l.map UE.u) hs)) ∧ Below W.heap.size W w') := fun W hb =>
    specSvok_any a n ca X a' n' ca' Y ep nx ua un uc lo l ha hn hc hs W (HX.out _ hb).1 (HX.out _ hb).2.1 hln hln' HL.out.2.2.2.2.2.2 (HX.out _ hb).2.2.1 HL.out.1 hul (HX.out _ hb).2.2.2 (by omega)
  have HBk : Hid (svB X Y ep nx (l.map UE.u) hs = true → SOk X Y ep nx (l.map UE.u)) := svB_sok
  have HRY : Hid (saY X Y ep nx (l.map UE.u) hs = if svB X Y ep nx (l.map UE.u) hs = true then syncY X Y ep nx (l.map UE.u) else Y) := rfl
  have HRH : Hid (saH X Y ep nx (l.map UE.u) hs = if svB X Y ep nx (l.map UE.u) hs = true then [] else hs) := rfl
  have HRL : Hid (saL X Y ep nx (l.map UE.u) hs = if svB X Y ep nx (l.map UE.u) hs = true then hs else []) := rfl
  generalize saY X Y ep nx (l.map UE.u) hs = RY at *
  generalize saH X Y ep nx (l.map UE.u) hs = RH at *
  generalize saL X Y ep nx (l.map UE.u) hs = RL at *
  obtain ⟨ok, hok⟩ : ∃ ok, svB X Y ep nx (l.map UE.u) hs = ok := ⟨_, rfl⟩
  rw [hok] at HOk HBk HRY HRH HRL
  clear hok
  obtain ⟨i0, hi, hz0, hz1, hz2⟩ := info_parts info_held
  obtain ⟨c0, c1, c2, c3, c4, c5⟩ := (show _ ∧ _ ∧ _ ∧ _ ∧ _ ∧ _ from ⟨BoxN.cell (HQ.out _ HA0.out).1 0 rfl, BoxN.cell (HQ.out _ HA0.out).1 1 rfl, BoxN.cell (HQ.out _ HA0.out).1 2 rfl, BoxN.cell (HQ.out _ HA0.out).1 3 rfl, BoxN.cell (HQ.out _ HA0.out).1 4 rfl, BoxN.cell (HQ.out _ HA0.out).1 5 rfl⟩)
  go_enter Tryz.func6, Tryz.ntmps6
  go_upto_region 1 with fail
  rw [HE.out]
  clear HE
  go_wp2_with fail
  refine (HCp.out _ HA0.out).mono ?_
  rintro e y1 ⟨⟨b, cb, b', cb', va, vc, l', pa, pc, rfl, hs1, hm1⟩, hb1⟩
  have HV1 : Hid (VB (y1.alloc (.cells #[.slice b n cb, .slice b' n' cb', .int .i64 ep, .int .i64 nx, .slice va un vc, .slice pa hn pc] 38)) W2.heap.size y1.heap.size b n cb X b' n' cb' Y ep nx va un vc l' pa hn pc hs) := VB.new hs1 hb1.size
  have HC1 : Hid (Below W2.heap.size W2 (y1.alloc (.cells #[.slice b n cb, .slice b' n' cb', .int .i64 ep, .int .i64 nx, .slice va un vc, .slice pa hn pc] 38))) := hb1.alloc hb1.size _
  have HM : Hid (l'.map UE.u = l.map UE.u) := hm1
  clear hs1 hb1 hm1 c0 c1 c2 c3 c4 c5
  obtain ⟨c0, c1, c2, c3, c4, c5⟩ := (show _ ∧ _ ∧ _ ∧ _ ∧ _ ∧ _ from ⟨BoxN.cell (HQ.out _ HC1.out).1 0 rfl, BoxN.cell (HQ.out _ HC1.out).1 1 rfl, BoxN.cell (HQ.out _ HC1.out).1 2 rfl, BoxN.cell (HQ.out _ HC1.out).1 3 rfl, BoxN.cell (HQ.out _ HC1.out).1 4 rfl, BoxN.cell (HQ.out _ HC1.out).1 5 rfl⟩)
  go_wp2_with fail
  obtain ⟨w1, hw1⟩ : ∃ w1, y1.alloc (.cells #[.slice b n cb, .slice b' n' cb', .int .i64 ep, .int .i64 nx, .slice va un vc, .slice pa hn pc] 38) = w1 := ⟨_, rfl⟩
  rw [hw1] at HV1 HC1 ⊢
  clear hw1 c0 c1 c2 c3 c4 c5
  generalize y1.heap.size = bo at *
  refine (HOk.out _ HC1.out).mono ?_
  rintro e y2 ⟨rfl, hb2⟩
  have HV2 : Hid (VB y2 W2.heap.size bo b n cb X b' n' cb' Y ep nx va un vc l' pa hn pc hs) := HV1.out.stays hb2
  have HC2 : Hid (Below W2.heap.size W2 y2) := HC1.out.trans (hb2.mono HC1.out.size)
  have hlo : W2.heap.size ≤ bo := HV1.out.lob
  clear hb2 HV1 HC1
  cases ok with
  | false =>
    obtain ⟨r0, r1, r2, r3, r4, r5⟩ := (show _ ∧ _ ∧ _ ∧ _ ∧ _ ∧ _ from ⟨BoxN.cell (HQ.out _ HC2.out).2 0 rfl, BoxN.cell (HQ.out _ HC2.out).2 1 rfl, BoxN.cell (HQ.out _ HC2.out).2 2 rfl, BoxN.cell (HQ.out _ HC2.out).2 3 rfl, BoxN.cell (HQ.out _ HC2.out).2 4 rfl, BoxN.cell (HQ.out _ HC2.out).2 5 rfl⟩)
    obtain ⟨f0, f1, f2, f3, f4, f5⟩ := (show _ ∧ _ ∧ _ ∧ _ ∧ _ ∧ _ from ⟨BoxN.frozen (HQ.out _ HC2.out).2 0, BoxN.frozen (HQ.out _ HC2.out).2 1, BoxN.frozen (HQ.out _ HC2.out).2 2, BoxN.frozen (HQ.out _ HC2.out).2 3, BoxN.frozen (HQ.out _ HC2.out).2 4, BoxN.frozen (HQ.out _ HC2.out).2 5⟩)
    obtain ⟨o0, o1, o2, o3, o4, o5⟩ := (show _ ∧ _ ∧ _ ∧ _ ∧ _ ∧ _ from ⟨BoxN.cell HV2.out.box 0 rfl, BoxN.cell HV2.out.box 1 rfl, BoxN.cell HV2.out.box 2 rfl, BoxN.cell HV2.out.box 3 rfl, BoxN.cell HV2.out.box 4 rfl, BoxN.cell HV2.out.box 5 rfl⟩)
    have HBw : Hid (Below w.heap.size w y2) := HB2.out.trans (HC2.out.mono HB2.out.size)
    have HL9 : Hid (OwnH (y2.alloc (.cells #[] 67)) y2.heap.size (some ⟨y2.heap.size, 0, none⟩) 0 0 []) := ⟨World.ownsRow_lit y2 #[] 0 (Nat.le_refl _) (Nat.zero_le _) rfl, by simp⟩
    have hs3 : w.heap.size + 1 < y2.heap.size := by have := HC2.out.size; omega
    have HSV : Hid (SvAt y2 W2.heap.size b n cb X b' n' cb' Y va un vc l' pa hn pc hs) := HV2.out.sv
    have q9 : BoxN (y2.alloc (.cells #[] 67)) (w.heap.size + 1) 38 [.slice none 0 0, .slice none 0 0, .int .i64 0, .int .i64 0, .slice none 0 0, .slice none 0 0] := (HQ.out _ HC2.out).2.alloc _
    obtain ⟨u0, u1, u2, u3, u4, u5⟩ := (show _ ∧ _ ∧ _ ∧ _ ∧ _ ∧ _ from ⟨BoxN.cell q9 0 rfl, BoxN.cell q9 1 rfl, BoxN.cell q9 2 rfl, BoxN.cell q9 3 rfl, BoxN.cell q9 4 rfl, BoxN.cell q9 5 rfl⟩)
    obtain ⟨z0, z1, z2, z3, z4, z5⟩ := (show _ ∧ _ ∧ _ ∧ _ ∧ _ ∧ _ from ⟨BoxN.frozen q9 0, BoxN.frozen q9 1, BoxN.frozen q9 2, BoxN.frozen q9 3, BoxN.frozen q9 4, BoxN.frozen q9 5⟩)
    obtain ⟨t0, t1, t2, t3, t4, t5⟩ := (show _ ∧ _ ∧ _ ∧ _ ∧ _ ∧ _ from ⟨BoxN.cell (HV2.out.box.alloc (.cells #[] 67)) 0 rfl, BoxN.cell (HV2.out.box.alloc (.cells #[] 67)) 1 rfl, BoxN.cell (HV2.out.box.alloc (.cells #[] 67)) 2 rfl, BoxN.cell (HV2.out.box.alloc (.cells #[] 67)) 3 rfl, BoxN.cell (HV2.out.box.alloc (.cells #[] 67)) 4 rfl, BoxN.cell (HV2.out.box.alloc (.cells #[] 67)) 5 rfl⟩)
    obtain ⟨W8, hW8⟩ : ∃ W8, ((((((y2.setCell ⟨w.heap.size + 1, 0, none⟩ (.slice b n cb)).setCell ⟨w.heap.size + 1, 1, none⟩ (.slice b' n' cb')).setCell ⟨w.heap.size + 1, 2, none⟩ (.int .i64 ep)).setCell ⟨w.heap.size + 1, 3, none⟩ (.int .i64 nx)).setCell ⟨w.heap.size + 1, 4, none⟩ (.slice va un vc)).setCell ⟨w.heap.size + 1, 5, none⟩ (.slice pa hn pc)) = W8 := ⟨_, rfl⟩
    have HB8 : Hid (Below w.heap.size w W8) := by show Below _ _ _; rw [← hW8]; exact below_set6 HBw.out (by omega) _ _ _ _ _ _
    have HS8 : Hid (SvAt W8 W2.heap.size b n cb X b' n' cb' Y va un vc l' pa hn pc hs) := by show SvAt _ _ _ _ _ _ _ _ _ _ _ _ _ _ _ _ _ _; rw [← hW8]; exact HSV.out.set6 (by omega) _ _ _ _ _ _
    have HR8 : Hid (BoxN W8 (w.heap.size + 1) 38 [.slice b n cb, .slice b' n' cb', .int .i64 ep, .int .i64 nx, .slice va un vc, .slice pa hn pc]) := by show BoxN _ _ _ _; rw [← hW8]; exact BoxN.set6 (HQ.out _ HC2.out).2 _ _ _ _ _ _
    have HZ8 : Hid (W8.heap.size = y2.heap.size) := by show _ = _; rw [← hW8]; simp
    clear HQ HX HC2 HV2
    go_wp2_with fail
    clear hW8 t0 t1 t2 t3 t4 t5 o0 o1 o2 o3 o4 o5 u0 u1 u2 u3 u4 u5 z0 z1 z2 z3 z4 z5 r0 r1 r2 r3 r4 r5 f0 f1 f2 f3 f4 f5
    obtain ⟨W9, hW9⟩ : ∃ W9, W8.alloc (.cells #[] 67) = W9 := ⟨_, rfl⟩
    have HF : Hid (Below w.heap.size w W9 ∧ SvAt W9 W2.heap.size b n cb X b' n' cb' Y va un vc l' pa hn pc hs ∧ OwnH W9 W8.heap.size (some ⟨W8.heap.size, 0, none⟩) 0 0 [] ∧ w.heap.size ≤ W8.heap.size) := by
      show _ ∧ _
      rw [← hW9]
      exact ⟨HB8.out.alloc HB8.out.size _, HS8.out.stays ((Below.refl _ _).alloc (Nat.le_refl _) _), ⟨World.ownsRow_lit W8 #[] 0 (Nat.le_refl _) (Nat.zero_le _) rfl, by simp⟩, HB8.out.size⟩
    have hR9 : BoxN W9 (w.heap.size + 1) 38 [.slice b n cb, .slice b' n' cb', .int .i64 ep, .int .i64 nx, .slice va un vc, .slice pa hn pc] := by rw [← hW9]; exact HR8.out.alloc _
    rw [hW9, ← HZ8.out]
    clear hW9 HL9 q9 HSV
    obtain ⟨u0, u1, u2, u3, u4, u5⟩ := (show _ ∧ _ ∧ _ ∧ _ ∧ _ ∧ _ from ⟨BoxN.cell hR9 0 rfl, BoxN.cell hR9 1 rfl, BoxN.cell hR9 2 rfl, BoxN.cell hR9 3 rfl, BoxN.cell hR9 4 rfl, BoxN.cell hR9 5 rfl⟩)
    refine bodyPost_ret (v := .tuple #[.agg #[.slice b n cb, .slice b' n' cb', .int .i64 ep, .int .i64 nx, .slice va un vc, .slice pa hn pc], .slice (some ⟨W8.heap.size, 0, none⟩) 0 0]) (by simp [results, Tryz.f6, go_sem, u0, u1, u2, u3, u4, u5]) rfl ?_
    refine ⟨⟨_, _, rfl, ?_⟩, HF.out.1⟩
    rw [HRY.out, HRH.out, HRL.out]
    exact ⟨b, n, cb, b', n', cb', va, un, vc, l', pa, hn, pc, some ⟨W8.heap.size, 0, none⟩, 0, 0, rfl, rfl, HF.out.2.1.low (by omega), HM.out, HF.out.2.2.1.low HF.out.2.2.2, fun h => Bool.noConfusion h⟩
  | true =>
    obtain ⟨c0, c1, c2, c3, c4, c5⟩ := (show _ ∧ _ ∧ _ ∧ _ ∧ _ ∧ _ from ⟨BoxN.cell (HQ.out _ HC2.out).1 0 rfl, BoxN.cell (HQ.out _ HC2.out).1 1 rfl, BoxN.cell (HQ.out _ HC2.out).1 2 rfl, BoxN.cell (HQ.out _ HC2.out).1 3 rfl, BoxN.cell (HQ.out _ HC2.out).1 4 rfl, BoxN.cell (HQ.out _ HC2.out).1 5 rfl⟩)
    go_wp2_with fail
    refine (HSy.out _ HC2.out (HBk.out (by simp))).mono ?_
    rintro e y3 ⟨⟨d, cd, d', cd', ea, ec, l3, rfl, hs3, hm3⟩, hb3⟩
    have HC3 : Hid (Below W2.heap.size W2 y3) := HC2.out.trans (hb3.mono HC2.out.size)
    have HV3 : Hid (VB y3 W2.heap.size bo b n cb X b' n' cb' Y ep nx va un vc l' pa hn pc hs) := HV2.out.stays hb3
    have HS3 : Hid (StoAt y3 y2.heap.size d n cd X d' n cd' X ea un ec l3 ∧ l3.map UE.u = l.map UE.u) := ⟨hs3, hm3⟩
    have hby : bo < y2.heap.size := HV2.out.box.lt
    have hy23 : y2.heap.size ≤ y3.heap.size := hb3.size
    have ho := HV3.out.box
    obtain ⟨o0, o1, o2, o3, o4, o5⟩ := (show _ ∧ _ ∧ _ ∧ _ ∧ _ ∧ _ from ⟨BoxN.cell ho 0 rfl, BoxN.cell ho 1 rfl, BoxN.cell ho 2 rfl, BoxN.cell ho 3 rfl, BoxN.cell ho 4 rfl, BoxN.cell ho 5 rfl⟩)
    obtain ⟨z0, z1, z2, z3, z4, z5⟩ := (show _ ∧ _ ∧ _ ∧ _ ∧ _ ∧ _ from ⟨BoxN.frozen ho 0, BoxN.frozen ho 1, BoxN.frozen ho 2, BoxN.frozen ho 3, BoxN.frozen ho 4, BoxN.frozen ho 5⟩)
    obtain ⟨x4, hx4⟩ : ∃ x4, ((((y3.setCell ⟨bo, 0, none⟩ (.slice d n cd)).setCell ⟨bo, 1, none⟩ (.slice d' n cd')).setCell ⟨bo, 2, none⟩ (.int .i64 ep)).setCell ⟨bo, 3, none⟩ (.int .i64 nx)).setCell ⟨bo, 4, none⟩ (.slice ea un ec) = x4 := ⟨_, rfl⟩
    have HE4 : Hid (((((y3.setCell ⟨bo, 0, none⟩ (.slice d n cd)).setCell ⟨bo, 1, none⟩ (.slice d' n cd')).setCell ⟨bo, 2, none⟩ (.int .i64 ep)).setCell ⟨bo, 3, none⟩ (.int .i64 nx)).setCell ⟨bo, 4, none⟩ (.slice ea un ec) = x4) := hx4
    have HO4 : Hid (BoxN x4 bo 38 [.slice d n cd, .slice d' n cd', .int .i64 ep, .int .i64 nx, .slice ea un ec, .slice pa hn pc]) := by show BoxN _ _ _ _; rw [← hx4]; exact ((((ho.set 0 _).set 1 _).set 2 _).set 3 _).set 4 _
    have HS4 : Hid (StoAt x4 y2.heap.size d n cd X d' n cd' X ea un ec l3) := by show StoAt _ _ _ _ _ _ _ _ _ _ _ _ _ _; rw [← hx4]; exact ((((HS3.out.1.setLow hby _).setLow hby _).setLow hby _).setLow hby _).setLow hby _
    have HC4 : Hid (Below W2.heap.size W2 x4) := by show Below _ _ _; rw [← hx4]; exact ((((HC3.out.setCell hlo _).setCell hlo _).setCell hlo _).setCell hlo _).setCell hlo _
    have hz4 : y3.heap.size ≤ x4.heap.size := by rw [← hx4]; simp
    clear hx4 ho hs3 hm3 hb3 HV2 HV3 HC3 c0 c1 c2 c3 c4 c5
    go_upto_region 5 with fail
    rw [HE4.out]
    clear HE4 o0 o1 o2 o3 o4 o5 z0 z1 z2 z3 z4 z5
    have o5 := HO4.out.cell 5 rfl
    have z5 := HO4.out.frozen 5
    obtain ⟨x6, hx6⟩ : ∃ x6, (x4.setCell ⟨bo, 5, none⟩ (.slice (some ⟨x4.heap.size, 0, none⟩) 0 0)).alloc (.cells #[] 67) = x6 := ⟨_, rfl⟩
    have HE6 : Hid ((x4.setCell ⟨bo, 5, none⟩ (.slice (some ⟨x4.heap.size, 0, none⟩) 0 0)).alloc (.cells #[] 67) = x6) := hx6
    have hbx : bo < x4.heap.size := by omega
    have HO6 : Hid (BoxN x6 bo 38 [.slice d n cd, .slice d' n cd', .int .i64 ep, .int .i64 nx, .slice ea un ec, .slice (some ⟨x4.heap.size, 0, none⟩) 0 0]) := by show BoxN _ _ _ _; rw [← hx6]; exact (HO4.out.set 5 _).alloc _
    have HS6 : Hid (SvAt x6 y2.heap.size d n cd X d' n cd' X ea un ec l3 (some ⟨x4.heap.size, 0, none⟩) 0 0 []) := by
      show SvAt _ _ _ _ _ _ _ _ _ _ _ _ _ _ _ _ _ _
      rw [← hx6]
      refine ⟨(HS4.out.setLow hby _).stays ((Below.refl _ _).alloc (Nat.le_refl _) _), ?_⟩
      have h9 : OwnH ((x4.setCell ⟨bo, 5, none⟩ (.slice (some ⟨x4.heap.size, 0, none⟩) 0 0)).alloc (.cells #[] 67)) x4.heap.size (some ⟨x4.heap.size, 0, none⟩) 0 0 [] := by
        have h8 := World.ownsRow_lit (x4.setCell ⟨bo, 5, none⟩ (.slice (some ⟨x4.heap.size, 0, none⟩) 0 0)) (e := 67) (size := 3) (base := x4.heap.size) #[] 0 (by simp) (Nat.zero_le _) rfl
        rw [show (x4.setCell ⟨bo, 5, none⟩ (.slice (some ⟨x4.heap.size, 0, none⟩) 0 0)).heap.size = x4.heap.size by simp] at h8
        exact ⟨h8, by simp⟩
      exact h9.low (by omega)
    have HC6 : Hid (Below W2.heap.size W2 x6) := by
      show Below _ _ _
      rw [← hx6]
      have h8 := Below.setCell (p := ⟨bo, 5, none⟩) HC4.out hlo (.slice (some ⟨x4.heap.size, 0, none⟩) 0 0)
      exact h8.alloc h8.size _
    clear hx6 HO4 HS4 HC4
    go_upto_region 6 with fail
    rw [HE6.out]
    clear HE6 o5 z5
    obtain ⟨gh, hgh⟩ : ∃ gh, x4.heap.size = gh := ⟨_, rfl⟩
    rw [hgh] at HO6 HS6 ⊢
    clear hgh hz4 hbx
    have HBa : Hid (Below W2.heap.size W2 (x6.alloc (.cells #[] 67)).drew) := (HC6.out.alloc HC6.out.size _).drew
    have HBz : Hid (Below x6.heap.size x6 (x6.alloc (.cells #[] 67)).drew) := ((Below.refl _ _).alloc (Nat.le_refl _) _).drew
    have HLa : Hid ((x6.alloc (.cells #[] 67)).heap[x6.heap.size]? = some (.cells #[] 67)) := heap_alloc_new _ _
    have hne2 : bo ≠ w.heap.size + 1 := by omega
    obtain ⟨c0, c1, c2, c3, c4, c5⟩ := (show _ ∧ _ ∧ _ ∧ _ ∧ _ ∧ _ from ⟨BoxN.cell (HQ.out _ HC6.out).1 0 rfl, BoxN.cell (HQ.out _ HC6.out).1 1 rfl, BoxN.cell (HQ.out _ HC6.out).1 2 rfl, BoxN.cell (HQ.out _ HC6.out).1 3 rfl, BoxN.cell (HQ.out _ HC6.out).1 4 rfl, BoxN.cell (HQ.out _ HC6.out).1 5 rfl⟩)
    obtain ⟨d0, d1, d2, d3, d4, d5⟩ := (show _ ∧ _ ∧ _ ∧ _ ∧ _ ∧ _ from ⟨BoxN.cell HO6.out 0 rfl, BoxN.cell HO6.out 1 rfl, BoxN.cell HO6.out 2 rfl, BoxN.cell HO6.out 3 rfl, BoxN.cell HO6.out 4 rfl, BoxN.cell HO6.out 5 rfl⟩)
    obtain ⟨k0, k1, k2, k3, k4, k5⟩ := (show _ ∧ _ ∧ _ ∧ _ ∧ _ ∧ _ from ⟨BoxN.cell (HQ.out _ HBa.out).1 0 rfl, BoxN.cell (HQ.out _ HBa.out).1 1 rfl, BoxN.cell (HQ.out _ HBa.out).1 2 rfl, BoxN.cell (HQ.out _ HBa.out).1 3 rfl, BoxN.cell (HQ.out _ HBa.out).1 4 rfl, BoxN.cell (HQ.out _ HBa.out).1 5 rfl⟩)
    obtain ⟨t0, t1, t2, t3, t4, t5⟩ := (show _ ∧ _ ∧ _ ∧ _ ∧ _ ∧ _ from ⟨BoxN.cell (HO6.out.stays HBz.out) 0 rfl, BoxN.cell (HO6.out.stays HBz.out) 1 rfl, BoxN.cell (HO6.out.stays HBz.out) 2 rfl, BoxN.cell (HO6.out.stays HBz.out) 3 rfl, BoxN.cell (HO6.out.stays HBz.out) 4 rfl, BoxN.cell (HO6.out.stays HBz.out) 5 rfl⟩)
    go_region_held3 (fun W => W.cell? ⟨bo, 0, none⟩ = some (.slice d n cd) ∧ W.cell? ⟨bo, 1, none⟩ = some (.slice d' n cd') ∧ W.cell? ⟨bo, 2, none⟩ = some (.int .i64 ep) ∧ W.cell? ⟨bo, 3, none⟩ = some (.int .i64 nx) ∧ W.cell? ⟨bo, 4, none⟩ = some (.slice ea un ec) ∧ W.cell? ⟨bo, 5, none⟩ = some (.slice (some ⟨gh, 0, none⟩) 0 0) ∧ W.cell? ⟨w.heap.size, 5, none⟩ = some (.slice ha hn hc)) (first | with_reducible exact ⟨m0, m1, m2, m3, m4, m5, n5⟩ | with_reducible exact ⟨cellD_kept hne2 (cellD_kept hne2 (cellD_kept hne2 (cellD_kept hne2 (cellD_kept hne2 (cellD_kept hne2 (m0)))))), cellD_kept hne2 (cellD_kept hne2 (cellD_kept hne2 (cellD_kept hne2 (cellD_kept hne2 (cellD_kept hne2 (m1)))))), cellD_kept hne2 (cellD_kept hne2 (cellD_kept hne2 (cellD_kept hne2 (cellD_kept hne2 (cellD_kept hne2 (m2)))))), cellD_kept hne2 (cellD_kept hne2 (cellD_kept hne2 (cellD_kept hne2 (cellD_kept hne2 (cellD_kept hne2 (m3)))))), cellD_kept hne2 (cellD_kept hne2 (cellD_kept hne2 (cellD_kept hne2 (cellD_kept hne2 (cellD_kept hne2 (m4)))))), cellD_kept hne2 (cellD_kept hne2 (cellD_kept hne2 (cellD_kept hne2 (cellD_kept hne2 (cellD_kept hne2 (m5)))))), cellD_kept hne (cellD_kept hne (cellD_kept hne (cellD_kept hne (cellD_kept hne (cellD_kept hne (n5))))))⟩ | with_reducible exact ⟨t0, t1, t2, t3, t4, t5, k5⟩ | exact ⟨d0, d1, d2, d3, d4, d5, c5⟩ | fail) (first
      | (refine step_append_lit rfl (.tmp 19) (.tmp 21) 36 36 rfl W2.heap.size 67 i0 (.agg #[.int .i64 0, .int .i64 0, .int .i64 0]) 3 24 Tryz.underlying36 hi hz0 hz1 hz2 rfl (by decide) x6.heap.size rfl HLa.out (Below.size HC6.out) _ hn (heCells hs) rfl (HX.out _ HBa.out).2.2.2.src (by unfold maxLen; omega) (by omega) (Below.size HBa.out) ?_; intro g2 cg2 y7 hown2 hb2 hw2
         have hB7 : Below W2.heap.size W2 y7 := Below.trans HBa.out (hb2.mono (Below.size HBa.out))
         have hB67 : Below x6.heap.size x6 y7 := Below.trans HBz.out (hb2.mono (Below.size HBz.out))
         have m0 := BoxN.cell (HO6.out.stays hB67) 0 rfl
         have m1 := BoxN.cell (HO6.out.stays hB67) 1 rfl
         have m2 := BoxN.cell (HO6.out.stays hB67) 2 rfl
         have m3 := BoxN.cell (HO6.out.stays hB67) 3 rfl
         have m4 := BoxN.cell (HO6.out.stays hB67) 4 rfl
         have m5 := BoxN.cell (HO6.out.stays hB67) 5 rfl
         have n5 := BoxN.cell (HQ.out _ hB7).1 5 rfl
         have r0 := BoxN.cell (HQ.out _ hB7).2 0 rfl
         have r1 := BoxN.cell (HQ.out _ hB7).2 1 rfl
         have r2 := BoxN.cell (HQ.out _ hB7).2 2 rfl
         have r3 := BoxN.cell (HQ.out _ hB7).2 3 rfl
         have r4 := BoxN.cell (HQ.out _ hB7).2 4 rfl
         have r5 := BoxN.cell (HQ.out _ hB7).2 5 rfl
         have f0 := BoxN.frozen (HQ.out _ hB7).2 0
         have f1 := BoxN.frozen (HQ.out _ hB7).2 1
         have f2 := BoxN.frozen (HQ.out _ hB7).2 2
         have f3 := BoxN.frozen (HQ.out _ hB7).2 3
         have f4 := BoxN.frozen (HQ.out _ hB7).2 4
         have f5 := BoxN.frozen (HQ.out _ hB7).2 5)
      | fail)
    all_goals
      have HF : Hid (SvAt y7 y2.heap.size d n cd X d' n cd' X ea un ec l3 (some ⟨gh, 0, none⟩) 0 0 [] ∧ OwnH y7 W2.heap.size (some ⟨g2, 0, none⟩) hn cg2 hs ∧ Below w.heap.size w y7) := ⟨HS6.out.stays hB67, ⟨hown2, HL.out.2.2.2.1⟩, HB2.out.trans (hB7.mono HB2.out.size)⟩
      have HSO : Hid (SOk X Y ep nx (l.map UE.u)) := HBk.out (by simp)
      clear hown2 hb2 hw2 hB7 hB67 n5 c0 c1 c2 c3 c4 c5 d0 d1 d2 d3 d4 d5 k0 k1 k2 k3 k4 k5 t0 t1 t2 t3 t4 t5 m0 m1 m2 m3 m4 m5 HQ HX HBa HBz HLa HC6 HO6 HS6 HCp HSy HOk HBk
      go_wp2_with fail
      refine bodyPost_ret (v := .tuple #[.agg #[.slice d n cd, .slice d' n cd', .int .i64 ep, .int .i64 nx, .slice ea un ec, .slice (some ⟨gh, 0, none⟩) 0 0], .slice (some ⟨g2, 0, none⟩) hn cg2]) (by simp [results, Tryz.f6, go_sem, r0, r1, r2, r3, r4, r5]) rfl ?_
      refine ⟨⟨_, _, rfl, ?_⟩, below_set6 HF.out.2.2 (by omega) _ _ _ _ _ _⟩
      rw [HRY.out, HRH.out, HRL.out]
      simp only [if_pos, syncY_len HSO.out]
      exact ⟨d, n, cd, d', n, cd', ea, un, ec, l3, some ⟨gh, 0, none⟩, 0, 0, some ⟨g2, 0, none⟩, hn, cg2, rfl, rfl, (HF.out.1.set6 (by omega) _ _ _ _ _ _).low (by omega), HS3.out.2, (HF.out.2.1.set6 (by omega) _ _ _ _ _ _).low (by omega), fun h => Bool.noConfusion h⟩

end Go.Proofs.YtclkfjlnhcccdaaGreatDoor

namespace Go.Proofs.YtclkfjlnhcccdaaGreatDoor
open Go.RowKit
set_option linter.unusedVariables false

set_option maxRecDepth 10000 in
set_option maxHeartbeats 400000 in
theorem cloneH_any (a : Option Addr) (len cap : Nat) (l : List Hd) (w : World) (hs : Helds w a len l) (hl : len ≤ 1048576) :
    Calls Tryz.prog 53 #[.slice a len cap] w fun e w' => ∃ a' cap', e = .returned (.slice a' len cap') ∧ OwnH w' w.heap.size a' len cap' l ∧ Below w.heap.size w w' := by
  obtain ⟨i0, hi, hz0, hz1, hz2⟩ := info_parts info_held
  have qT : ∀ (w : World) (a : Option Addr) (n c n' c' : Nat), (binOp .eql 36 (.slice a n c) (.slice none n' c')).run Tryz.prog w = .ok (.bool a.isNone) w := fun w a n c n' c' => Lib.run_eql_slice_nil w _ _ a n c n' c' Tryz.underlying36
  cases a with
  | none =>
    have h0 := helds_nil hs rfl
    subst h0
    obtain rfl : l = [] := List.eq_nil_of_length_eq_zero hs.1
    go_enter Tryz.func53, Tryz.ntmps53
    go_wp2
    go_ret
    exact ⟨none, 0, rfl, ⟨World.ownsRow_nil _ _ _ _, by simp⟩, Below.refl _ _⟩
  | some ad =>
    have hzl : l.length = len := hs.1
    have HR : Hid (∀ s ∈ l, hd64 s) := hs.2.1
    have HS1 : Hid (Helds (w.alloc (.cells #[] 67)) (some ad) len l) := hs.below ((Below.refl _ _).alloc (Nat.le_refl _) _)
    have HO1 : Hid ((w.alloc (.cells #[] 67)).ownsRow w.heap.size 67 3 (.slice (some ⟨w.heap.size, 0, none⟩) 0 0) 0 []) := World.ownsRow_lit w #[] 0 (Nat.le_refl _) (Nat.zero_le _) rfl
    clear hs
    go_enter Tryz.func53, Tryz.ntmps53
    go_wp2_with (at_builtin; refine wpList_append_own _ rfl _ _ 36 rfl w.heap.size 67 i0 (.agg #[.int .i64 0, .int .i64 0, .int .i64 0]) 3 24 Tryz.underlying36 hi hz0 hz1 hz2 rfl (by decide) (.slice (some ⟨w.heap.size, 0, none⟩) 0 0) 0 [] rfl HO1.out ad len cap (heCells l) rfl (by rw [heCells_len, hzl]) (helds_src HS1.out ad rfl) (heCells_one l) (by unfold maxLen; omega) (by omega) (by simp) ?_; intro v1 w1 hown1 hgrow1 _; refine Hid.out ?_)
    refine hidden ?_
    have HB1 : Hid (Below w.heap.size w w1) := ((Below.refl _ _).alloc (Nat.le_refl _) _).grown hgrow1 (by simp) (by simp [Value.ownBlock])
    obtain ⟨a1, c1, rfl⟩ := ownH_shape hown1
    have HO2 : Hid (w1.ownsRow w.heap.size 67 3 (.slice a1 len c1) len (heCells l)) := by
      show World.ownsRow _ _ _ _ _ _ _
      have h := hown1
      rw [Nat.zero_add] at h
      simpa using h
    have hll : 0 + len = len := Nat.zero_add _
    rw [hll]
    clear hown1 hgrow1
    go_wp2_with fail
    go_ret
    exact ⟨_, _, rfl, ⟨HO2.out, HR.out⟩, HB1.out⟩

end Go.Proofs.YtclkfjlnhcccdaaGreatDoor

namespace Go.Proofs.YtclkfjlnhcccdaaGreatDoor
open Go.RowKit
set_option linter.unusedVariables false

theorem run_append_src {P : Program} (w : World) (base : Nat) (t ty e : TypeId) (i : TypeInfo) (z : Value) (size bytes : Nat) (ht : P.underlying t = some (.slice e)) (hi : P.info? e = some i) (hz : i.zero = some z)
    (hsize : i.size = size) (hby : i.bytes = bytes) (hzs : z.cells.size = size) (hsz : 0 < size)
    (g n cap : Nat) (xs : List Value) (hown : w.ownsRow base e size (.slice (some ⟨g, 0, none⟩) n cap) n xs)
    (src : Option Addr) (m c : Nat) (news : List Value) (hnone : src = none → m = 0) (hl : news.length = m * size) (hnews : ∀ ad, src = some ad → ∀ j u, news[j]? = some u → w.cell? (ad.add j) = some u) (h1 : ∀ u ∈ news, u.oneCell' = true)
    (h63 : n + m ≤ maxLen) (hbytes : (n + m) * bytes ≤ 140737488355328) (hbase : base ≤ w.heap.size) :
    ∃ v' w', (Builtin.append_ #[t, t] ty #[.slice (some ⟨g, 0, none⟩) n cap, .slice src m c]).run P w = .ok v' w' ∧ w'.ownsRow base e size v' (n + m) (xs ++ news) ∧ w.grownBy w' (some g) := by
  cases src with
  | some ad =>
    obtain ⟨v', w', hr, r1, r2, _⟩ := run_append_own (P := P) w base t ty e i z size bytes ht hi hz hsize hby hzs hsz (.slice (some ⟨g, 0, none⟩) n cap) n xs hown ad m c news hl (hnews ad rfl) h1 h63 hbytes hbase
    exact ⟨v', w', hr, r1, r2⟩
  | none =>
    obtain rfl := hnone rfl
    obtain rfl : news = [] := List.eq_nil_of_length_eq_zero (by simpa using hl)
    have hcap : n ≤ cap := by
      rcases hown.2 with ⟨h, _⟩ | ⟨g', cap', cur, h, _, _, hc, _⟩
      · cases h
      · injection h with _ _ h3
        omega
    have hr := run_append_room_src (P := P) w t t ty e i ht hi g 0 n cap (.slice none 0 c) 0 [] (Src.ofNil w ht c) (by omega) (by intro j hj; simp at hj) (by intro j hj; simp at hj)
    refine ⟨_, _, hr, ?_, ?_⟩
    · rw [List.append_nil]
      exact hown
    · exact ⟨rfl, rfl, rfl, Nat.le_refl _, fun _ _ _ => rfl⟩

theorem wp_append_src {P : Program} {o : Oper} {a : Act} {w : World} {K : Act → World → Prop} {Q : Exit → Act → World → Prop} (s x : Operand) (t : TypeId)
    (ho : o.op = .call { callee := .builtin .append, args := #[s, x], argTypes := #[t, t] })
    (base : Nat) (e : TypeId) (i : TypeInfo) (z : Value) (size bytes : Nat) (ht : P.underlying t = some (.slice e)) (hi : P.info? e = some i) (hz : i.zero = some z)
    (hsize : i.size = size) (hby : i.bytes = bytes) (hzs : z.cells.size = size) (hsz : 0 < size)
    (g n cap : Nat) (xs : List Value) (hs : a.eval s = .slice (some ⟨g, 0, none⟩) n cap) (hown : w.ownsRow base e size (.slice (some ⟨g, 0, none⟩) n cap) n xs)
    (src : Option Addr) (m c : Nat) (news : List Value) (hx : a.eval x = .slice src m c) (hnone : src = none → m = 0) (hl : news.length = m * size) (hnews : ∀ ad, src = some ad → ∀ j u, news[j]? = some u → w.cell? (ad.add j) = some u) (h1 : ∀ u ∈ news, u.oneCell' = true)
    (h63 : n + m ≤ maxLen) (hbytes : (n + m) * bytes ≤ 140737488355328) (hbase : base ≤ w.heap.size)
    (h : ∀ v' w', w'.ownsRow base e size v' (n + m) (xs ++ news) → w.grownBy w' (some g) → K (a.put o.dst v') w') : o.wp P a w K Q := by
  obtain ⟨v', w', hr, h2, h3⟩ := run_append_src (P := P) w base t o.type e i z size bytes ht hi hz hsize hby hzs hsz g n cap xs hown src m c news hnone hl hnews h1 h63 hbytes hbase
  unfold Oper.wp execOp
  simp only [ho, resolve, invoke, builtin, Sem.run_bind, Sem.run_pure, Result.andThen_ok, List.map_toArray, List.map_cons, List.map_nil, hs, hx, hr]
  exact h v' w' h2 h3

theorem step_append_src {P : Program} {ops : Array Oper} {o : Oper} {a : Act} {w : World} {K : Act → World → Prop} {Q : Exit → Act → World → Prop} {E : Prop} (hg : o.guard = none) (s x : Operand) (t : TypeId)
    (ho : o.op = .call { callee := .builtin .append, args := #[s, x], argTypes := #[t, t] })
    (base : Nat) (e : TypeId) (i : TypeInfo) (z : Value) (size bytes : Nat) (ht : P.underlying t = some (.slice e)) (hi : P.info? e = some i) (hz : i.zero = some z)
    (hsize : i.size = size) (hby : i.bytes = bytes) (hzs : z.cells.size = size) (hsz : 0 < size)
    (g n cap : Nat) (xs : List Value) (hs : a.eval s = .slice (some ⟨g, 0, none⟩) n cap) (hown : w.ownsRow base e size (.slice (some ⟨g, 0, none⟩) n cap) n xs)
    (src : Option Addr) (m c : Nat) (news : List Value) (hx : a.eval x = .slice src m c) (hnone : src = none → m = 0) (hl : news.length = m * size) (hnews : ∀ ad, src = some ad → ∀ j u, news[j]? = some u → w.cell? (ad.add j) = some u) (h1 : ∀ u ∈ news, u.oneCell' = true)
    (h63 : n + m ≤ maxLen) (hbytes : (n + m) * bytes ≤ 140737488355328) (hbase : base ≤ w.heap.size)
    (h : ∀ v' w', w'.ownsRow base e size v' (n + m) (xs ++ news) → w.grownBy w' (some g) → K (a.put o.dst v') w') :
    if Region.wanted o (yielded ops a.tmps) = true then Oper.wp P o a w K Q else E := by
  have hw : Region.wanted o (yielded ops a.tmps) = true := by simp [Region.wanted, hg]
  rw [if_pos hw]
  exact wp_append_src s x t ho base e i z size bytes ht hi hz hsize hby hzs hsz g n cap xs hs hown src m c news hx hnone hl hnews h1 h63 hbytes hbase h

theorem step_call_any {P : Program} {ops : Array Oper} {o : Oper} {a : Act} {w : World} {K : Act → World → Prop} {Q : Exit → Act → World → Prop} {E : Prop}
    (hg : o.guard = none) (f : FuncId) (x : Operand) (t : TypeId) (ho : o.op = .call { callee := .value (.func f), args := #[x], argTypes := #[t] })
    (hent : ∀ args w, (callFunc f args).run P w = .ok (.enter f args) w) (u : Value) (hx : a.eval x = u) (R : Ending → World → Prop)
    (hc : Calls P f #[u] w R) (h : ∀ e w', R e w' → ∃ v, e = .returned v ∧ K (a.put o.dst v) w') :
    if Region.wanted o (yielded ops a.tmps) = true then Oper.wp P o a w K Q else E := by
  have hw : Region.wanted o (yielded ops a.tmps) = true := by simp [Region.wanted, hg]
  rw [if_pos hw]
  have hf : a.eval (.func f) = .func (.func f) #[] #[] := rfl
  unfold Oper.wp
  simp [execOp, ho, resolve, invoke, Deferred.ofValue, hent, hf, hx, Oper.upon_enter]
  refine hc.mono ?_
  intro e w' hr
  obtain ⟨v, rfl, hk⟩ := h e w' hr
  exact hk

end Go.Proofs.YtclkfjlnhcccdaaGreatDoor

namespace Go.Proofs.YtclkfjlnhcccdaaGreatDoor
open Go.RowKit
set_option linter.unusedVariables false

theorem cloneRow_shape {w : World} {base n : Nat} {v : Value} {xs : List Value} (h : w.ownsRow base 9 1 v n xs) : ∃ a cap, v = .slice a n cap := by
  rcases h.2 with ⟨rfl, rfl⟩ | ⟨g, cap, cur, rfl, _⟩
  · exact ⟨_, _, rfl⟩
  · exact ⟨_, _, rfl⟩

set_option maxRecDepth 10000 in
set_option maxHeartbeats 400000 in
theorem cloneS_any (a : Option Addr) (len cap : Nat) (l : List ByteArray) (w : World) (hs : Strs w a len l) (hl : len ≤ 2097152) :
    Calls Tryz.prog 100 #[.slice a len cap] w fun e w' => (∃ a' cap', e = .returned (.slice a' len cap') ∧ OwnSt w' w.heap.size (.slice a' len cap') len l) ∧ Below w.heap.size w w' := by
  obtain ⟨i0, hi, hz0, hz1, hz2⟩ := info_parts info_string
  have qT : ∀ (w : World) (a : Option Addr) (n c n' c' : Nat), (binOp .eql 22 (.slice a n c) (.slice none n' c')).run Tryz.prog w = .ok (.bool a.isNone) w := fun w a n c n' c' => Lib.run_eql_slice_nil w _ _ a n c n' c' Tryz.underlying22
  cases a with
  | none =>
    have h0 := hs.none_nil rfl
    subst h0
    obtain rfl : l = [] := List.eq_nil_of_length_eq_zero hs.1
    go_enter Tryz.func100, Tryz.ntmps100
    go_wp2
    go_ret
    exact ⟨⟨none, 0, rfl, ⟨World.ownsRow_nil _ _ _ _, by simp⟩⟩, Below.refl _ _⟩
  | some ad =>
    have hzl : l.length = len := hs.1
    have HR : Hid (∀ x ∈ l, x.size ≤ maxLen) := hs.2.1
    have HS1 : Hid (Strs (w.alloc (.cells #[] 9)) (some ad) len l) := hs.below ((Below.refl _ _).alloc (Nat.le_refl _) _)
    have HO1 : Hid ((w.alloc (.cells #[] 9)).ownsRow w.heap.size 9 1 (.slice (some ⟨w.heap.size, 0, none⟩) 0 0) 0 []) := World.ownsRow_lit w #[] 0 (Nat.le_refl _) (Nat.zero_le _) rfl
    clear hs
    go_enter Tryz.func100, Tryz.ntmps100
    go_wp2_with (at_builtin; refine wpList_append_own _ rfl _ _ 22 rfl w.heap.size 9 i0 (.string ⟨#[]⟩) 1 16 Tryz.underlying22 hi hz0 hz1 hz2 rfl (by decide) (.slice (some ⟨w.heap.size, 0, none⟩) 0 0) 0 [] rfl HO1.out ad len cap (scells l) rfl (by rw [scells_len, hzl, Nat.mul_one]) (HS1.out.cells ad rfl) (scells_one l) (by unfold maxLen; omega) (by omega) (by simp) ?_; intro v1 w1 hown1 hgrow1 _; refine Hid.out ?_)
    refine hidden ?_
    have HB1 : Hid (Below w.heap.size w w1) := ((Below.refl _ _).alloc (Nat.le_refl _) _).grown hgrow1 (by simp) (by simp [Value.ownBlock])
    obtain ⟨a1, c1, rfl⟩ := cloneRow_shape hown1
    have HO2 : Hid (w1.ownsRow w.heap.size 9 1 (.slice a1 len c1) len (scells l)) := by
      show World.ownsRow _ _ _ _ _ _ _
      have h := hown1
      rw [Nat.zero_add] at h
      simpa using h
    have hll : 0 + len = len := Nat.zero_add _
    rw [hll]
    clear hown1 hgrow1
    go_wp2_with fail
    go_ret
    exact ⟨⟨_, _, rfl, ⟨HO2.out, HR.out⟩⟩, HB1.out⟩

end Go.Proofs.YtclkfjlnhcccdaaGreatDoor
