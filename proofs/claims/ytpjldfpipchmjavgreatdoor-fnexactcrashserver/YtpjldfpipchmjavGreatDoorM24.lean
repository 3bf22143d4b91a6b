/- What the specification's copy of a store answers. What the specification's copy of a server answers. -/
import Derived.Test.YtpjldfpipchmjavGreatDoorM04
import Derived.Test.YtpjldfpipchmjavGreatDoorM23
import Derived.Test.YtpjldfpipchmjavGreatDoorM11
import Derived.Deep.CutBlock
import Derived.Deep.RegionHeld3
import Derived.Test.YtpjldfpipchmjavGreatDoorM08
import Derived.Test.YtpjldfpipchmjavGreatDoorM22
import Derived.Test.YtpjldfpipchmjavGreatDoorM22
import Derived.Test.YtpjldfpipchmjavGreatDoorM06
namespace Go.Proofs.YtpjldfpipchmjavGreatDoor
open Go.RowKit
set_option linter.unusedVariables false

set_option maxRecDepth 10000 in
set_option maxHeartbeats 3200000 in
theorem specScopy_any (a : Option Addr) (n ca : Nat) (X : List ByteArray) (a' : Option Addr) (n' ca' : Nat) (Y : List ByteArray) (ep nx : Int) (ua : Option Addr) (un uc lo : Nat) (l : List UE) (w : World) (h1 : Strs w a n X) (h2 : Strs w a' n' Y) (hn : n ≤ 1048576) (hn' : n' ≤ 1048576) (hu : UpRow w lo (.slice ua un uc) l) (hun : un = l.length) (hul : un ≤ 1048576) (hz : ∀ e ∈ l, e.n ≤ 1099511627776) :
    Calls Tryz.prog 81 #[.agg #[.slice a n ca, .slice a' n' ca', .int .i64 ep, .int .i64 nx, .slice ua un uc]] w fun e w' => (∃ v, e = .returned v ∧ AnsS w.heap.size X Y ep nx (l.map UE.u) v w') ∧ Below w.heap.size w w' := by
  have HLn : Hid (X.length = n ∧ Y.length = n' ∧ un = l.length ∧ ∀ e ∈ l, e.n ≤ 1099511627776) := ⟨h1.1, h2.1, hun, hz⟩
  obtain ⟨W2, hW2⟩ : ∃ W2, (w.alloc (.cells #[.slice a n ca, .slice a' n' ca', .int .i64 ep, .int .i64 nx, .slice ua un uc] 36)).alloc (.cells #[.slice none 0 0, .slice none 0 0, .int .i64 0, .int .i64 0, .slice none 0 0] 36) = W2 := ⟨_, rfl⟩
  have HE : Hid ((w.alloc (.cells #[.slice a n ca, .slice a' n' ca', .int .i64 ep, .int .i64 nx, .slice ua un uc] 36)).alloc (.cells #[.slice none 0 0, .slice none 0 0, .int .i64 0, .int .i64 0, .slice none 0 0] 36) = W2) := hW2
  have HB2 : Hid (Below w.heap.size w W2) := by show Below _ _ _; rw [← hW2]; exact ((Below.refl _ _).alloc (Nat.le_refl _) _).alloc (by simp) _
  have HZ2 : Hid (W2.heap.size = w.heap.size + 2) := by show _ = _; rw [← hW2]; simp
  have q1 : BoxN W2 w.heap.size 36 [.slice a n ca, .slice a' n' ca', .int .i64 ep, .int .i64 nx, .slice ua un uc] := by rw [← hW2]; exact (BoxN.new _ _ _).alloc _
  have q2 : BoxN W2 (w.heap.size + 1) 36 [.slice none 0 0, .slice none 0 0, .int .i64 0, .int .i64 0, .slice none 0 0] := by
    rw [← hW2]
    have := BoxN.new (w.alloc (.cells #[.slice a n ca, .slice a' n' ca', .int .i64 ep, .int .i64 nx, .slice ua un uc] 36)) 36 [.slice none 0 0, .slice none 0 0, .int .i64 0, .int .i64 0, .slice none 0 0]
    rwa [World.size_alloc] at this
  have HQ : Hid (∀ W, Below W2.heap.size W2 W → BoxN W w.heap.size 36 [.slice a n ca, .slice a' n' ca', .int .i64 ep, .int .i64 nx, .slice ua un uc] ∧ BoxN W (w.heap.size + 1) 36 [.slice none 0 0, .slice none 0 0, .int .i64 0, .int .i64 0, .slice none 0 0]) := fun W h => ⟨q1.stays h, q2.stays h⟩
  have HX : Hid (∀ W, Below W2.heap.size W2 W → Strs W a n X ∧ Strs W a' n' Y ∧ UpRow W lo (.slice ua un uc) l) := fun W h => by
    have hw := HB2.out.trans (h.mono HB2.out.size)
    exact ⟨h1.below hw, h2.below hw, hu.stays hw⟩
  have HBd : Hid (Below W2.heap.size W2 W2.drew) := (Below.refl _ _).drew
  clear hW2 q1 q2 h1 h2 hu hun hz
  have hne : w.heap.size ≠ w.heap.size + 1 := by omega
  have hs2 : w.heap.size + 1 < W2.heap.size := by have := HZ2.out; omega
  go_enter Tryz.func81, Tryz.ntmps81
  go_upto_region 1 with fail
  rw [HE.out]
  clear HE
  have bq := (HQ.out _ (Below.refl _ _)).1
  have c0 := bq.cell 0 rfl
  have c1 := bq.cell 1 rfl
  have c2 := bq.cell 2 rfl
  have c3 := bq.cell 3 rfl
  have c4 := bq.cell 4 rfl
  clear bq
  go_region_held3 (fun W => W.cell? ⟨w.heap.size, 0, none⟩ = some (.slice a n ca) ∧ W.cell? ⟨w.heap.size, 1, none⟩ = some (.slice a' n' ca') ∧ W.cell? ⟨w.heap.size, 2, none⟩ = some (.int .i64 ep) ∧ W.cell? ⟨w.heap.size, 3, none⟩ = some (.int .i64 nx) ∧ W.cell? ⟨w.heap.size, 4, none⟩ = some (.slice ua un uc)) (first | with_reducible exact ⟨m0, m1, m2, m3, m4⟩ | with_reducible exact ⟨e0, e1, e2, e3, e4⟩ | with_reducible exact ⟨cellD_kept hne (cellD_kept hne (cellD_kept hne (cellD_kept hne (cellD_kept hne m0)))), cellD_kept hne (cellD_kept hne (cellD_kept hne (cellD_kept hne (cellD_kept hne m1)))), cellD_kept hne (cellD_kept hne (cellD_kept hne (cellD_kept hne (cellD_kept hne m2)))), cellD_kept hne (cellD_kept hne (cellD_kept hne (cellD_kept hne (cellD_kept hne m3)))), cellD_kept hne (cellD_kept hne (cellD_kept hne (cellD_kept hne (cellD_kept hne m4))))⟩ | exact ⟨c0, c1, c2, c3, c4⟩) (first
    | (go_at_call 127; refine (specCopyU_any ua un uc lo l _ (HX.out _ hB1).2.2 HLn.out.2.2.1 hul HLn.out.2.2.2).mono ?_; rintro e y2 ⟨⟨v2, l2, rfl, own2, hm2, hg2⟩, hb2⟩
       have hB2 : Below W2.heap.size W2 y2 := hB1.trans (hb2.mono hB1.size)
       have m0 := (HQ.out _ hB2).1.cell 0 rfl
       have m1 := (HQ.out _ hB2).1.cell 1 rfl
       have m2 := (HQ.out _ hB2).1.cell 2 rfl
       have m3 := (HQ.out _ hB2).1.cell 3 rfl
       have m4 := (HQ.out _ hB2).1.cell 4 rfl
       have r0 := (HQ.out _ hB2).2.cell 0 rfl
       have r1 := (HQ.out _ hB2).2.cell 1 rfl
       have r2 := (HQ.out _ hB2).2.cell 2 rfl
       have r3 := (HQ.out _ hB2).2.cell 3 rfl
       have r4 := (HQ.out _ hB2).2.cell 4 rfl
       have f0 := (HQ.out _ hB2).2.frozen 0
       have f1 := (HQ.out _ hB2).2.frozen 1
       have f2 := (HQ.out _ hB2).2.frozen 2
       have f3 := (HQ.out _ hB2).2.frozen 3
       have f4 := (HQ.out _ hB2).2.frozen 4
       obtain ⟨A3, C3, rfl⟩ := own2.shape)
    | (go_at_call 108; refine (specDcopy_any a n ca X a' n' ca' Y _ (HX.out _ HBd.out).1 (HX.out _ HBd.out).2.1 (by omega) (by omega)).mono ?_; rintro e y1 ⟨⟨v1, rfl, A1, C1, A2, C2, rfl, own1, own1', hap⟩, hb1⟩
       have hB1 : Below W2.heap.size W2 y1 := HBd.out.trans (hb1.mono (Nat.le_refl _))
       have e0 := (HQ.out _ hB1).1.cell 0 rfl
       have e1 := (HQ.out _ hB1).1.cell 1 rfl
       have e2 := (HQ.out _ hB1).1.cell 2 rfl
       have e3 := (HQ.out _ hB1).1.cell 3 rfl
       have e4 := (HQ.out _ hB1).1.cell 4 rfl)
    | fail)
  all_goals
    have HF : Hid (StoAt y2 (w.heap.size + 2) A1 X.length C1 X A2 Y.length C2 Y A3 l2.length C3 l2 ∧ l2.map UE.u = l.map UE.u ∧ Below w.heap.size w y2) := by
      have hz := HZ2.out
      refine ⟨⟨(own1.below hb2).low (by show _ ≤ W2.heap.size; omega), (own1'.below hb2).low (by show _ ≤ W2.heap.size; omega), hap, own2.low (by have := hB1.size; omega), rfl⟩, hm2, HB2.out.trans (hB2.mono HB2.out.size)⟩
    clear own1 own1' own2 hap hb1 hb2 hB1 hB2 hm2 hg2 e0 e1 e2 e3 e4 m0 m1 m2 m3 m4 c0 c1 c2 c3 c4 HQ HX HBd HB2
    go_wp2_with fail
    refine bodyPost_ret (v := .agg #[.slice A1 X.length C1, .slice A2 Y.length C2, .int .i64 ep, .int .i64 nx, .slice A3 l2.length C3]) (by simp [results, Tryz.f81, go_sem, r0, r1, r2, r3, r4]) rfl ?_
    refine ⟨⟨_, rfl, A1, X.length, C1, A2, Y.length, C2, A3, l2.length, C3, l2, rfl, ?_, HF.out.2.1⟩, ?_⟩
    · exact (((((HF.out.1.setLow (by omega) _).setLow (by omega) _).setLow (by omega) _).setLow (by omega) _).setLow (by omega) _).low (by omega)
    · exact ((((HF.out.2.2.setCell (by dsimp only; omega) _).setCell (by dsimp only; omega) _).setCell (by dsimp only; omega) _).setCell (by dsimp only; omega) _).setCell (by dsimp only; omega) _

end Go.Proofs.YtpjldfpipchmjavGreatDoor

namespace Go.Proofs.YtpjldfpipchmjavGreatDoor
open Go.RowKit
set_option linter.unusedVariables false

set_option maxRecDepth 10000 in
set_option maxHeartbeats 3200000 in
theorem specVcopy_any (a : Option Addr) (n ca : Nat) (X : List ByteArray) (a' : Option Addr) (n' ca' : Nat) (Y : List ByteArray) (ep nx : Int) (ua : Option Addr) (un uc lo : Nat) (l : List UE) (ha : Option Addr) (hn hc : Nat) (hs : List Hd) (w : World) (h1 : Strs w a n X) (h2 : Strs w a' n' Y) (hln : n ≤ 1048576) (hln' : n' ≤ 1048576) (hu : UpRow w lo (.slice ua un uc) l) (hun : un = l.length) (hul : un ≤ 1048576) (hz : ∀ e ∈ l, e.n ≤ 1099511627776) (hh : Helds w ha hn hs) (hhl : hn ≤ 1048576) :
    Calls Tryz.prog 41 #[.agg #[.slice a n ca, .slice a' n' ca', .int .i64 ep, .int .i64 nx, .slice ua un uc, .slice ha hn hc]] w fun e w' => (∃ v, e = .returned v ∧ AnsV false w.heap.size X Y ep nx (l.map UE.u) hs v w') ∧ Below w.heap.size w w' := by
  obtain ⟨W2, hW2⟩ : ∃ W2, (w.alloc (.cells #[.slice a n ca, .slice a' n' ca', .int .i64 ep, .int .i64 nx, .slice ua un uc, .slice ha hn hc] 39)).alloc (.cells #[.slice none 0 0, .slice none 0 0, .int .i64 0, .int .i64 0, .slice none 0 0, .slice none 0 0] 39) = W2 := ⟨_, rfl⟩
  have HE : Hid ((w.alloc (.cells #[.slice a n ca, .slice a' n' ca', .int .i64 ep, .int .i64 nx, .slice ua un uc, .slice ha hn hc] 39)).alloc (.cells #[.slice none 0 0, .slice none 0 0, .int .i64 0, .int .i64 0, .slice none 0 0, .slice none 0 0] 39) = W2) := hW2
  have HB2 : Hid (Below w.heap.size w W2) := by show Below _ _ _; rw [← hW2]; exact ((Below.refl _ _).alloc (Nat.le_refl _) _).alloc (by simp) _
  have HZ2 : Hid (W2.heap.size = w.heap.size + 2) := by show _ = _; rw [← hW2]; simp
  have q1 : BoxN W2 w.heap.size 39 [.slice a n ca, .slice a' n' ca', .int .i64 ep, .int .i64 nx, .slice ua un uc, .slice ha hn hc] := by rw [← hW2]; exact (BoxN.new _ _ _).alloc _
  have q2 : BoxN W2 (w.heap.size + 1) 39 [.slice none 0 0, .slice none 0 0, .int .i64 0, .int .i64 0, .slice none 0 0, .slice none 0 0] := by
    rw [← hW2]
    have := BoxN.new (w.alloc (.cells #[.slice a n ca, .slice a' n' ca', .int .i64 ep, .int .i64 nx, .slice ua un uc, .slice ha hn hc] 39)) 39 [.slice none 0 0, .slice none 0 0, .int .i64 0, .int .i64 0, .slice none 0 0, .slice none 0 0]
    rwa [World.size_alloc] at this
  have HQ : Hid (∀ W, Below W2.heap.size W2 W → BoxN W w.heap.size 39 [.slice a n ca, .slice a' n' ca', .int .i64 ep, .int .i64 nx, .slice ua un uc, .slice ha hn hc] ∧ BoxN W (w.heap.size + 1) 39 [.slice none 0 0, .slice none 0 0, .int .i64 0, .int .i64 0, .slice none 0 0, .slice none 0 0]) := fun W h => ⟨q1.stays h, q2.stays h⟩
  have HX : Hid (∀ W, Below W2.heap.size W2 W → Strs W a n X ∧ Strs W a' n' Y ∧ UpRow W lo (.slice ua un uc) l ∧ Helds W ha hn hs) := fun W h => by
    have hw := HB2.out.trans (h.mono HB2.out.size)
    exact ⟨h1.below hw, h2.below hw, hu.stays hw, hh.below hw⟩
  have HCp : Hid (∀ W, Below W2.heap.size W2 W → Calls Tryz.prog 81 #[.agg #[.slice a n ca, .slice a' n' ca', .int .i64 ep, .int .i64 nx, .slice ua un uc]] W fun e w' => (∃ b cb b' cb' va vc l', e = .returned (.agg #[.slice b n cb, .slice b' n' cb', .int .i64 ep, .int .i64 nx, .slice va un vc]) ∧ StoAt w' W.heap.size b n cb X b' n' cb' Y va un vc l' ∧ l'.map UE.u = l.map UE.u) ∧ Below W.heap.size W w') := fun W hb => by
    refine (specScopy_any a n ca X a' n' ca' Y ep nx ua un uc lo l W (HX.out _ hb).1 (HX.out _ hb).2.1 hln hln' (HX.out _ hb).2.2.1 hun hul hz).mono ?_
    rintro e y1 ⟨⟨v1, rfl, hv1⟩, hb1⟩
    obtain ⟨b, cb, b', cb', va, vc, l', rfl, hs1, hm1⟩ := hv1.get
    rw [List.length_map, ← hun, h1.1, h2.1] at hs1 ⊢
    exact ⟨⟨b, cb, b', cb', va, vc, l', rfl, hs1, hm1⟩, hb1⟩
  have hne : w.heap.size ≠ w.heap.size + 1 := by omega
  have HL : Hid (un = l.length ∧ (∀ e ∈ l, e.n ≤ 1099511627776) ∧ hs.length = hn ∧ ∀ s ∈ hs, hd64 s) := ⟨hun, hz, hh.1, hh.2.1⟩
  have HBd : Hid (Below W2.heap.size W2 W2.drew) := (Below.refl _ _).drew
  have hs2 : w.heap.size + 1 < W2.heap.size := q2.lt
  clear hW2 q1 q2 h1 h2 hu hun hz hh
  obtain ⟨i0, hi, hz0, hz1, hz2⟩ := info_parts info_held
  have HBa : Hid (Below W2.heap.size W2 (W2.alloc (.cells #[] 72))) := (Below.refl _ _).alloc (Nat.le_refl _) _
  have HBad : Hid (Below W2.heap.size W2 (W2.alloc (.cells #[] 72)).drew) := HBa.out.drew
  have HLa : Hid ((W2.alloc (.cells #[] 72)).heap[W2.heap.size]? = some (.cells #[] 72)) := heap_alloc_new _ _
  go_enter Tryz.func41, Tryz.ntmps41
  go_upto_region 1 with fail
  rw [HE.out]
  clear HE
  obtain ⟨c0, c1, c2, c3, c4, c5⟩ := (show _ ∧ _ ∧ _ ∧ _ ∧ _ ∧ _ from ⟨BoxN.cell (HQ.out _ (Below.refl _ _)).1 0 rfl, BoxN.cell (HQ.out _ (Below.refl _ _)).1 1 rfl, BoxN.cell (HQ.out _ (Below.refl _ _)).1 2 rfl, BoxN.cell (HQ.out _ (Below.refl _ _)).1 3 rfl, BoxN.cell (HQ.out _ (Below.refl _ _)).1 4 rfl, BoxN.cell (HQ.out _ (Below.refl _ _)).1 5 rfl⟩)
  obtain ⟨d0, d1, d2, d3, d4, d5⟩ := (show _ ∧ _ ∧ _ ∧ _ ∧ _ ∧ _ from ⟨BoxN.cell (HQ.out _ HBd.out).1 0 rfl, BoxN.cell (HQ.out _ HBd.out).1 1 rfl, BoxN.cell (HQ.out _ HBd.out).1 2 rfl, BoxN.cell (HQ.out _ HBd.out).1 3 rfl, BoxN.cell (HQ.out _ HBd.out).1 4 rfl, BoxN.cell (HQ.out _ HBd.out).1 5 rfl⟩)
  obtain ⟨k0, k1, k2, k3, k4, k5⟩ := (show _ ∧ _ ∧ _ ∧ _ ∧ _ ∧ _ from ⟨BoxN.cell (HQ.out _ HBad.out).1 0 rfl, BoxN.cell (HQ.out _ HBad.out).1 1 rfl, BoxN.cell (HQ.out _ HBad.out).1 2 rfl, BoxN.cell (HQ.out _ HBad.out).1 3 rfl, BoxN.cell (HQ.out _ HBad.out).1 4 rfl, BoxN.cell (HQ.out _ HBad.out).1 5 rfl⟩)
  go_region_held3 (fun W => W.cell? ⟨w.heap.size, 0, none⟩ = some (.slice a n ca) ∧ W.cell? ⟨w.heap.size, 1, none⟩ = some (.slice a' n' ca') ∧ W.cell? ⟨w.heap.size, 2, none⟩ = some (.int .i64 ep) ∧ W.cell? ⟨w.heap.size, 3, none⟩ = some (.int .i64 nx) ∧ W.cell? ⟨w.heap.size, 4, none⟩ = some (.slice ua un uc) ∧ W.cell? ⟨w.heap.size, 5, none⟩ = some (.slice ha hn hc)) (first | with_reducible exact ⟨m0, m1, m2, m3, m4, m5⟩ | with_reducible exact ⟨cellD_kept hne (cellD_kept hne (cellD_kept hne (cellD_kept hne (cellD_kept hne (cellD_kept hne (m0)))))), cellD_kept hne (cellD_kept hne (cellD_kept hne (cellD_kept hne (cellD_kept hne (cellD_kept hne (m1)))))), cellD_kept hne (cellD_kept hne (cellD_kept hne (cellD_kept hne (cellD_kept hne (cellD_kept hne (m2)))))), cellD_kept hne (cellD_kept hne (cellD_kept hne (cellD_kept hne (cellD_kept hne (cellD_kept hne (m3)))))), cellD_kept hne (cellD_kept hne (cellD_kept hne (cellD_kept hne (cellD_kept hne (cellD_kept hne (m4)))))), cellD_kept hne (cellD_kept hne (cellD_kept hne (cellD_kept hne (cellD_kept hne (cellD_kept hne (m5))))))⟩ | with_reducible exact ⟨e0, e1, e2, e3, e4, e5⟩ | with_reducible exact ⟨x0, x1, x2, x3, x4, x5⟩ | with_reducible exact ⟨k0, k1, k2, k3, k4, k5⟩ | with_reducible exact ⟨d0, d1, d2, d3, d4, d5⟩ | exact ⟨c0, c1, c2, c3, c4, c5⟩ | fail) (first
    | (refine step_append_lit rfl (.tmp 6) (.tmp 8) 37 37 rfl W2.heap.size 72 i0 (.agg #[.int .i64 0, .int .i64 0, .int .i64 0]) 3 24 Tryz.underlying37 hi hz0 hz1 hz2 rfl (by decide) W2.heap.size rfl hl1 (Nat.le_refl _) _ hn (heCells hs) rfl (HX.out _ hB1).2.2.2.src (by unfold maxLen; omega) (by omega) (Below.size hB1) ?_; intro g2 cg2 y2 hown2 hb2 hw2
       have hB2 : Below W2.heap.size W2 y2 := Below.trans hB1 (hb2.mono (Below.size hB1))
       have m0 := BoxN.cell (HQ.out _ hB2).1 0 rfl
       have m1 := BoxN.cell (HQ.out _ hB2).1 1 rfl
       have m2 := BoxN.cell (HQ.out _ hB2).1 2 rfl
       have m3 := BoxN.cell (HQ.out _ hB2).1 3 rfl
       have m4 := BoxN.cell (HQ.out _ hB2).1 4 rfl
       have m5 := BoxN.cell (HQ.out _ hB2).1 5 rfl
       have r0 := BoxN.cell (HQ.out _ hB2).2 0 rfl
       have r1 := BoxN.cell (HQ.out _ hB2).2 1 rfl
       have r2 := BoxN.cell (HQ.out _ hB2).2 2 rfl
       have r3 := BoxN.cell (HQ.out _ hB2).2 3 rfl
       have r4 := BoxN.cell (HQ.out _ hB2).2 4 rfl
       have r5 := BoxN.cell (HQ.out _ hB2).2 5 rfl
       have f0 := BoxN.frozen (HQ.out _ hB2).2 0
       have f1 := BoxN.frozen (HQ.out _ hB2).2 1
       have f2 := BoxN.frozen (HQ.out _ hB2).2 2
       have f3 := BoxN.frozen (HQ.out _ hB2).2 3
       have f4 := BoxN.frozen (HQ.out _ hB2).2 4
       have f5 := BoxN.frozen (HQ.out _ hB2).2 5
       have hS2 : StoAt y2 W2.heap.size b n cb X b' n' cb' Y va un vc l' := hs1.stays hb2)
    | (refine step_append_lit rfl (.tmp 6) (.tmp 8) 37 37 rfl W2.heap.size 72 i0 (.agg #[.int .i64 0, .int .i64 0, .int .i64 0]) 3 24 Tryz.underlying37 hi hz0 hz1 hz2 rfl (by decide) y1.heap.size rfl (heap_alloc_new y1 _) (Below.size hB1) _ hn (heCells hs) rfl (HX.out _ hBz).2.2.2.src (by unfold maxLen; omega) (by omega) (Below.size hBz) ?_; intro g2 cg2 y2 hown2 hb2 hw2
       have hB2 : Below W2.heap.size W2 y2 := Below.trans hBz (hb2.mono (Below.size hBz))
       have m0 := BoxN.cell (HQ.out _ hB2).1 0 rfl
       have m1 := BoxN.cell (HQ.out _ hB2).1 1 rfl
       have m2 := BoxN.cell (HQ.out _ hB2).1 2 rfl
       have m3 := BoxN.cell (HQ.out _ hB2).1 3 rfl
       have m4 := BoxN.cell (HQ.out _ hB2).1 4 rfl
       have m5 := BoxN.cell (HQ.out _ hB2).1 5 rfl
       have r0 := BoxN.cell (HQ.out _ hB2).2 0 rfl
       have r1 := BoxN.cell (HQ.out _ hB2).2 1 rfl
       have r2 := BoxN.cell (HQ.out _ hB2).2 2 rfl
       have r3 := BoxN.cell (HQ.out _ hB2).2 3 rfl
       have r4 := BoxN.cell (HQ.out _ hB2).2 4 rfl
       have r5 := BoxN.cell (HQ.out _ hB2).2 5 rfl
       have f0 := BoxN.frozen (HQ.out _ hB2).2 0
       have f1 := BoxN.frozen (HQ.out _ hB2).2 1
       have f2 := BoxN.frozen (HQ.out _ hB2).2 2
       have f3 := BoxN.frozen (HQ.out _ hB2).2 3
       have f4 := BoxN.frozen (HQ.out _ hB2).2 4
       have f5 := BoxN.frozen (HQ.out _ hB2).2 5
       have hS2 : StoAt y2 W2.heap.size b n cb X b' n' cb' Y va un vc l' := (hs1.stays ((Below.refl y1.heap.size y1).alloc (Nat.le_refl _) _)).stays hb2)
    | (go_at_call 81; (with_reducible show Calls _ _ _ W2.drew _); refine (HCp.out W2.drew HBd.out).mono ?_; rintro e y1 ⟨⟨b, cb, b', cb', va, vc, l', rfl, hs1, hm1⟩, hb1⟩
       have hB1 : Below W2.heap.size W2 y1 := HBd.out.trans (hb1.mono (Nat.le_refl _))
       have hBz : Below W2.heap.size W2 (y1.alloc (.cells #[] 72)) := hB1.alloc hB1.size _
       have x0 := BoxN.cell (HQ.out _ hBz).1 0 rfl
       have x1 := BoxN.cell (HQ.out _ hBz).1 1 rfl
       have x2 := BoxN.cell (HQ.out _ hBz).1 2 rfl
       have x3 := BoxN.cell (HQ.out _ hBz).1 3 rfl
       have x4 := BoxN.cell (HQ.out _ hBz).1 4 rfl
       have x5 := BoxN.cell (HQ.out _ hBz).1 5 rfl
       have e0 := BoxN.cell (HQ.out _ hB1).1 0 rfl
       have e1 := BoxN.cell (HQ.out _ hB1).1 1 rfl
       have e2 := BoxN.cell (HQ.out _ hB1).1 2 rfl
       have e3 := BoxN.cell (HQ.out _ hB1).1 3 rfl
       have e4 := BoxN.cell (HQ.out _ hB1).1 4 rfl
       have e5 := BoxN.cell (HQ.out _ hB1).1 5 rfl)
    | (go_at_call 81; (with_reducible show Calls _ _ _ (W2.alloc _).drew _); refine (HCp.out (W2.alloc (.cells #[] 72)).drew HBad.out).mono ?_; rintro e y1 ⟨⟨b, cb, b', cb', va, vc, l', rfl, hs1, hm1⟩, hb1⟩
       have hB1 : Below W2.heap.size W2 y1 := HBad.out.trans (hb1.mono HBad.out.size)
       have hs1 := StoAt.low hs1 (Below.size HBad.out)
       have hl1 : y1.heap[W2.heap.size]? = some (.cells #[] 72) := (hb1.block _ (by show W2.heap.size < (W2.alloc (.cells #[] 72)).heap.size; simp)).trans HLa.out
       have e0 := BoxN.cell (HQ.out _ hB1).1 0 rfl
       have e1 := BoxN.cell (HQ.out _ hB1).1 1 rfl
       have e2 := BoxN.cell (HQ.out _ hB1).1 2 rfl
       have e3 := BoxN.cell (HQ.out _ hB1).1 3 rfl
       have e4 := BoxN.cell (HQ.out _ hB1).1 4 rfl
       have e5 := BoxN.cell (HQ.out _ hB1).1 5 rfl)
    | fail)
  all_goals
    have HF : Hid (StoAt y2 (w.heap.size + 2) b n cb X b' n' cb' Y va un vc l' ∧ l'.map UE.u = l.map UE.u ∧ OwnH y2 (w.heap.size + 2) (some ⟨g2, 0, none⟩) hn cg2 hs ∧ Below w.heap.size w y2 ∧ True) := by
      have hz := HZ2.out
      exact ⟨hS2.low (by show _ ≤ W2.heap.size; omega), hm1, OwnH.low ⟨hown2, HL.out.2.2.2⟩ (by show _ ≤ W2.heap.size; omega), HB2.out.trans (hB2.mono HB2.out.size), trivial⟩
    clear hs1 hm1 hS2 hown2 hb1 hb2 hw2 hB1 hB2 e0 e1 e2 e3 e4 e5 m0 m1 m2 m3 m4 m5 c0 c1 c2 c3 c4 c5 d0 d1 d2 d3 d4 d5 k0 k1 k2 k3 k4 k5 HQ HX HBd HB2 HBa HBad HLa
    go_wp2_with fail
    refine bodyPost_ret (v := .agg #[.slice b n cb, .slice b' n' cb', .int .i64 ep, .int .i64 nx, .slice va un vc, .slice (some ⟨g2, 0, none⟩) hn cg2]) (by simp [results, Tryz.f41, go_sem, r0, r1, r2, r3, r4, r5]) rfl ?_
    refine ⟨⟨_, rfl, b, n, cb, b', n', cb', va, un, vc, l', some ⟨g2, 0, none⟩, hn, cg2, rfl, ⟨?_, ?_⟩, HF.out.2.1, ?_⟩, ?_⟩
    · exact ((((((HF.out.1.setLow (by omega) _).setLow (by omega) _).setLow (by omega) _).setLow (by omega) _).setLow (by omega) _).setLow (by omega) _).low (by omega)
    · exact ((((((HF.out.2.2.1.setLow (by omega) _).setLow (by omega) _).setLow (by omega) _).setLow (by omega) _).setLow (by omega) _).setLow (by omega) _).low (by omega)
    · exact fun h => Bool.noConfusion h
    · exact (((((HF.out.2.2.2.1.setCell (by dsimp only; omega) _).setCell (by dsimp only; omega) _).setCell (by dsimp only; omega) _).setCell (by dsimp only; omega) _).setCell (by dsimp only; omega) _).setCell (by dsimp only; omega) _

end Go.Proofs.YtpjldfpipchmjavGreatDoor
