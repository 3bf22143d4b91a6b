/- What the program's FlushDisk answers. What the program's SyncStore answers. What the program's ServerOk answers. What the program's SyncAll answers. How great the uploads of a store that was handed in are. How great what SyncAll answers is. A disk that comes in: its two rows of texts. A store that comes in: its disk's two rows of texts, its numbers, its uploads. -/
import Derived.Test.YtclkfjlnhcccdaaGreatDoorM28
import Derived.Test.YtclkfjlnhcccdaaGreatDoorM29
import Derived.Test.YtclkfjlnhcccdaaGreatDoorM44
import Derived.Test.YtclkfjlnhcccdaaGreatDoorM08
import Derived.Test.YtclkfjlnhcccdaaGreatDoorM26
import Derived.Test.YtclkfjlnhcccdaaGreatDoorM27
import Derived.Deep.RegionHeld3
import Derived.Test.YtclkfjlnhcccdaaGreatDoorM07
import Derived.Test.YtclkfjlnhcccdaaGreatDoorM04
import Derived.Lib.SmallJoins
import Derived.OpenShut
import Derived.ChangeOld
import Derived.WalkKit
import Derived.ProofKit
import Derived.Deep.Slices
import Derived.Test.YtclkfjlnhcccdaaGreatDoorM05
namespace Go.Proofs.YtclkfjlnhcccdaaGreatDoor
open Go.RowKit
set_option linter.unusedVariables false

set_option maxRecDepth 10000 in
set_option maxHeartbeats 1600000 in
theorem implFlush_any (a : Option Addr) (n ca : Nat) (xs : List ByteArray) (a' : Option Addr) (n' ca' : Nat) (w : World) (h1 : Strs w a n xs) (hn : n ≤ 2097152) :
    Calls Tryz.prog 54 #[.agg #[.slice a n ca, .slice a' n' ca']] w fun e w' => (∃ v, e = .returned v ∧ AnsD w.heap.size xs xs v w') ∧ Below w.heap.size w w' := by
  obtain ⟨W2, hW2⟩ : ∃ W2, (w.alloc (.cells #[.slice a n ca, .slice a' n' ca'] 32)).alloc (.cells #[.slice none 0 0, .slice none 0 0] 32) = W2 := ⟨_, rfl⟩
  have HE : Hid ((w.alloc (.cells #[.slice a n ca, .slice a' n' ca'] 32)).alloc (.cells #[.slice none 0 0, .slice none 0 0] 32) = W2) := hW2
  have HB2 : Hid (Below w.heap.size w W2) := by show Below _ _ _; rw [← hW2]; exact ((Below.refl _ _).alloc (Nat.le_refl _) _).alloc (by simp) _
  have HZ2 : Hid (W2.heap.size = w.heap.size + 2) := by show _ = _; rw [← hW2]; simp
  have HQ1 : Hid (Box2R W2 w.heap.size 32 (.slice a n ca) (.slice a' n' ca')) := by show Box2R _ _ _ _ _; rw [← hW2]; exact (Box2R.new _ _ _ _).alloc _
  have HQ2 : Hid (Box2R W2 (w.heap.size + 1) 32 (.slice none 0 0) (.slice none 0 0)) := by
    show Box2R _ _ _ _ _
    rw [← hW2]
    have := Box2R.new (w.alloc (.cells #[.slice a n ca, .slice a' n' ca'] 32)) 32 (.slice none 0 0) (.slice none 0 0)
    rwa [World.size_alloc] at this
  have HX : Hid (Strs W2 a n xs) := h1.below HB2.out
  have HL : Hid (xs.length = n) := h1.1
  clear hW2 h1
  go_enter Tryz.func54, Tryz.ntmps54
  go_upto_region 1 with fail
  rw [HE.out]
  clear HE
  obtain ⟨c0, c1⟩ := HQ1.out.cells
  go_wp2_with fail
  refine (implDcopy_any a n ca xs a n ca xs _ HX.out HX.out hn hn).mono ?_
  rintro e x3 ⟨⟨v, rfl, A, C, A', C', rfl, o1, o2, hap⟩, hb3⟩
  rw [HL.out] at o1 o2 ⊢
  have hbx := HQ2.out.stays hb3
  obtain ⟨r0, r1⟩ := hbx.cells
  have f0 := hbx.frozen 0
  have f1 := hbx.frozen 1
  have HF : Hid (AnsD w.heap.size xs xs (.agg #[.slice A n C, .slice A' n C']) ((x3.setCell ⟨w.heap.size + 1, 0, none⟩ (.slice A n C)).setCell ⟨w.heap.size + 1, 1, none⟩ (.slice A' n C')) ∧ Below w.heap.size w ((x3.setCell ⟨w.heap.size + 1, 0, none⟩ (.slice A n C)).setCell ⟨w.heap.size + 1, 1, none⟩ (.slice A' n C'))) := by
    have hz := HZ2.out
    have n1 : blkOf (.slice A n C) ≠ some (w.heap.size + 1) := fun e => by have := (o1.lt _ e).1; omega
    have n2 : blkOf (.slice A' n C') ≠ some (w.heap.size + 1) := fun e => by have := (o2.lt _ e).1; omega
    have hbw := HB2.out.trans (hb3.mono HB2.out.size)
    exact ⟨AnsD.mk' HL.out HL.out (((o1.setCell n1 _).setCell n1 _).low (by omega)) (((o2.setCell n2 _).setCell n2 _).low (by omega)) hap, (hbw.setCell (by dsimp only; omega) _).setCell (by dsimp only; omega) _⟩
  clear o1 o2 hap hb3 hbx c0 c1
  go_wp2_with fail
  refine bodyPost_ret (v := .agg #[.slice A n C, .slice A' n C']) (by simp [results, Tryz.f54, go_sem, r0, r1]) rfl ?_
  exact ⟨⟨_, rfl, HF.out.1⟩, HF.out.2⟩

end Go.Proofs.YtclkfjlnhcccdaaGreatDoor

namespace Go.Proofs.YtclkfjlnhcccdaaGreatDoor
open Go.RowKit
set_option linter.unusedVariables false

set_option maxRecDepth 10000 in
set_option maxHeartbeats 3200000 in
theorem implSync_any (a : Option Addr) (n ca : Nat) (X : List ByteArray) (a' : Option Addr) (n' ca' : Nat) (Y : List ByteArray) (ep nx : Int) (ua : Option Addr) (un uc lo : Nat) (l : List UE) (w : World) (h1 : Strs w a n X) (h2 : Strs w a' n' Y) (hn : n ≤ 1048576) (hn' : n' ≤ 1048576) (hzx : ∀ x ∈ X, x.size ≤ 1048576) (hu : UpRow w lo (.slice ua un uc) l) (hun : un = l.length) (hul : un ≤ 1048576) (hz : ∀ e ∈ l, e.n ≤ 1099511627776) (hsl : SlOk a n ca) (ht : RecT w) (he : ErrN w) :
    Calls Tryz.prog 31 #[.agg #[.slice a n ca, .slice a' n' ca', .int .i64 ep, .int .i64 nx, .slice ua un uc]] w fun e w' => (∃ v, e = .returned v ∧ AnsS w.heap.size X (syncY X Y ep nx (l.map UE.u)) ep nx (l.map UE.u) v w') ∧ Below w.heap.size w w' := by
  obtain ⟨W2, hW2⟩ : ∃ W2, (w.alloc (.cells #[.slice a n ca, .slice a' n' ca', .int .i64 ep, .int .i64 nx, .slice ua un uc] 35)).alloc (.cells #[.slice none 0 0, .slice none 0 0, .int .i64 0, .int .i64 0, .slice none 0 0] 35) = W2 := ⟨_, rfl⟩
  have HE : Hid ((w.alloc (.cells #[.slice a n ca, .slice a' n' ca', .int .i64 ep, .int .i64 nx, .slice ua un uc] 35)).alloc (.cells #[.slice none 0 0, .slice none 0 0, .int .i64 0, .int .i64 0, .slice none 0 0] 35) = W2) := hW2
  have HB2 : Hid (Below w.heap.size w W2) := by show Below _ _ _; rw [← hW2]; exact ((Below.refl _ _).alloc (Nat.le_refl _) _).alloc (by simp) _
  have q1 : BoxN W2 w.heap.size 35 [.slice a n ca, .slice a' n' ca', .int .i64 ep, .int .i64 nx, .slice ua un uc] := by rw [← hW2]; exact (BoxN.new _ _ _).alloc _
  have q2 : BoxN W2 (w.heap.size + 1) 35 [.slice none 0 0, .slice none 0 0, .int .i64 0, .int .i64 0, .slice none 0 0] := by
    rw [← hW2]
    have := BoxN.new (w.alloc (.cells #[.slice a n ca, .slice a' n' ca', .int .i64 ep, .int .i64 nx, .slice ua un uc] 35)) 35 [.slice none 0 0, .slice none 0 0, .int .i64 0, .int .i64 0, .slice none 0 0]
    rwa [World.size_alloc] at this
  have HQ : Hid (∀ W, Below W2.heap.size W2 W → BoxN W w.heap.size 35 [.slice a n ca, .slice a' n' ca', .int .i64 ep, .int .i64 nx, .slice ua un uc] ∧ BoxN W (w.heap.size + 1) 35 [.slice none 0 0, .slice none 0 0, .int .i64 0, .int .i64 0, .slice none 0 0]) := fun W h => ⟨q1.stays h, q2.stays h⟩
  have HX : Hid (∀ W, Below W2.heap.size W2 W → Strs W a n X ∧ Strs W a' n' Y ∧ UpRow W lo (.slice ua un uc) l ∧ RecT W ∧ ErrN W) := fun W h => by
    have hw := HB2.out.trans (h.mono HB2.out.size)
    exact ⟨h1.below hw, h2.below hw, hu.stays hw, ht.below hw, he.below hw⟩
  have HL : Hid (un = l.length ∧ (∀ e ∈ l, e.n ≤ 1099511627776) ∧ ∀ x ∈ X, x.size ≤ 1048576) := ⟨hun, hz, hzx⟩
  have hs2 : w.heap.size + 1 < W2.heap.size := q2.lt
  clear hW2 q1 q2 h1 h2 hu hun hz hzx ht he
  obtain ⟨c0, c1, c2, c3, c4⟩ := (show _ ∧ _ ∧ _ ∧ _ ∧ _ from ⟨(HQ.out _ (Below.refl _ _)).1.cell 0 rfl, (HQ.out _ (Below.refl _ _)).1.cell 1 rfl, (HQ.out _ (Below.refl _ _)).1.cell 2 rfl, (HQ.out _ (Below.refl _ _)).1.cell 3 rfl, (HQ.out _ (Below.refl _ _)).1.cell 4 rfl⟩)
  go_enter Tryz.func31, Tryz.ntmps31
  go_upto_region 1 with fail
  rw [HE.out]
  clear HE
  go_wp2_with fail
  refine (implScopy_any a n ca X a' n' ca' Y ep nx ua un uc lo l W2 (HX.out _ (Below.refl _ _)).1 (HX.out _ (Below.refl _ _)).2.1 hn hn' (HX.out _ (Below.refl _ _)).2.2.1 HL.out.1 hul HL.out.2.1).mono ?_
  rintro e y1 ⟨⟨v, rfl, hv⟩, hb1⟩
  obtain ⟨b, cb, b', cb', va, vc, l', rfl, hs1, hm1⟩ := hv.get
  rw [List.length_map, ← HL.out.1] at hs1 ⊢
  have HA1 : Hid (SAt (y1.alloc (.cells #[.slice b X.length cb, .slice b' Y.length cb', .int .i64 ep, .int .i64 nx, .slice va un vc] 35)) W2.heap.size y1.heap.size b X.length cb X b' Y.length cb' Y ep nx va un vc l') := SAt.new hs1 hb1.size
  have HC1 : Hid (Below W2.heap.size W2 (y1.alloc (.cells #[.slice b X.length cb, .slice b' Y.length cb', .int .i64 ep, .int .i64 nx, .slice va un vc] 35))) := hb1.alloc hb1.size _
  have HM : Hid (l'.map UE.u = l.map UE.u) := hm1
  clear hv hs1 hb1 hm1 c0 c1 c2 c3 c4
  obtain ⟨d0, d1, d2, d3, d4⟩ := (show _ ∧ _ ∧ _ ∧ _ ∧ _ from ⟨(HQ.out _ HC1.out).1.cell 0 rfl, (HQ.out _ HC1.out).1.cell 1 rfl, (HQ.out _ HC1.out).1.cell 2 rfl, (HQ.out _ HC1.out).1.cell 3 rfl, (HQ.out _ HC1.out).1.cell 4 rfl⟩)
  go_wp2_with fail
  obtain ⟨w1, hw1⟩ : ∃ w1, y1.alloc (.cells #[.slice b X.length cb, .slice b' Y.length cb', .int .i64 ep, .int .i64 nx, .slice va un vc] 35) = w1 := ⟨_, rfl⟩
  rw [hw1] at HA1 HC1 ⊢
  clear hw1 d0 d1 d2 d3 d4
  generalize y1.heap.size = bo at *
  refine (implSok_any a n ca X a' n' ca' Y ep nx ua un uc lo l w1 (HX.out _ HC1.out).1 (HX.out _ HC1.out).2.1 hn hn' HL.out.2.2 (HX.out _ HC1.out).2.2.1 HL.out.1 hul hsl (HX.out _ HC1.out).2.2.2.1 (HX.out _ HC1.out).2.2.2.2).mono ?_
  rintro e y2 ⟨rfl, hb2⟩
  obtain ⟨ok, hdb⟩ : ∃ ok, decB (SOk X Y ep nx (l.map UE.u)) = ok := ⟨_, rfl⟩
  rw [hdb]
  have HA2 : Hid (SAt y2 W2.heap.size bo b X.length cb X b' Y.length cb' Y ep nx va un vc l') := HA1.out.stays hb2
  have HC2 : Hid (Below W2.heap.size W2 y2) := HC1.out.trans (hb2.mono HC1.out.size)
  have HSy : Hid (syncY X Y ep nx (l.map UE.u) = if ok = true then X else Y) := by show _ = _; rw [syncY, hdb]
  have hlo : W2.heap.size ≤ bo := HA1.out.lob
  clear hb2 hdb HA1 HC1
  cases ok with
  | false =>
    obtain ⟨r0, r1, r2, r3, r4⟩ := (show _ ∧ _ ∧ _ ∧ _ ∧ _ from ⟨(HQ.out _ HC2.out).2.cell 0 rfl, (HQ.out _ HC2.out).2.cell 1 rfl, (HQ.out _ HC2.out).2.cell 2 rfl, (HQ.out _ HC2.out).2.cell 3 rfl, (HQ.out _ HC2.out).2.cell 4 rfl⟩)
    obtain ⟨o0, o1, o2, o3, o4⟩ := (show _ ∧ _ ∧ _ ∧ _ ∧ _ from ⟨HA2.out.box.cell 0 rfl, HA2.out.box.cell 1 rfl, HA2.out.box.cell 2 rfl, HA2.out.box.cell 3 rfl, HA2.out.box.cell 4 rfl⟩)
    obtain ⟨f0, f1, f2, f3, f4⟩ := (show _ ∧ _ ∧ _ ∧ _ ∧ _ from ⟨(HQ.out _ HC2.out).2.frozen 0, (HQ.out _ HC2.out).2.frozen 1, (HQ.out _ HC2.out).2.frozen 2, (HQ.out _ HC2.out).2.frozen 3, (HQ.out _ HC2.out).2.frozen 4⟩)
    have HBw : Hid (Below w.heap.size w y2) := HB2.out.trans (HC2.out.mono HB2.out.size)
    clear HQ HX HC2
    go_wp2_with fail
    refine bodyPost_ret (v := .agg #[.slice b X.length cb, .slice b' Y.length cb', .int .i64 ep, .int .i64 nx, .slice va un vc]) (by simp [results, Tryz.f31, go_sem, r0, r1, r2, r3, r4]) rfl ?_
    refine ⟨⟨_, rfl, b, X.length, cb, b', Y.length, cb', va, un, vc, l', rfl, ?_, HM.out⟩, ?_⟩
    · rw [HSy.out]
      exact (((((HA2.out.sto.setLow (by omega) _).setLow (by omega) _).setLow (by omega) _).setLow (by omega) _).setLow (by omega) _).low (by omega)
    · exact ((((HBw.out.setCell (by dsimp only; omega) _).setCell (by dsimp only; omega) _).setCell (by dsimp only; omega) _).setCell (by dsimp only; omega) _).setCell (by dsimp only; omega) _
  | true =>
    obtain ⟨d0, d1, d2, d3, d4⟩ := (show _ ∧ _ ∧ _ ∧ _ ∧ _ from ⟨HA2.out.box.cell 0 rfl, HA2.out.box.cell 1 rfl, HA2.out.box.cell 2 rfl, HA2.out.box.cell 3 rfl, HA2.out.box.cell 4 rfl⟩)
    have hXn : X.length ≤ 1048576 := by have := (HX.out _ HC2.out).1.1; omega
    go_wp2_with fail
    refine (implFlush_any b X.length cb X b' Y.length cb' y2 HA2.out.sto.now.strs (by omega)).mono ?_
    rintro e y3 ⟨⟨v3, rfl, A, C, A', C', rfl, ow, ow', hap⟩, hb3⟩
    have HA3 : Hid (SAt y3 W2.heap.size bo b X.length cb X b' Y.length cb' Y ep nx va un vc l') := HA2.out.stays hb3
    have HC3 : Hid (Below W2.heap.size W2 y3) := HC2.out.trans (hb3.mono HC2.out.size)
    have hbo : bo < y2.heap.size := HA2.out.box.lt
    have hlo2 : w.heap.size + 2 ≤ W2.heap.size := by omega
    have ho := HA3.out.box
    obtain ⟨o0, o1, o2, o3, o4⟩ := (show _ ∧ _ ∧ _ ∧ _ ∧ _ from ⟨ho.cell 0 rfl, ho.cell 1 rfl, ho.cell 2 rfl, ho.cell 3 rfl, ho.cell 4 rfl⟩)
    have z0 := ho.frozen 0
    have z1 := ho.frozen 1
    obtain ⟨x4, hx4⟩ : ∃ x4, (y3.setCell ⟨bo, 0, none⟩ (.slice A X.length C)).setCell ⟨bo, 1, none⟩ (.slice A' X.length C') = x4 := ⟨_, rfl⟩
    have HE4 : Hid ((y3.setCell ⟨bo, 0, none⟩ (.slice A X.length C)).setCell ⟨bo, 1, none⟩ (.slice A' X.length C') = x4) := hx4
    have HO4 : Hid (BoxN x4 bo 35 [.slice A X.length C, .slice A' X.length C', .int .i64 ep, .int .i64 nx, .slice va un vc]) := by
      show BoxN _ _ _ _
      rw [← hx4]
      exact (ho.set 0 _).set 1 _
    have HR4 : Hid (BoxN x4 (w.heap.size + 1) 35 [.slice none 0 0, .slice none 0 0, .int .i64 0, .int .i64 0, .slice none 0 0]) := by
      show BoxN _ _ _ _
      rw [← hx4]
      exact ((HQ.out _ HC3.out).2.other (by omega) _).other (by omega) _
    have hba : ∀ q, A.map (·.block) = some q → y2.heap.size ≤ q := fun q e => (ow.lt q (by rw [blk_own]; exact e)).1
    have hba' : ∀ q, A'.map (·.block) = some q → y2.heap.size ≤ q := fun q e => (ow'.lt q (by rw [blk_own]; exact e)).1
    have hn1 : blkOf (.slice A X.length C) ≠ some bo := fun e => by have := hba _ (by rw [← blk_own A X.length C]; exact e); omega
    have hn2 : blkOf (.slice A' X.length C') ≠ some bo := fun e => by have := hba' _ (by rw [← blk_own A' X.length C']; exact e); omega
    have hy2 : W2.heap.size ≤ y2.heap.size := HC2.out.size
    have HS4 : Hid (StoAt x4 (w.heap.size + 2) A X.length C X A' X.length C' X va un vc l') := by
      have hin := HA3.out.inn
      refine ⟨?_, ?_, hap, ?_, HA3.out.sto.len⟩
      · rw [← hx4]; exact ((ow.setCell hn1 _).setCell hn1 _).low (by omega)
      · rw [← hx4]; exact ((ow'.setCell hn2 _).setCell hn2 _).low (by omega)
      · rw [← hx4]
        have g1 : ∀ q, some bo = some q → (Value.slice va un vc).ownBlock ≠ some q := fun q hq hq2 => by injection hq with hq; have := hin.2.2.1 q (by rw [← ownBlock_sU va un vc]; exact hq2); omega
        have g2 : ∀ e ∈ l', ∀ q, some bo = some q → e.a.map (·.block) ≠ some q := fun e he q hq hq2 => by injection hq with hq; have := hin.2.2.2 e he q hq2; omega
        exact (((HA3.out.sto.ups.grown (grownBy_setU _ bo 0 _) g1 g2).grown (grownBy_setU _ bo 1 _) g1 g2)).low (by omega)
    have HB4 : Hid (Below w.heap.size w x4) := by
      show Below _ _ _
      rw [← hx4]
      exact ((HB2.out.trans (HC3.out.mono HB2.out.size)).setCell (by dsimp only; omega) _).setCell (by dsimp only; omega) _
    clear hx4 ow ow' hap hb3 ho hba hba' hn1 hn2 HA2 HA3 HC2 HC3 HQ HX d0 d1 d2 d3 d4
    go_upto_region 4 with fail
    rw [HE4.out]
    clear HE4 z0 z1 o0 o1 o2 o3 o4
    obtain ⟨o0, o1, o2, o3, o4⟩ := (show _ ∧ _ ∧ _ ∧ _ ∧ _ from ⟨HO4.out.cell 0 rfl, HO4.out.cell 1 rfl, HO4.out.cell 2 rfl, HO4.out.cell 3 rfl, HO4.out.cell 4 rfl⟩)
    obtain ⟨r0, r1, r2, r3, r4⟩ := (show _ ∧ _ ∧ _ ∧ _ ∧ _ from ⟨HR4.out.cell 0 rfl, HR4.out.cell 1 rfl, HR4.out.cell 2 rfl, HR4.out.cell 3 rfl, HR4.out.cell 4 rfl⟩)
    obtain ⟨f0, f1, f2, f3, f4⟩ := (show _ ∧ _ ∧ _ ∧ _ ∧ _ from ⟨HR4.out.frozen 0, HR4.out.frozen 1, HR4.out.frozen 2, HR4.out.frozen 3, HR4.out.frozen 4⟩)
    clear HO4 HR4
    go_wp2_with fail
    refine bodyPost_ret (v := .agg #[.slice A X.length C, .slice A' X.length C', .int .i64 ep, .int .i64 nx, .slice va un vc]) (by simp [results, Tryz.f31, go_sem, r0, r1, r2, r3, r4]) rfl ?_
    refine ⟨⟨_, rfl, A, X.length, C, A', X.length, C', va, un, vc, l', rfl, ?_, HM.out⟩, ?_⟩
    · rw [HSy.out]
      exact (((((HS4.out.setLow (by omega) _).setLow (by omega) _).setLow (by omega) _).setLow (by omega) _).setLow (by omega) _).low (by omega)
    · exact ((((HB4.out.setCell (by dsimp only; omega) _).setCell (by dsimp only; omega) _).setCell (by dsimp only; omega) _).setCell (by dsimp only; omega) _).setCell (by dsimp only; omega) _

end Go.Proofs.YtclkfjlnhcccdaaGreatDoor

namespace Go.Proofs.YtclkfjlnhcccdaaGreatDoor
open Go.RowKit
set_option linter.unusedVariables false

set_option maxRecDepth 10000 in
set_option maxHeartbeats 3200000 in
theorem implSvok_any (a : Option Addr) (n ca : Nat) (X : List ByteArray) (a' : Option Addr) (n' ca' : Nat) (Y : List ByteArray) (ep nx : Int) (ua : Option Addr) (un uc lo : Nat) (l : List UE) (ha : Option Addr) (hn hc : Nat) (hs : List Hd) (w : World) (h1 : Strs w a n X) (h2 : Strs w a' n' Y) (hln : n ≤ 1048576) (hln' : n' ≤ 1048576) (hz : ∀ x ∈ X, x.size ≤ 1048576) (hu : UpRow w lo (.slice ua un uc) l) (hun : un = l.length) (hul : un ≤ 1048576) (hh : Helds w ha hn hs) (hhl : hn ≤ 1099511627776) (hsl : SlOk a n ca) (ht : RecT w) (he : ErrN w) :
    Calls Tryz.prog 27 #[.agg #[.slice a n ca, .slice a' n' ca', .int .i64 ep, .int .i64 nx, .slice ua un uc, .slice ha hn hc]] w fun e w' => e = .returned (.bool (svB X Y ep nx (l.map UE.u) hs)) ∧ Below w.heap.size w w' := by
  obtain ⟨w0, hw0⟩ : ∃ w0, w.alloc (.cells #[.slice a n ca, .slice a' n' ca', .int .i64 ep, .int .i64 nx, .slice ua un uc, .slice ha hn hc] 38) = w0 := ⟨_, rfl⟩
  have HE : Hid (w.alloc (.cells #[.slice a n ca, .slice a' n' ca', .int .i64 ep, .int .i64 nx, .slice ua un uc, .slice ha hn hc] 38) = w0) := hw0
  have hB : Below w.heap.size w w0 := by rw [← hw0]; exact (Below.refl _ _).alloc (Nat.le_refl _) _
  have hQ : BoxN w0 w.heap.size 38 [.slice a n ca, .slice a' n' ca', .int .i64 ep, .int .i64 nx, .slice ua un uc, .slice ha hn hc] := by rw [← hw0]; exact BoxN.new _ _ _
  have HX : Hid (∀ W, Below w0.heap.size w0 W → BoxN W w.heap.size 38 [.slice a n ca, .slice a' n' ca', .int .i64 ep, .int .i64 nx, .slice ua un uc, .slice ha hn hc] ∧ Strs W a n X ∧ Strs W a' n' Y ∧ UpRow W lo (.slice ua un uc) l ∧ Below w.heap.size w W ∧ Helds W ha hn hs ∧ RecT W ∧ ErrN W) := fun W hb => by
    have hw : Below w.heap.size w W := hB.trans (hb.mono hB.size)
    exact ⟨hQ.stays hb, h1.below hw, h2.below hw, hu.stays hw, hw, hh.below hw, ht.below hw, he.below hw⟩
  have HL : Hid (un = l.length ∧ (∀ x ∈ X, x.size ≤ 1048576) ∧ hs.length = hn) := ⟨hun, hz, hh.1⟩
  have HA0 : Hid (Below w0.heap.size w0 w0) := Below.refl _ _
  clear hw0 h1 h2 hu hun hz hB hQ hh ht he
  have c5 := BoxN.cell (HX.out _ HA0.out).1 5 rfl
  go_enter Tryz.func27, Tryz.ntmps27
  go_upto_region 1 with fail
  rw [HE.out]
  clear HE
  by_cases h200 : (hn : Int) ≤ 200
  case neg =>
    have hd : decide ((hn : Int) ≤ 200) = false := by simpa using h200
    have HF : Hid (svB X Y ep nx (l.map UE.u) hs = false) := svB_many (by rw [HL.out.2.2]; exact h200)
    have HBw : Hid (Below w.heap.size w w0) := (HX.out _ HA0.out).2.2.2.2.1
    clear HX HA0 h200
    go_wp2_with fail
    go_ret
    exact ⟨by rw [HF.out]; rfl, HBw.out⟩
  have hd : decide ((hn : Int) ≤ 200) = true := by simpa using h200
  have H200 : Hid ((hs.length : Int) ≤ 200) := by show _ ≤ _; rw [HL.out.2.2]; exact h200
  clear h200
  go_wp2_with fail
  refine (implAnyHd_any ha hn hc hs w0 (HX.out _ HA0.out).2.2.2.2.2.1 hhl).mono ?_
  rintro e w1 ⟨rfl, hb1⟩
  have HB1 : Hid (Below w0.heap.size w0 w1) := hb1
  obtain ⟨c0, c1, c2, c3, c4⟩ := (show _ ∧ _ ∧ _ ∧ _ ∧ _ from ⟨BoxN.cell (HX.out _ HB1.out).1 0 rfl, BoxN.cell (HX.out _ HB1.out).1 1 rfl, BoxN.cell (HX.out _ HB1.out).1 2 rfl, BoxN.cell (HX.out _ HB1.out).1 3 rfl, BoxN.cell (HX.out _ HB1.out).1 4 rfl⟩)
  clear hb1 c5
  cases hany : anyH hs
  case true =>
    have HF : Hid (svB X Y ep nx (l.map UE.u) hs = false) := svB_any hany
    have HBw : Hid (Below w.heap.size w w1) := (HX.out _ HB1.out).2.2.2.2.1
    clear HX HA0 HB1 hany H200
    go_wp2_with fail
    go_ret
    exact ⟨by rw [HF.out]; rfl, HBw.out⟩
  have HF : Hid (svB X Y ep nx (l.map UE.u) hs = decB (SOk X Y ep nx (l.map UE.u))) := svB_sto hany H200.out
  clear hany H200
  go_wp2_with fail
  refine (implSok_any a n ca X a' n' ca' Y ep nx ua un uc lo l w1 (HX.out _ HB1.out).2.1 (HX.out _ HB1.out).2.2.1 hln hln' HL.out.2.1 (HX.out _ HB1.out).2.2.2.1 HL.out.1 hul hsl (HX.out _ HB1.out).2.2.2.2.2.2.1 (HX.out _ HB1.out).2.2.2.2.2.2.2).mono ?_
  rintro e w2 ⟨rfl, hb2⟩
  have HBw : Hid (Below w.heap.size w w2) := (HX.out _ (HB1.out.trans (hb2.mono HB1.out.size))).2.2.2.2.1
  obtain ⟨q, hq⟩ : ∃ q, decB (SOk X Y ep nx (l.map UE.u)) = q := ⟨_, rfl⟩
  have HD : Hid (svB X Y ep nx (l.map UE.u) hs = q) := HF.out.trans hq
  rw [hq]
  clear hb2 hq HF HX HB1 HA0 c0 c1 c2 c3 c4
  go_wp2_with fail
  go_ret
  exact ⟨by rw [HD.out]; rfl, HBw.out⟩

end Go.Proofs.YtclkfjlnhcccdaaGreatDoor

namespace Go.Proofs.YtclkfjlnhcccdaaGreatDoor
open Go.RowKit
set_option linter.unusedVariables false

set_option maxRecDepth 10000 in
set_option maxHeartbeats 1600000 in
theorem waitingAt_any (v0 v1 v4 : Value) (ep nx : Int) (ha : Option Addr) (hn hc : Nat) (hs : List Hd) (w : World) (hh : Helds w ha hn hs) (hhl : hn ≤ 1048576) :
    Calls Tryz.prog 29 #[.agg #[v0, v1, .int .i64 ep, .int .i64 nx, v4, .slice ha hn hc]] w fun e w' => (∃ a' c', e = .returned (.slice a' hn c') ∧ OwnH w' w.heap.size a' hn c' hs) ∧ Below w.heap.size w w' := by
  obtain ⟨w0, hw0⟩ : ∃ w0, w.alloc (.cells #[v0, v1, .int .i64 ep, .int .i64 nx, v4, .slice ha hn hc] 38) = w0 := ⟨_, rfl⟩
  have HE : Hid (w.alloc (.cells #[v0, v1, .int .i64 ep, .int .i64 nx, v4, .slice ha hn hc] 38) = w0) := hw0
  have hB : Below w.heap.size w w0 := by rw [← hw0]; exact (Below.refl _ _).alloc (Nat.le_refl _) _
  have hQ : BoxN w0 w.heap.size 38 [v0, v1, .int .i64 ep, .int .i64 nx, v4, .slice ha hn hc] := by rw [← hw0]; exact BoxN.new _ _ _
  have HB : Hid (Below w.heap.size w w0) := hB
  have HH : Hid (Helds w0 ha hn hs) := hh.below hB
  have c5 := BoxN.cell hQ 5 rfl
  clear hw0 hB hQ hh
  go_enter Tryz.func29, Tryz.ntmps29
  go_upto_region 1 with fail
  rw [HE.out]
  clear HE
  go_wp2_with fail
  refine (cloneH_any ha hn hc hs w0 HH.out hhl).mono ?_
  rintro e w1 ⟨a1, k1, rfl, ho1, hb1⟩
  have HF : Hid (OwnH w1 w0.heap.size a1 hn k1 hs ∧ Below w.heap.size w w1 ∧ w.heap.size ≤ w0.heap.size) := ⟨ho1, HB.out.trans (hb1.mono HB.out.size), HB.out.size⟩
  clear ho1 hb1 c5
  go_wp2_with fail
  go_ret
  exact ⟨⟨a1, k1, rfl, HF.out.1.low HF.out.2.2⟩, HF.out.2.1⟩

set_option maxRecDepth 10000 in
set_option maxHeartbeats 800000 in
theorem leaveH_any (b : Nat) (a : Option Addr) (n c : Nat) (w : World) (h : BoxN w b 61 [.slice a n c]) :
    Calls Tryz.prog 30 #[.pointer (some ⟨b, 0, none⟩)] w fun e w' => e = .returned (.slice a n c) ∧ BoxN w' b 61 [.slice none 0 0] ∧ w.grownBy w' (some b) := by
  have HF : Hid (BoxN (w.setCell ⟨b, 0, none⟩ (.slice none 0 0)) b 61 [.slice none 0 0] ∧ w.grownBy (w.setCell ⟨b, 0, none⟩ (.slice none 0 0)) (some b)) := ⟨h.set 0 _, grownBy_setU w b 0 _⟩
  have c0 := BoxN.cell h 0 rfl
  have f0 := BoxN.frozen h 0
  clear h
  go_enter Tryz.func30, Tryz.ntmps30
  go_wp2_with fail
  go_ret
  exact ⟨rfl, HF.out⟩

set_option maxRecDepth 10000 in
set_option maxHeartbeats 6400000 in
theorem implSyncAll_any (a : Option Addr) (n ca : Nat) (X : List ByteArray) (a' : Option Addr) (n' ca' : Nat) (Y : List ByteArray) (ep nx : Int) (ua : Option Addr) (un uc lo : Nat) (l : List UE) (ha : Option Addr) (hn hc : Nat) (hs : List Hd) (w : World) (h1 : Strs w a n X) (h2 : Strs w a' n' Y) (hln : n ≤ 1048576) (hln' : n' ≤ 1048576) (hzx : ∀ x ∈ X, x.size ≤ 1048576) (hu : UpRow w lo (.slice ua un uc) l) (hun : un = l.length) (hul : un ≤ 1048576) (hz : ∀ e ∈ l, e.n ≤ 1099511627776) (hh : Helds w ha hn hs) (hhl : hn ≤ 1048576) (hsl : SlOk a n ca) (ht : RecT w) (he : ErrN w) :
    Calls Tryz.prog 8 #[.agg #[.slice a n ca, .slice a' n' ca', .int .i64 ep, .int .i64 nx, .slice ua un uc, .slice ha hn hc]] w fun e w' => (∃ v u, e = .returned (.tuple #[v, u]) ∧ AnsVL true w.heap.size X (saY X Y ep nx (l.map UE.u) hs) ep nx (l.map UE.u) (saH X Y ep nx (l.map UE.u) hs) (saL X Y ep nx (l.map UE.u) hs) v u w') ∧ Below w.heap.size w w' := by
  obtain ⟨W2, hW2⟩ : ∃ W2, (w.alloc (.cells #[.slice a n ca, .slice a' n' ca', .int .i64 ep, .int .i64 nx, .slice ua un uc, .slice ha hn hc] 38)).alloc (.cells #[.slice none 0 0, .slice none 0 0, .int .i64 0, .int .i64 0, .slice none 0 0, .slice none 0 0] 38) = W2 := ⟨_, rfl⟩
  have HE : Hid ((w.alloc (.cells #[.slice a n ca, .slice a' n' ca', .int .i64 ep, .int .i64 nx, .slice ua un uc, .slice ha hn hc] 38)).alloc (.cells #[.slice none 0 0, .slice none 0 0, .int .i64 0, .int .i64 0, .slice none 0 0, .slice none 0 0] 38) = W2) := hW2
  have HB2 : Hid (Below w.heap.size w W2) := by show Below _ _ _; rw [← hW2]; exact ((Below.refl _ _).alloc (Nat.le_refl _) _).alloc (by simp) _
  have HZ2 : Hid (W2.heap.size = w.heap.size + 2) := by show _ = _; rw [← hW2]; simp
  have q1 : BoxN W2 w.heap.size 38 [.slice a n ca, .slice a' n' ca', .int .i64 ep, .int .i64 nx, .slice ua un uc, .slice ha hn hc] := by rw [← hW2]; exact (BoxN.new _ _ _).alloc _
  have q2 : BoxN W2 (w.heap.size + 1) 38 [.slice none 0 0, .slice none 0 0, .int .i64 0, .int .i64 0, .slice none 0 0, .slice none 0 0] := by
    rw [← hW2]
    have := BoxN.new (w.alloc (.cells #[.slice a n ca, .slice a' n' ca', .int .i64 ep, .int .i64 nx, .slice ua un uc, .slice ha hn hc] 38)) 38 [.slice none 0 0, .slice none 0 0, .int .i64 0, .int .i64 0, .slice none 0 0, .slice none 0 0]
    rwa [World.size_alloc] at this
  have HQ : Hid (∀ W, Below W2.heap.size W2 W → BoxN W w.heap.size 38 [.slice a n ca, .slice a' n' ca', .int .i64 ep, .int .i64 nx, .slice ua un uc, .slice ha hn hc] ∧ BoxN W (w.heap.size + 1) 38 [.slice none 0 0, .slice none 0 0, .int .i64 0, .int .i64 0, .slice none 0 0, .slice none 0 0]) := fun W h => ⟨q1.stays h, q2.stays h⟩
  have HX : Hid (∀ W, Below W2.heap.size W2 W → Strs W a n X ∧ Strs W a' n' Y ∧ UpRow W lo (.slice ua un uc) l ∧ Helds W ha hn hs ∧ RecT W ∧ ErrN W) := fun W h => by
    have hw := HB2.out.trans (h.mono HB2.out.size)
    exact ⟨h1.below hw, h2.below hw, hu.stays hw, hh.below hw, ht.below hw, he.below hw⟩
  have HL : Hid (un = l.length ∧ (∀ e ∈ l, e.n ≤ 1099511627776) ∧ hs.length = hn ∧ (∀ s ∈ hs, hd64 s) ∧ X.length = n ∧ Y.length = n' ∧ ∀ x ∈ X, x.size ≤ 1048576) := ⟨hun, hz, hh.1, hh.2.1, h1.1, h2.1, hzx⟩
  have HA0 : Hid (Below W2.heap.size W2 W2) := Below.refl _ _
  have hs2 : w.heap.size + 1 < W2.heap.size := q2.lt
  have hne : w.heap.size ≠ w.heap.size + 1 := by omega
  clear hW2 q1 q2 h1 h2 hu hun hz hh hzx ht he
  have HCp : Hid (∀ W, Below W2.heap.size W2 W → Calls Tryz.prog 28 #[.agg #[.slice a n ca, .slice a' n' ca', .int .i64 ep, .int .i64 nx, .slice ua un uc, .slice ha hn hc]] W fun e w' => (∃ b cb b' cb' va vc l' pa pc, e = .returned (.agg #[.slice b n cb, .slice b' n' cb', .int .i64 ep, .int .i64 nx, .slice va un vc, .slice pa hn pc]) ∧ SvAt w' W.heap.size b n cb X b' n' cb' Y va un vc l' pa hn pc hs ∧ l'.map UE.u = l.map UE.u ∧ SvBeh W.heap.size b b' va l' pa) ∧ Below W.heap.size W w') := fun W hb => by
    refine (implVcopy_any a n ca X a' n' ca' Y ep nx ua un uc lo l ha hn hc hs W (HX.out _ hb).1 (HX.out _ hb).2.1 hln hln' (HX.out _ hb).2.2.1 HL.out.1 hul HL.out.2.1 (HX.out _ hb).2.2.2.1 hhl).mono ?_
    rintro e y1 ⟨⟨v1, rfl, hv1⟩, hb1⟩
    obtain ⟨b, cb, b', cb', va, vc, l', pa, pc, rfl, hs1, hm1, hk1⟩ := hv1.get
    rw [List.length_map, ← HL.out.1, HL.out.2.2.2.2.1, HL.out.2.2.2.2.2.1, HL.out.2.2.1] at hs1 ⊢
    exact ⟨⟨b, cb, b', cb', va, vc, l', pa, pc, rfl, hs1, hm1, hk1 rfl⟩, hb1⟩
  have HSy : Hid (∀ W, Below W2.heap.size W2 W → SOk X Y ep nx (l.map UE.u) → Calls Tryz.prog 31 #[.agg #[.slice a n ca, .slice a' n' ca', .int .i64 ep, .int .i64 nx, .slice ua un uc]] W fun e w' => (∃ b cb b' cb' va vc l', e = .returned (.agg #[.slice b n cb, .slice b' n cb', .int .i64 ep, .int .i64 nx, .slice va un vc]) ∧ StoAt w' W.heap.size b n cb X b' n cb' X va un vc l' ∧ l'.map UE.u = l.map UE.u) ∧ Below W.heap.size W w') := fun W hb hok => by
    refine (implSync_any a n ca X a' n' ca' Y ep nx ua un uc lo l W (HX.out _ hb).1 (HX.out _ hb).2.1 hln hln' HL.out.2.2.2.2.2.2 (HX.out _ hb).2.2.1 HL.out.1 hul HL.out.2.1 hsl (HX.out _ hb).2.2.2.2.1 (HX.out _ hb).2.2.2.2.2).mono ?_
    rintro e y1 ⟨⟨v1, rfl, hv1⟩, hb1⟩
    rw [syncY_len hok] at hv1
    obtain ⟨b, cb, b', cb', va, vc, l', rfl, hs1, hm1⟩ := hv1.get
    rw [List.length_map, ← HL.out.1, HL.out.2.2.2.2.1] at hs1 ⊢
    exact ⟨⟨b, cb, b', cb', va, vc, l', rfl, hs1, hm1⟩, hb1⟩
  have HOk : Hid (∀ W, Below W2.heap.size W2 W → Calls Tryz.prog 27 #[.agg #[.slice a n ca, .slice a' n' ca', .int .i64 ep, .int .i64 nx, .slice ua un uc, .slice ha hn hc]] W fun e w' => e = .returned (.bool (svB X Y ep nx (l.map UE.u) hs)) ∧ Below W.heap.size W w') := fun W hb =>
    implSvok_any a n ca X a' n' ca' Y ep nx ua un uc lo l ha hn hc hs W (HX.out _ hb).1 (HX.out _ hb).2.1 hln hln' HL.out.2.2.2.2.2.2 (HX.out _ hb).2.2.1 HL.out.1 hul (HX.out _ hb).2.2.2.1 (by omega) hsl (HX.out _ hb).2.2.2.2.1 (HX.out _ hb).2.2.2.2.2
  have HWt : Hid (∀ W, Below W2.heap.size W2 W → Calls Tryz.prog 29 #[.agg #[.slice a n ca, .slice a' n' ca', .int .i64 ep, .int .i64 nx, .slice ua un uc, .slice ha hn hc]] W fun e w' => (∃ a' c', e = .returned (.slice a' hn c') ∧ OwnH w' W.heap.size a' hn c' hs) ∧ Below W.heap.size W w') := fun W hb =>
    waitingAt_any (.slice a n ca) (.slice a' n' ca') (.slice ua un uc) ep nx ha hn hc hs W (HX.out _ hb).2.2.2.1 hhl
  have HBk : Hid (svB X Y ep nx (l.map UE.u) hs = true → SOk X Y ep nx (l.map UE.u)) := svB_sok
  have HRY : Hid (saY X Y ep nx (l.map UE.u) hs = if svB X Y ep nx (l.map UE.u) hs = true then syncY X Y ep nx (l.map UE.u) else Y) := rfl
  have HRH : Hid (saH X Y ep nx (l.map UE.u) hs = if svB X Y ep nx (l.map UE.u) hs = true then [] else hs) := rfl
  have HRL : Hid (saL X Y ep nx (l.map UE.u) hs = if svB X Y ep nx (l.map UE.u) hs = true then hs else []) := rfl
  generalize saY X Y ep nx (l.map UE.u) hs = RY at *
  generalize saH X Y ep nx (l.map UE.u) hs = RH at *
  generalize saL X Y ep nx (l.map UE.u) hs = RL at *
  obtain ⟨ok, hok⟩ : ∃ ok, svB X Y ep nx (l.map UE.u) hs = ok := ⟨_, rfl⟩
  rw [hok] at HOk HBk HRY HRH HRL
  clear hok hsl
  obtain ⟨c0, c1, c2, c3, c4, c5⟩ := (show _ ∧ _ ∧ _ ∧ _ ∧ _ ∧ _ from ⟨BoxN.cell (HQ.out _ HA0.out).1 0 rfl, BoxN.cell (HQ.out _ HA0.out).1 1 rfl, BoxN.cell (HQ.out _ HA0.out).1 2 rfl, BoxN.cell (HQ.out _ HA0.out).1 3 rfl, BoxN.cell (HQ.out _ HA0.out).1 4 rfl, BoxN.cell (HQ.out _ HA0.out).1 5 rfl⟩)
  go_enter Tryz.func8, Tryz.ntmps8
  go_upto_region 1 with fail
  rw [HE.out]
  clear HE
  go_wp2_with fail
  refine (HOk.out _ HA0.out).mono ?_
  rintro e y1 ⟨rfl, hb1⟩
  have HC1 : Hid (Below W2.heap.size W2 y1) := hb1
  clear hb1 c0 c1 c2 c3 c4 c5
  obtain ⟨c0, c1, c2, c3, c4, c5⟩ := (show _ ∧ _ ∧ _ ∧ _ ∧ _ ∧ _ from ⟨BoxN.cell (HQ.out _ HC1.out).1 0 rfl, BoxN.cell (HQ.out _ HC1.out).1 1 rfl, BoxN.cell (HQ.out _ HC1.out).1 2 rfl, BoxN.cell (HQ.out _ HC1.out).1 3 rfl, BoxN.cell (HQ.out _ HC1.out).1 4 rfl, BoxN.cell (HQ.out _ HC1.out).1 5 rfl⟩)
  cases ok with
  | false =>
    go_wp2_with fail
    refine (HCp.out _ HC1.out).mono ?_
    rintro e y2 ⟨⟨b, cb, b', cb', va, vc, l', pa, pc, rfl, hs1, hm1, hk1⟩, hb2⟩
    have HC2 : Hid (Below W2.heap.size W2 y2) := HC1.out.trans (hb2.mono HC1.out.size)
    have HSV : Hid (SvAt y2 y1.heap.size b n cb X b' n' cb' Y va un vc l' pa hn pc hs ∧ l'.map UE.u = l.map UE.u ∧ SvBeh y1.heap.size b b' va l' pa) := ⟨hs1, hm1, hk1⟩
    have HBw : Hid (Below w.heap.size w y2) := HB2.out.trans (HC2.out.mono HB2.out.size)
    have hs3 : w.heap.size + 1 < y1.heap.size := by have := HC1.out.size; omega
    obtain ⟨r0, r1, r2, r3, r4, r5⟩ := (show _ ∧ _ ∧ _ ∧ _ ∧ _ ∧ _ from ⟨BoxN.cell (HQ.out _ HC2.out).2 0 rfl, BoxN.cell (HQ.out _ HC2.out).2 1 rfl, BoxN.cell (HQ.out _ HC2.out).2 2 rfl, BoxN.cell (HQ.out _ HC2.out).2 3 rfl, BoxN.cell (HQ.out _ HC2.out).2 4 rfl, BoxN.cell (HQ.out _ HC2.out).2 5 rfl⟩)
    obtain ⟨f0, f1, f2, f3, f4, f5⟩ := (show _ ∧ _ ∧ _ ∧ _ ∧ _ ∧ _ from ⟨BoxN.frozen (HQ.out _ HC2.out).2 0, BoxN.frozen (HQ.out _ HC2.out).2 1, BoxN.frozen (HQ.out _ HC2.out).2 2, BoxN.frozen (HQ.out _ HC2.out).2 3, BoxN.frozen (HQ.out _ HC2.out).2 4, BoxN.frozen (HQ.out _ HC2.out).2 5⟩)
    obtain ⟨W8, hW8⟩ : ∃ W8, ((((((y2).setCell ⟨w.heap.size + 1, 0, none⟩ (.slice b n cb)).setCell ⟨w.heap.size + 1, 1, none⟩ (.slice b' n' cb')).setCell ⟨w.heap.size + 1, 2, none⟩ (.int .i64 ep)).setCell ⟨w.heap.size + 1, 3, none⟩ (.int .i64 nx)).setCell ⟨w.heap.size + 1, 4, none⟩ (.slice va un vc)).setCell ⟨w.heap.size + 1, 5, none⟩ (.slice pa hn pc) = W8 := ⟨_, rfl⟩
    have HB8 : Hid (Below w.heap.size w W8) := by show Below _ _ _; rw [← hW8]; exact below_set6 HBw.out (by omega) _ _ _ _ _ _
    have HS8 : Hid (SvAt W8 y1.heap.size b n cb X b' n' cb' Y va un vc l' pa hn pc hs) := by show SvAt _ _ _ _ _ _ _ _ _ _ _ _ _ _ _ _ _ _; rw [← hW8]; exact HSV.out.1.set6 (by omega) _ _ _ _ _ _
    have HR8 : Hid (BoxN W8 (w.heap.size + 1) 38 [.slice b n cb, .slice b' n' cb', .int .i64 ep, .int .i64 nx, .slice va un vc, .slice pa hn pc]) := by show BoxN _ _ _ _; rw [← hW8]; exact BoxN.set6 (HQ.out _ HC2.out).2 _ _ _ _ _ _
    have HZ8 : Hid (W8.heap.size = y2.heap.size) := by show _ = _; rw [← hW8]; simp
    have hyz : w.heap.size + 1 < y2.heap.size := by have := hb2.size; omega
    have q9 : BoxN (y2.alloc (.cells #[] 67)) (w.heap.size + 1) 38 [.slice none 0 0, .slice none 0 0, .int .i64 0, .int .i64 0, .slice none 0 0, .slice none 0 0] := (HQ.out _ HC2.out).2.alloc _
    obtain ⟨u0, u1, u2, u3, u4, u5⟩ := (show _ ∧ _ ∧ _ ∧ _ ∧ _ ∧ _ from ⟨BoxN.cell q9 0 rfl, BoxN.cell q9 1 rfl, BoxN.cell q9 2 rfl, BoxN.cell q9 3 rfl, BoxN.cell q9 4 rfl, BoxN.cell q9 5 rfl⟩)
    obtain ⟨z0, z1, z2, z3, z4, z5⟩ := (show _ ∧ _ ∧ _ ∧ _ ∧ _ ∧ _ from ⟨BoxN.frozen q9 0, BoxN.frozen q9 1, BoxN.frozen q9 2, BoxN.frozen q9 3, BoxN.frozen q9 4, BoxN.frozen q9 5⟩)
    clear HQ HX HC2 hs1 hm1 hk1 hb2 q9 HCp HSy HOk HWt HBk c0 c1 c2 c3 c4 c5
    go_wp2_with fail
    clear hW8 r0 r1 r2 r3 r4 r5 f0 f1 f2 f3 f4 f5 u0 u1 u2 u3 u4 u5 z0 z1 z2 z3 z4 z5
    obtain ⟨W9, hW9⟩ : ∃ W9, W8.alloc (.cells #[] 67) = W9 := ⟨_, rfl⟩
    have HF : Hid (Below w.heap.size w W9 ∧ SvAt W9 y1.heap.size b n cb X b' n' cb' Y va un vc l' pa hn pc hs ∧ OwnH W9 W8.heap.size (some ⟨W8.heap.size, 0, none⟩) 0 0 [] ∧ w.heap.size ≤ W8.heap.size) := by
      show _ ∧ _
      rw [← hW9]
      exact ⟨HB8.out.alloc HB8.out.size _, HS8.out.stays ((Below.refl _ _).alloc (Nat.le_refl _) _), ⟨World.ownsRow_lit W8 #[] 0 (Nat.le_refl _) (Nat.zero_le _) rfl, by simp⟩, HB8.out.size⟩
    have hR9 : BoxN W9 (w.heap.size + 1) 38 [.slice b n cb, .slice b' n' cb', .int .i64 ep, .int .i64 nx, .slice va un vc, .slice pa hn pc] := by rw [← hW9]; exact HR8.out.alloc _
    rw [hW9, ← HZ8.out]
    clear hW9
    obtain ⟨u0, u1, u2, u3, u4, u5⟩ := (show _ ∧ _ ∧ _ ∧ _ ∧ _ ∧ _ from ⟨BoxN.cell hR9 0 rfl, BoxN.cell hR9 1 rfl, BoxN.cell hR9 2 rfl, BoxN.cell hR9 3 rfl, BoxN.cell hR9 4 rfl, BoxN.cell hR9 5 rfl⟩)
    refine bodyPost_ret (v := .tuple #[.agg #[.slice b n cb, .slice b' n' cb', .int .i64 ep, .int .i64 nx, .slice va un vc, .slice pa hn pc], .slice (some ⟨W8.heap.size, 0, none⟩) 0 0]) (by simp [results, Tryz.f8, go_sem, u0, u1, u2, u3, u4, u5]) rfl ?_
    refine ⟨⟨_, _, rfl, ?_⟩, HF.out.1⟩
    rw [HRY.out, HRH.out, HRL.out]
    refine ⟨b, n, cb, b', n', cb', va, un, vc, l', pa, hn, pc, some ⟨W8.heap.size, 0, none⟩, 0, 0, rfl, rfl, HF.out.2.1.low (by omega), HSV.out.2.1, HF.out.2.2.1.low HF.out.2.2.2, fun _ => ⟨?_, .inl rfl⟩⟩
    obtain ⟨m, h1, h2, h3⟩ := HSV.out.2.2
    exact ⟨m, by omega, h2, h3⟩
  | true =>
    go_wp2_with fail
    refine (HWt.out _ HC1.out).mono ?_
    rintro e y2 ⟨⟨pa, pc, rfl, ho2⟩, hb2⟩
    have HC2 : Hid (Below W2.heap.size W2 y2) := HC1.out.trans (hb2.mono HC1.out.size)
    have HO3 : Hid (OwnH (y2.alloc (.cells #[.slice pa hn pc] 61)) y1.heap.size pa hn pc hs ∧ ∀ q, pa.map (·.block) = some q → q < y2.heap.size) := ⟨ho2.below ((Below.refl _ _).alloc (Nat.le_refl _) _), fun q e => (ho2.lt q e).2⟩
    have HQ3 : Hid (BoxN (y2.alloc (.cells #[.slice pa hn pc] 61)) y2.heap.size 61 [.slice pa hn pc]) := BoxN.new _ _ _
    have HC3 : Hid (Below W2.heap.size W2 (y2.alloc (.cells #[.slice pa hn pc] 61))) := HC2.out.alloc HC2.out.size _
    have hy12 : y1.heap.size ≤ y2.heap.size := hb2.size
    have hy21 : W2.heap.size ≤ y1.heap.size := HC1.out.size
    clear ho2 hb2 HC2 c0 c1 c2 c3 c4 c5
    go_upto_region 4 with fail
    obtain ⟨w3, hw3⟩ : ∃ w3, y2.alloc (.cells #[.slice pa hn pc] 61) = w3 := ⟨_, rfl⟩
    rw [hw3] at HO3 HQ3 HC3 ⊢
    clear hw3
    generalize y2.heap.size = bq at *
    go_wp2_with fail
    refine (leaveH_any bq pa hn pc w3 HQ3.out).mono ?_
    rintro e y4 ⟨rfl, hq4, hg4⟩
    have HQ4 : Hid (BoxN y4 bq 61 [.slice none 0 0]) := hq4
    have HC4 : Hid (Below W2.heap.size W2 y4) := HC3.out.grown hg4 HC3.out.size (fun q e => by injection e with e; omega)
    have HO4 : Hid (OwnH y4 y1.heap.size pa hn pc hs) := HO3.out.1.kept hg4 (fun q e e2 => by injection e with e; have := HO3.out.2 q e2; omega)
    have hb4 : bq < y4.heap.size := hq4.lt
    clear hq4 hg4 HQ3 HC3
    have HBd : Hid (Below W2.heap.size W2 y4.drew) := HC4.out.drew
    have HQd : Hid (BoxN y4.drew bq 61 [.slice none 0 0]) := HQ4.out
    have hne2 : bq ≠ w.heap.size + 1 := by omega
    skip
    obtain ⟨c0, c1, c2, c3, c4⟩ := (show _ ∧ _ ∧ _ ∧ _ ∧ _ from ⟨BoxN.cell (HQ.out _ HC4.out).1 0 rfl, BoxN.cell (HQ.out _ HC4.out).1 1 rfl, BoxN.cell (HQ.out _ HC4.out).1 2 rfl, BoxN.cell (HQ.out _ HC4.out).1 3 rfl, BoxN.cell (HQ.out _ HC4.out).1 4 rfl⟩)
    have cq := BoxN.cell HQ4.out 0 rfl
    obtain ⟨d0, d1, d2, d3, d4⟩ := (show _ ∧ _ ∧ _ ∧ _ ∧ _ from ⟨BoxN.cell (HQ.out _ HBd.out).1 0 rfl, BoxN.cell (HQ.out _ HBd.out).1 1 rfl, BoxN.cell (HQ.out _ HBd.out).1 2 rfl, BoxN.cell (HQ.out _ HBd.out).1 3 rfl, BoxN.cell (HQ.out _ HBd.out).1 4 rfl⟩)
    have dq := BoxN.cell HQd.out 0 rfl
    have HSO : Hid (SOk X Y ep nx (l.map UE.u)) := HBk.out (by simp)
    go_upto_region 5 with fail
    go_region_held3 (fun W => W.cell? ⟨w.heap.size, 0, none⟩ = some (.slice a n ca) ∧ W.cell? ⟨w.heap.size, 1, none⟩ = some (.slice a' n' ca') ∧ W.cell? ⟨w.heap.size, 2, none⟩ = some (.int .i64 ep) ∧ W.cell? ⟨w.heap.size, 3, none⟩ = some (.int .i64 nx) ∧ W.cell? ⟨w.heap.size, 4, none⟩ = some (.slice ua un uc) ∧ W.cell? ⟨bq, 0, none⟩ = some (.slice none 0 0)) (first | with_reducible exact ⟨m0, m1, m2, m3, m4, mq⟩ | with_reducible exact ⟨cellD_kept hne (cellD_kept hne (cellD_kept hne (cellD_kept hne (cellD_kept hne (cellD_kept hne (m0)))))), cellD_kept hne (cellD_kept hne (cellD_kept hne (cellD_kept hne (cellD_kept hne (cellD_kept hne (m1)))))), cellD_kept hne (cellD_kept hne (cellD_kept hne (cellD_kept hne (cellD_kept hne (cellD_kept hne (m2)))))), cellD_kept hne (cellD_kept hne (cellD_kept hne (cellD_kept hne (cellD_kept hne (cellD_kept hne (m3)))))), cellD_kept hne (cellD_kept hne (cellD_kept hne (cellD_kept hne (cellD_kept hne (cellD_kept hne (m4)))))), cellD_kept hne2 (cellD_kept hne2 (cellD_kept hne2 (cellD_kept hne2 (cellD_kept hne2 (cellD_kept hne2 (mq))))))⟩ | with_reducible exact ⟨d0, d1, d2, d3, d4, dq⟩ | exact ⟨c0, c1, c2, c3, c4, cq⟩ | fail) (first
      | (go_at_call 31; refine (HSy.out _ HBd.out HSO.out).mono ?_; rintro e y5 ⟨⟨d, cd, d', cd', ea, ec, l3, rfl, hs5, hm5⟩, hb5⟩
         have hB5 : Below W2.heap.size W2 y5 := HBd.out.trans (hb5.mono HBd.out.size)
         have hq5 : BoxN y5 bq 61 [.slice none 0 0] := HQd.out.stays hb5
         have m0 := BoxN.cell (HQ.out _ hB5).1 0 rfl
         have m1 := BoxN.cell (HQ.out _ hB5).1 1 rfl
         have m2 := BoxN.cell (HQ.out _ hB5).1 2 rfl
         have m3 := BoxN.cell (HQ.out _ hB5).1 3 rfl
         have m4 := BoxN.cell (HQ.out _ hB5).1 4 rfl
         have mq := BoxN.cell hq5 0 rfl
         have r0 := BoxN.cell (HQ.out _ hB5).2 0 rfl
         have r1 := BoxN.cell (HQ.out _ hB5).2 1 rfl
         have r2 := BoxN.cell (HQ.out _ hB5).2 2 rfl
         have r3 := BoxN.cell (HQ.out _ hB5).2 3 rfl
         have r4 := BoxN.cell (HQ.out _ hB5).2 4 rfl
         have r5 := BoxN.cell (HQ.out _ hB5).2 5 rfl
         have f0 := BoxN.frozen (HQ.out _ hB5).2 0
         have f1 := BoxN.frozen (HQ.out _ hB5).2 1
         have f2 := BoxN.frozen (HQ.out _ hB5).2 2
         have f3 := BoxN.frozen (HQ.out _ hB5).2 3
         have f4 := BoxN.frozen (HQ.out _ hB5).2 4
         have f5 := BoxN.frozen (HQ.out _ hB5).2 5)
      | fail)
    all_goals
      have HF : Hid (SvAt y5 y4.heap.size d n cd X d' n cd' X ea un ec l3 none 0 0 [] ∧ OwnH y5 y1.heap.size pa hn pc hs ∧ Below w.heap.size w y5 ∧ l3.map UE.u = l.map UE.u ∧ SvBeh w.heap.size d d' ea l3 none ∧ SvAp w.heap.size d d' ea l3 none 0 pa hn) := by
        refine ⟨⟨hs5, World.ownsRow_nil _ _ _ _, by simp⟩, (show OwnH y4.drew y1.heap.size pa hn pc hs from HO4.out).below hb5, HB2.out.trans (hB5.mono HB2.out.size), hm5, ⟨y5.heap.size, by have := hB5.size; omega, hs5.inn, fun q e => by cases e⟩, .inr ⟨rfl, rfl, y4.heap.size, by omega, StoAt.above hs5, fun q e => by have := HO3.out.2 q e; omega⟩⟩
      clear hs5 hm5 hb5 hB5 hq5 mq cq dq c0 c1 c2 c3 c4 d0 d1 d2 d3 d4 m0 m1 m2 m3 m4 HQ HX HBd HQd HC4 HQ4 HO4 HO3 HCp HSy HOk HWt HBk
      go_wp2_with fail
      refine bodyPost_ret (v := .tuple #[.agg #[.slice d n cd, .slice d' n cd', .int .i64 ep, .int .i64 nx, .slice ea un ec, .slice none 0 0], .slice pa hn pc]) (by simp [results, Tryz.f8, go_sem, r0, r1, r2, r3, r4, r5]) rfl ?_
      refine ⟨⟨_, _, rfl, ?_⟩, below_set6 HF.out.2.2.1 (by omega) _ _ _ _ _ _⟩
      rw [HRY.out, HRH.out, HRL.out]
      simp only [if_pos, syncY_len HSO.out]
      exact ⟨d, n, cd, d', n, cd', ea, un, ec, l3, none, 0, 0, pa, hn, pc, rfl, rfl, (HF.out.1.set6 (by omega) _ _ _ _ _ _).low (by omega), HF.out.2.2.2.1, (HF.out.2.1.set6 (by omega) _ _ _ _ _ _).low (by omega), fun _ => ⟨HF.out.2.2.2.2.1, HF.out.2.2.2.2.2⟩⟩

end Go.Proofs.YtclkfjlnhcccdaaGreatDoor

namespace Go.Proofs.YtclkfjlnhcccdaaGreatDoor
open Go.RowKit

theorem sz_us {n n' un : Nat} {X Y : List ByteArray} {l : List UE} {w : World} {ua : Option Addr} (h : SzS n X n' Y un l) (hu : UpsI w ua un l) : ∀ u ∈ l.map UE.u, u.zs.length ≤ 1048576 := by
  intro u hm
  obtain ⟨e, he, rfl⟩ := List.mem_map.1 hm
  have h1 := (h.2.2.2.2.2 e he).2
  have h2 := (hu.2.1 e he).2.2.1
  omega

end Go.Proofs.YtclkfjlnhcccdaaGreatDoor

namespace Go.Proofs.YtclkfjlnhcccdaaGreatDoor
open Go.RowKit

theorem sa_sz {n n' un hn : Nat} {X Y : List ByteArray} {l : List UE} {hs : List Hd} {w : World} {ua : Option Addr} {ep nx : Int} (h : SzS n X n' Y un l) (hhn : hn ≤ 1048576) (h0 : X.length = n) (h1 : Y.length = n') (hu : UpsI w ua un l) (hh : hs.length = hn) :
    X.length ≤ 1048576 ∧ (saY X Y ep nx (l.map UE.u) hs).length ≤ 1048576 ∧ (l.map UE.u).length ≤ 1048576 ∧ (∀ u ∈ l.map UE.u, u.zs.length ≤ 1048576) ∧ (saH X Y ep nx (l.map UE.u) hs).length ≤ 1048576 ∧ (saL X Y ep nx (l.map UE.u) hs).length ≤ 1048576 := by
  have a1 := h.1
  have a2 := h.2.1
  have a3 := h.2.2.2.2.1
  refine ⟨by omega, ?_, by rw [List.length_map, hu.1]; exact a3, sz_us h hu, ?_, ?_⟩
  · rw [saY, syncY]; split
    · split <;> omega
    · omega
  · rw [saH]; split
    · simp
    · omega
  · rw [saL]; split
    · omega
    · simp

end Go.Proofs.YtclkfjlnhcccdaaGreatDoor

namespace Go.Proofs.YtclkfjlnhcccdaaGreatDoor
open Go.RowKit Go.ChangeShapes Go.WideShapes
set_option linter.unusedVariables false

theorem Strs.opened {H : Type} {enc : TypeId × Value → H} {w : World} {fuel : Nat} {v : Value} {x : DataW H × List MemPlace} (h : DataW.trod enc Tryz.prog w 0 (fun _ => true) true fuel 22 [v] = some x) :
    ∃ a len cap xs, v = .slice a len cap ∧ len ≤ maxLen ∧ Strs w a len xs := by
  rcases Go.Deep.open_slice1 Tryz.underlying22 (by kernel_rfl) h with ⟨hcs, _⟩ | ⟨a, len, cap, m, n, V, D, Pl, hcs, _, hl, hm, hmm, _, hc⟩
  · simp at hcs
    exact ⟨none, 0, 0, [], hcs, Nat.zero_le _, rfl, by simp, .inl rfl⟩
  · simp at hcs hmm
    subst hmm
    have hs : ∀ i, i < m → ∃ f : ByteArray, V i = .string f ∧ f.size ≤ maxLen := by
      intro i hi
      obtain ⟨_, h0⟩ := hc i hi
      obtain ⟨s, e0, _, z0⟩ := DataW.trod_string Tryz.underlying9 h0
      exact ⟨s, by simpa using e0, z0⟩
    refine ⟨some a, len, m, (List.range len).map fun i => if hi : i < m then Classical.choose (hs i hi) else ⟨#[]⟩, hcs, by omega, by simp, ?_, ?_⟩
    · intro f hf
      obtain ⟨i, hi, rfl⟩ := List.mem_map.1 hf
      have him : i < m := by have := List.mem_range.1 hi; omega
      rw [dif_pos him]
      exact (Classical.choose_spec (hs i him)).2
    · by_cases h0 : len = 0
      · exact .inl h0
      · right
        obtain ⟨b, off, spot⟩ := a
        have hspot : spot = none := by simpa [Addr.add] using World.cell?_spot (hc 0 (by omega)).1
        subst hspot
        have key : ∀ i (hi : i < m), w.cell? ⟨b, off + i, none⟩ = some (.string (Classical.choose (hs i hi))) := by
          intro i hi
          have hq := Classical.choose_spec (hs i hi)
          have hcc := (hc i hi).1
          rw [← hq.1]
          by_cases hi0 : i = 0
          · subst hi0
            simpa [Addr.add] using hcc
          · simpa [Addr.add, hi0] using hcc
        refine ⟨b, off, rfl, lt_of_cell (key 0 (by omega)), fun i hi => ?_⟩
        have hil : i < len := by simpa using hi
        have := key i (by omega)
        simpa [show i < m by omega] using this

set_option maxRecDepth 100000 in
theorem disk_opened {H : Type} {enc : TypeId × Value → H} {w : World} {r : Reach} {b0 : Nat} {v : Value} {d : DataW H} {p : List MemPlace} (hv : Value.okWide Tryz.prog w r b0 24 v) (h : DataW.Trod enc Tryz.prog w 0 (fun _ => true) true 24 v d p) :
    ∃ (a : Option Addr) (n ca : Nat) (xs : List ByteArray) (a' : Option Addr) (n' ca' : Nat) (ys : List ByteArray), v = .agg #[.slice a n ca, .slice a' n' ca'] ∧ n ≤ maxLen ∧ n' ≤ maxLen ∧ Strs w a n xs ∧ Strs w a' n' ys := by
  obtain ⟨v0, v1, y0, y1, m, rfl, _, _, h0, h1⟩ := Go.Joins.open_agg2 Tryz.underlying24 (by kernel_rfl) (by kernel_rfl) hv h
  obtain ⟨a, n, ca, xs, rfl, hl, hx⟩ := Strs.opened h0
  obtain ⟨a', n', ca', ys, rfl, hl', hy⟩ := Strs.opened h1
  exact ⟨a, n, ca, xs, a', n', ca', ys, rfl, hl, hl', hx, hy⟩

end Go.Proofs.YtclkfjlnhcccdaaGreatDoor

namespace Go.Proofs.YtclkfjlnhcccdaaGreatDoor
open Go.RowKit Go.ChangeShapes Go.WideShapes Go.Joins Go.Deep
set_option linter.unusedVariables false

theorem array5 {α : Type} {a : Array α} (h : a.size = 5) : ∃ x0 x1 x2 x3 x4, a = #[x0, x1, x2, x3, x4] := by
  obtain ⟨l⟩ := a
  match l, h with
  | [x0, x1, x2, x3, x4], _ => exact ⟨x0, x1, x2, x3, x4, rfl⟩

set_option maxRecDepth 100000 in
theorem disk_cells {H : Type} {enc : TypeId × Value → H} {w : World} {n : Nat} {v0 v1 : Value} {x : DataW H × List MemPlace} (h : DataW.trod enc Tryz.prog w 0 (fun _ => true) true n 24 [v0, v1] = some x) :
    ∃ (a : Option Addr) (n ca : Nat) (xs : List ByteArray) (a' : Option Addr) (n' ca' : Nat) (ys : List ByteArray), v0 = .slice a n ca ∧ v1 = .slice a' n' ca' ∧ n ≤ maxLen ∧ n' ≤ maxLen ∧ Strs w a n xs ∧ Strs w a' n' ys := by
  obtain ⟨xs, m, _, _, hl, hlen, hg⟩ := DataW.trod_struct Tryz.underlying24 h
  have ks : Tryz.prog.cellsOf 22 = 1 := by kernel_rfl
  match xs, hlen with
  | [y0, y1], _ =>
    have g0 := hg 0 _ rfl
    have g1 := hg 1 _ rfl
    simp [ks] at g0 g1
    obtain ⟨a, n, ca, xs, rfl, hla, hx⟩ := Strs.opened g0
    obtain ⟨a', n', ca', ys, rfl, hl', hy⟩ := Strs.opened g1
    exact ⟨a, n, ca, xs, a', n', ca', ys, rfl, rfl, hla, hl', hx, hy⟩

set_option maxRecDepth 100000 in
theorem store_opened {H : Type} {enc : TypeId × Value → H} {w : World} {r : Reach} {b0 : Nat} {v : Value} {d : DataW H} {p : List MemPlace} (hv : Value.okWide Tryz.prog w r b0 27 v) (h : DataW.Trod enc Tryz.prog w 0 (fun _ => true) true 27 v d p) :
    ∃ (a : Option Addr) (n ca : Nat) (xs : List ByteArray) (a' : Option Addr) (n' ca' : Nat) (ys : List ByteArray) (ep nx : Int) (ua : Option Addr) (un uc : Nat) (l : List UE), v = .agg #[.slice a n ca, .slice a' n' ca', .int .i64 ep, .int .i64 nx, .slice ua un uc] ∧ n ≤ maxLen ∧ n' ≤ maxLen ∧ un ≤ maxLen ∧ Strs w a n xs ∧ Strs w a' n' ys ∧ UpsI w ua un l ∧ (Lit.int .i64 ep).wf = true ∧ (Lit.int .i64 nx).wf = true := by
  have hC : Tryz.prog.cellsOf 27 = 5 := by kernel_rfl
  have kd : Tryz.prog.cellsOf 24 = 2 := by kernel_rfl
  have k3 : Tryz.prog.cellsOf 3 = 1 := by kernel_rfl
  have ku : Tryz.prog.cellsOf 25 = 1 := by kernel_rfl
  obtain ⟨cs, rfl, hsz⟩ := okWide_struct Tryz.underlying27 hv
  obtain ⟨c0, c1, c2, c3, c4, rfl⟩ := array5 (hsz.trans hC)
  obtain ⟨fuel, hf⟩ := h
  obtain ⟨xs, m, _, _, hl, hlen, hg⟩ := DataW.trod_struct Tryz.underlying27 hf
  match xs, hlen with
  | [y0, y1, y2, y3], _ =>
    have g0 := hg 0 _ rfl
    have g1 := hg 1 _ rfl
    have g2 := hg 2 _ rfl
    have g3 := hg 3 _ rfl
    simp [Value.cells, kd, k3, ku] at g0 g1 g2 g3
    obtain ⟨a, n, ca, xs, a', n', ca', ys, rfl, rfl, hla, hl', hx, hy⟩ := disk_cells g0
    obtain ⟨ep, e1, _, w1⟩ := DataW.trod_int Tryz.underlying3 g1
    obtain ⟨nx, e2, _, w2⟩ := DataW.trod_int Tryz.underlying3 g2
    obtain ⟨ua, un, uc, l, e3, hlu, hu⟩ := UpsI.opened g3
    simp only [List.cons.injEq, and_true] at e1 e2
    subst e1 e2 e3
    exact ⟨a, n, ca, xs, a', n', ca', ys, ep, nx, ua, un, uc, l, rfl, hla, hl', hlu, hx, hy, hu, w1, w2⟩

end Go.Proofs.YtclkfjlnhcccdaaGreatDoor
