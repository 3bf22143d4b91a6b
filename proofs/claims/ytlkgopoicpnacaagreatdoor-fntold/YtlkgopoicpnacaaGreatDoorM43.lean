/- What the program's FlushDisk answers. What the program's SyncStore answers. What the program's ServerOk answers. What the program's SyncAll answers. What the program's FallDisk answers. What the program's OpenStore answers of any disk. -/
import Derived.Test.YtlkgopoicpnacaaGreatDoorM32
import Derived.Test.YtlkgopoicpnacaaGreatDoorM33
import Derived.Test.YtlkgopoicpnacaaGreatDoorM42
import Derived.Test.YtlkgopoicpnacaaGreatDoorM17
import Derived.Test.YtlkgopoicpnacaaGreatDoorM06
import Derived.Test.YtlkgopoicpnacaaGreatDoorM18
import Derived.Test.YtlkgopoicpnacaaGreatDoorM18
import Derived.Deep.RegionHeld3
import Derived.Test.YtlkgopoicpnacaaGreatDoorM29
import Derived.Test.YtlkgopoicpnacaaGreatDoorM38
import Derived.Deep.CutBlock
import Derived.WalkMore
import Derived.Test.YtlkgopoicpnacaaGreatDoorM41
import Derived.Test.YtlkgopoicpnacaaGreatDoorM41
import Derived.Test.YtlkgopoicpnacaaGreatDoorM15
import Derived.Test.YtlkgopoicpnacaaGreatDoorM05
import Derived.Test.YtlkgopoicpnacaaGreatDoorM05
import Derived.Test.YtlkgopoicpnacaaGreatDoorM05
namespace Go.Proofs.YtlkgopoicpnacaaGreatDoor
open Go.RowKit
set_option linter.unusedVariables false

set_option maxRecDepth 10000 in
set_option maxHeartbeats 1600000 in
theorem implFlush_any (a : Option Addr) (n ca : Nat) (xs : List ByteArray) (a' : Option Addr) (n' ca' : Nat) (w : World) (h1 : Strs w a n xs) (hn : n ≤ 2097152) :
    Calls Tryz.prog 36 #[.agg #[.slice a n ca, .slice a' n' ca']] w fun e w' => (∃ v, e = .returned v ∧ AnsD w.heap.size xs xs v w') ∧ Below w.heap.size w w' := by
  obtain ⟨W2, hW2⟩ : ∃ W2, (w.alloc (.cells #[.slice a n ca, .slice a' n' ca'] 26)).alloc (.cells #[.slice none 0 0, .slice none 0 0] 26) = W2 := ⟨_, rfl⟩
  have HE : Hid ((w.alloc (.cells #[.slice a n ca, .slice a' n' ca'] 26)).alloc (.cells #[.slice none 0 0, .slice none 0 0] 26) = W2) := hW2
  have HB2 : Hid (Below w.heap.size w W2) := by show Below _ _ _; rw [← hW2]; exact ((Below.refl _ _).alloc (Nat.le_refl _) _).alloc (by simp) _
  have HZ2 : Hid (W2.heap.size = w.heap.size + 2) := by show _ = _; rw [← hW2]; simp
  have HQ1 : Hid (Box2R W2 w.heap.size 26 (.slice a n ca) (.slice a' n' ca')) := by show Box2R _ _ _ _ _; rw [← hW2]; exact (Box2R.new _ _ _ _).alloc _
  have HQ2 : Hid (Box2R W2 (w.heap.size + 1) 26 (.slice none 0 0) (.slice none 0 0)) := by
    show Box2R _ _ _ _ _
    rw [← hW2]
    have := Box2R.new (w.alloc (.cells #[.slice a n ca, .slice a' n' ca'] 26)) 26 (.slice none 0 0) (.slice none 0 0)
    rwa [World.size_alloc] at this
  have HX : Hid (Strs W2 a n xs) := h1.below HB2.out
  have HL : Hid (xs.length = n) := h1.1
  clear hW2 h1
  go_enter Tryz.func36, Tryz.ntmps36
  go_upto_region 1 with fail
  rw [HE.out]
  clear HE
  obtain ⟨c0, c1⟩ := HQ1.out.cells
  go_wp2_with fail
  refine (implDcopy_any a n ca xs a n ca xs _ HX.out HX.out hn hn).mono ?_
  rintro e x3 ⟨⟨v, rfl, A, C, A', C', rfl, o1, o2, hap⟩, hb3⟩
  rw [HL.out] at o1 o2 ⊢
  have hbx := HQ2.out.stays hb3
  obtain ⟨r0, r1⟩ := hbx.cells
  have f0 := hbx.frozen 0
  have f1 := hbx.frozen 1
  have HF : Hid (AnsD w.heap.size xs xs (.agg #[.slice A n C, .slice A' n C']) ((x3.setCell ⟨w.heap.size + 1, 0, none⟩ (.slice A n C)).setCell ⟨w.heap.size + 1, 1, none⟩ (.slice A' n C')) ∧ Below w.heap.size w ((x3.setCell ⟨w.heap.size + 1, 0, none⟩ (.slice A n C)).setCell ⟨w.heap.size + 1, 1, none⟩ (.slice A' n C'))) := by
    have hz := HZ2.out
    have n1 : blkOf (.slice A n C) ≠ some (w.heap.size + 1) := fun e => by have := (o1.lt _ e).1; omega
    have n2 : blkOf (.slice A' n C') ≠ some (w.heap.size + 1) := fun e => by have := (o2.lt _ e).1; omega
    have hbw := HB2.out.trans (hb3.mono HB2.out.size)
    exact ⟨AnsD.mk' HL.out HL.out (((o1.setCell n1 _).setCell n1 _).low (by omega)) (((o2.setCell n2 _).setCell n2 _).low (by omega)) hap, (hbw.setCell (by dsimp only; omega) _).setCell (by dsimp only; omega) _⟩
  clear o1 o2 hap hb3 hbx c0 c1
  go_wp2_with fail
  refine bodyPost_ret (v := .agg #[.slice A n C, .slice A' n C']) (by simp [results, Tryz.f36, go_sem, r0, r1]) rfl ?_
  exact ⟨⟨_, rfl, HF.out.1⟩, HF.out.2⟩

end Go.Proofs.YtlkgopoicpnacaaGreatDoor

namespace Go.Proofs.YtlkgopoicpnacaaGreatDoor
open Go.RowKit
set_option linter.unusedVariables false

set_option maxRecDepth 10000 in
set_option maxHeartbeats 3200000 in
theorem implSync_any (a : Option Addr) (n ca : Nat) (X : List ByteArray) (a' : Option Addr) (n' ca' : Nat) (Y : List ByteArray) (ep nx : Int) (ua : Option Addr) (un uc lo : Nat) (l : List UE) (w : World) (h1 : Strs w a n X) (h2 : Strs w a' n' Y) (hn : n ≤ 1048576) (hn' : n' ≤ 1048576) (hzx : ∀ x ∈ X, x.size ≤ 1048576) (hu : UpRow w lo (.slice ua un uc) l) (hun : un = l.length) (hul : un ≤ 1048576) (hz : ∀ e ∈ l, e.n ≤ 1099511627776) (hsl : SlOk a n ca) (ht : RecT w) (he : ErrN w) :
    Calls Tryz.prog 18 #[.agg #[.slice a n ca, .slice a' n' ca', .int .i64 ep, .int .i64 nx, .slice ua un uc]] w fun e w' => (∃ v, e = .returned v ∧ AnsS w.heap.size X (syncY X Y ep nx (l.map UE.u)) ep nx (l.map UE.u) v w') ∧ Below w.heap.size w w' := by
  obtain ⟨W2, hW2⟩ : ∃ W2, (w.alloc (.cells #[.slice a n ca, .slice a' n' ca', .int .i64 ep, .int .i64 nx, .slice ua un uc] 29)).alloc (.cells #[.slice none 0 0, .slice none 0 0, .int .i64 0, .int .i64 0, .slice none 0 0] 29) = W2 := ⟨_, rfl⟩
  have HE : Hid ((w.alloc (.cells #[.slice a n ca, .slice a' n' ca', .int .i64 ep, .int .i64 nx, .slice ua un uc] 29)).alloc (.cells #[.slice none 0 0, .slice none 0 0, .int .i64 0, .int .i64 0, .slice none 0 0] 29) = W2) := hW2
  have HB2 : Hid (Below w.heap.size w W2) := by show Below _ _ _; rw [← hW2]; exact ((Below.refl _ _).alloc (Nat.le_refl _) _).alloc (by simp) _
  have q1 : BoxN W2 w.heap.size 29 [.slice a n ca, .slice a' n' ca', .int .i64 ep, .int .i64 nx, .slice ua un uc] := by rw [← hW2]; exact (BoxN.new _ _ _).alloc _
  have q2 : BoxN W2 (w.heap.size + 1) 29 [.slice none 0 0, .slice none 0 0, .int .i64 0, .int .i64 0, .slice none 0 0] := by
    rw [← hW2]
    have := BoxN.new (w.alloc (.cells #[.slice a n ca, .slice a' n' ca', .int .i64 ep, .int .i64 nx, .slice ua un uc] 29)) 29 [.slice none 0 0, .slice none 0 0, .int .i64 0, .int .i64 0, .slice none 0 0]
    rwa [World.size_alloc] at this
  have HQ : Hid (∀ W, Below W2.heap.size W2 W → BoxN W w.heap.size 29 [.slice a n ca, .slice a' n' ca', .int .i64 ep, .int .i64 nx, .slice ua un uc] ∧ BoxN W (w.heap.size + 1) 29 [.slice none 0 0, .slice none 0 0, .int .i64 0, .int .i64 0, .slice none 0 0]) := fun W h => ⟨q1.stays h, q2.stays h⟩
  have HX : Hid (∀ W, Below W2.heap.size W2 W → Strs W a n X ∧ Strs W a' n' Y ∧ UpRow W lo (.slice ua un uc) l ∧ RecT W ∧ ErrN W) := fun W h => by
    have hw := HB2.out.trans (h.mono HB2.out.size)
    exact ⟨h1.below hw, h2.below hw, hu.stays hw, ht.below hw, he.below hw⟩
  have HL : Hid (un = l.length ∧ (∀ e ∈ l, e.n ≤ 1099511627776) ∧ ∀ x ∈ X, x.size ≤ 1048576) := ⟨hun, hz, hzx⟩
  have hs2 : w.heap.size + 1 < W2.heap.size := q2.lt
  clear hW2 q1 q2 h1 h2 hu hun hz hzx ht he
  obtain ⟨c0, c1, c2, c3, c4⟩ := (show _ ∧ _ ∧ _ ∧ _ ∧ _ from ⟨(HQ.out _ (Below.refl _ _)).1.cell 0 rfl, (HQ.out _ (Below.refl _ _)).1.cell 1 rfl, (HQ.out _ (Below.refl _ _)).1.cell 2 rfl, (HQ.out _ (Below.refl _ _)).1.cell 3 rfl, (HQ.out _ (Below.refl _ _)).1.cell 4 rfl⟩)
  go_enter Tryz.func18, Tryz.ntmps18
  go_upto_region 1 with fail
  rw [HE.out]
  clear HE
  go_wp2_with fail
  refine (implScopy_any a n ca X a' n' ca' Y ep nx ua un uc lo l W2 (HX.out _ (Below.refl _ _)).1 (HX.out _ (Below.refl _ _)).2.1 hn hn' (HX.out _ (Below.refl _ _)).2.2.1 HL.out.1 hul HL.out.2.1).mono ?_
  rintro e y1 ⟨⟨v, rfl, hv⟩, hb1⟩
  obtain ⟨b, cb, b', cb', va, vc, l', rfl, hs1, hm1⟩ := hv.get
  rw [List.length_map, ← HL.out.1] at hs1 ⊢
  have HA1 : Hid (SAt (y1.alloc (.cells #[.slice b X.length cb, .slice b' Y.length cb', .int .i64 ep, .int .i64 nx, .slice va un vc] 29)) W2.heap.size y1.heap.size b X.length cb X b' Y.length cb' Y ep nx va un vc l') := SAt.new hs1 hb1.size
  have HC1 : Hid (Below W2.heap.size W2 (y1.alloc (.cells #[.slice b X.length cb, .slice b' Y.length cb', .int .i64 ep, .int .i64 nx, .slice va un vc] 29))) := hb1.alloc hb1.size _
  have HM : Hid (l'.map UE.u = l.map UE.u) := hm1
  clear hv hs1 hb1 hm1 c0 c1 c2 c3 c4
  obtain ⟨d0, d1, d2, d3, d4⟩ := (show _ ∧ _ ∧ _ ∧ _ ∧ _ from ⟨(HQ.out _ HC1.out).1.cell 0 rfl, (HQ.out _ HC1.out).1.cell 1 rfl, (HQ.out _ HC1.out).1.cell 2 rfl, (HQ.out _ HC1.out).1.cell 3 rfl, (HQ.out _ HC1.out).1.cell 4 rfl⟩)
  go_wp2_with fail
  obtain ⟨w1, hw1⟩ : ∃ w1, y1.alloc (.cells #[.slice b X.length cb, .slice b' Y.length cb', .int .i64 ep, .int .i64 nx, .slice va un vc] 29) = w1 := ⟨_, rfl⟩
  rw [hw1] at HA1 HC1 ⊢
  clear hw1 d0 d1 d2 d3 d4
  generalize y1.heap.size = bo at *
  refine (implSok_any a n ca X a' n' ca' Y ep nx ua un uc lo l w1 (HX.out _ HC1.out).1 (HX.out _ HC1.out).2.1 hn hn' HL.out.2.2 (HX.out _ HC1.out).2.2.1 HL.out.1 hul hsl (HX.out _ HC1.out).2.2.2.1 (HX.out _ HC1.out).2.2.2.2).mono ?_
  rintro e y2 ⟨rfl, hb2⟩
  obtain ⟨ok, hdb⟩ : ∃ ok, decB (SOk X Y ep nx (l.map UE.u)) = ok := ⟨_, rfl⟩
  rw [hdb]
  have HA2 : Hid (SAt y2 W2.heap.size bo b X.length cb X b' Y.length cb' Y ep nx va un vc l') := HA1.out.stays hb2
  have HC2 : Hid (Below W2.heap.size W2 y2) := HC1.out.trans (hb2.mono HC1.out.size)
  have HSy : Hid (syncY X Y ep nx (l.map UE.u) = if ok = true then X else Y) := by show _ = _; rw [syncY, hdb]
  have hlo : W2.heap.size ≤ bo := HA1.out.lob
  clear hb2 hdb HA1 HC1
  cases ok with
  | false =>
    obtain ⟨r0, r1, r2, r3, r4⟩ := (show _ ∧ _ ∧ _ ∧ _ ∧ _ from ⟨(HQ.out _ HC2.out).2.cell 0 rfl, (HQ.out _ HC2.out).2.cell 1 rfl, (HQ.out _ HC2.out).2.cell 2 rfl, (HQ.out _ HC2.out).2.cell 3 rfl, (HQ.out _ HC2.out).2.cell 4 rfl⟩)
    obtain ⟨o0, o1, o2, o3, o4⟩ := (show _ ∧ _ ∧ _ ∧ _ ∧ _ from ⟨HA2.out.box.cell 0 rfl, HA2.out.box.cell 1 rfl, HA2.out.box.cell 2 rfl, HA2.out.box.cell 3 rfl, HA2.out.box.cell 4 rfl⟩)
    obtain ⟨f0, f1, f2, f3, f4⟩ := (show _ ∧ _ ∧ _ ∧ _ ∧ _ from ⟨(HQ.out _ HC2.out).2.frozen 0, (HQ.out _ HC2.out).2.frozen 1, (HQ.out _ HC2.out).2.frozen 2, (HQ.out _ HC2.out).2.frozen 3, (HQ.out _ HC2.out).2.frozen 4⟩)
    have HBw : Hid (Below w.heap.size w y2) := HB2.out.trans (HC2.out.mono HB2.out.size)
    clear HQ HX HC2
    go_wp2_with fail
    refine bodyPost_ret (v := .agg #[.slice b X.length cb, .slice b' Y.length cb', .int .i64 ep, .int .i64 nx, .slice va un vc]) (by simp [results, Tryz.f18, go_sem, r0, r1, r2, r3, r4]) rfl ?_
    refine ⟨⟨_, rfl, b, X.length, cb, b', Y.length, cb', va, un, vc, l', rfl, ?_, HM.out⟩, ?_⟩
    · rw [HSy.out]
      exact (((((HA2.out.sto.setLow (by omega) _).setLow (by omega) _).setLow (by omega) _).setLow (by omega) _).setLow (by omega) _).low (by omega)
    · exact ((((HBw.out.setCell (by dsimp only; omega) _).setCell (by dsimp only; omega) _).setCell (by dsimp only; omega) _).setCell (by dsimp only; omega) _).setCell (by dsimp only; omega) _
  | true =>
    obtain ⟨d0, d1, d2, d3, d4⟩ := (show _ ∧ _ ∧ _ ∧ _ ∧ _ from ⟨HA2.out.box.cell 0 rfl, HA2.out.box.cell 1 rfl, HA2.out.box.cell 2 rfl, HA2.out.box.cell 3 rfl, HA2.out.box.cell 4 rfl⟩)
    have hXn : X.length ≤ 1048576 := by have := (HX.out _ HC2.out).1.1; omega
    go_wp2_with fail
    refine (implFlush_any b X.length cb X b' Y.length cb' y2 HA2.out.sto.now.strs (by omega)).mono ?_
    rintro e y3 ⟨⟨v3, rfl, A, C, A', C', rfl, ow, ow', hap⟩, hb3⟩
    have HA3 : Hid (SAt y3 W2.heap.size bo b X.length cb X b' Y.length cb' Y ep nx va un vc l') := HA2.out.stays hb3
    have HC3 : Hid (Below W2.heap.size W2 y3) := HC2.out.trans (hb3.mono HC2.out.size)
    have hbo : bo < y2.heap.size := HA2.out.box.lt
    have hlo2 : w.heap.size + 2 ≤ W2.heap.size := by omega
    have ho := HA3.out.box
    obtain ⟨o0, o1, o2, o3, o4⟩ := (show _ ∧ _ ∧ _ ∧ _ ∧ _ from ⟨ho.cell 0 rfl, ho.cell 1 rfl, ho.cell 2 rfl, ho.cell 3 rfl, ho.cell 4 rfl⟩)
    have z0 := ho.frozen 0
    have z1 := ho.frozen 1
    obtain ⟨x4, hx4⟩ : ∃ x4, (y3.setCell ⟨bo, 0, none⟩ (.slice A X.length C)).setCell ⟨bo, 1, none⟩ (.slice A' X.length C') = x4 := ⟨_, rfl⟩
    have HE4 : Hid ((y3.setCell ⟨bo, 0, none⟩ (.slice A X.length C)).setCell ⟨bo, 1, none⟩ (.slice A' X.length C') = x4) := hx4
    have HO4 : Hid (BoxN x4 bo 29 [.slice A X.length C, .slice A' X.length C', .int .i64 ep, .int .i64 nx, .slice va un vc]) := by
      show BoxN _ _ _ _
      rw [← hx4]
      exact (ho.set 0 _).set 1 _
    have HR4 : Hid (BoxN x4 (w.heap.size + 1) 29 [.slice none 0 0, .slice none 0 0, .int .i64 0, .int .i64 0, .slice none 0 0]) := by
      show BoxN _ _ _ _
      rw [← hx4]
      exact ((HQ.out _ HC3.out).2.other (by omega) _).other (by omega) _
    have hba : ∀ q, A.map (·.block) = some q → y2.heap.size ≤ q := fun q e => (ow.lt q (by rw [blk_own]; exact e)).1
    have hba' : ∀ q, A'.map (·.block) = some q → y2.heap.size ≤ q := fun q e => (ow'.lt q (by rw [blk_own]; exact e)).1
    have hn1 : blkOf (.slice A X.length C) ≠ some bo := fun e => by have := hba _ (by rw [← blk_own A X.length C]; exact e); omega
    have hn2 : blkOf (.slice A' X.length C') ≠ some bo := fun e => by have := hba' _ (by rw [← blk_own A' X.length C']; exact e); omega
    have hy2 : W2.heap.size ≤ y2.heap.size := HC2.out.size
    have HS4 : Hid (StoAt x4 (w.heap.size + 2) A X.length C X A' X.length C' X va un vc l') := by
      have hin := HA3.out.inn
      refine ⟨?_, ?_, hap, ?_, HA3.out.sto.len⟩
      · rw [← hx4]; exact ((ow.setCell hn1 _).setCell hn1 _).low (by omega)
      · rw [← hx4]; exact ((ow'.setCell hn2 _).setCell hn2 _).low (by omega)
      · rw [← hx4]
        have g1 : ∀ q, some bo = some q → (Value.slice va un vc).ownBlock ≠ some q := fun q hq hq2 => by injection hq with hq; have := hin.2.2.1 q (by rw [← ownBlock_sU va un vc]; exact hq2); omega
        have g2 : ∀ e ∈ l', ∀ q, some bo = some q → e.a.map (·.block) ≠ some q := fun e he q hq hq2 => by injection hq with hq; have := hin.2.2.2 e he q hq2; omega
        exact (((HA3.out.sto.ups.grown (grownBy_setU _ bo 0 _) g1 g2).grown (grownBy_setU _ bo 1 _) g1 g2)).low (by omega)
    have HB4 : Hid (Below w.heap.size w x4) := by
      show Below _ _ _
      rw [← hx4]
      exact ((HB2.out.trans (HC3.out.mono HB2.out.size)).setCell (by dsimp only; omega) _).setCell (by dsimp only; omega) _
    clear hx4 ow ow' hap hb3 ho hba hba' hn1 hn2 HA2 HA3 HC2 HC3 HQ HX d0 d1 d2 d3 d4
    go_upto_region 4 with fail
    rw [HE4.out]
    clear HE4 z0 z1 o0 o1 o2 o3 o4
    obtain ⟨o0, o1, o2, o3, o4⟩ := (show _ ∧ _ ∧ _ ∧ _ ∧ _ from ⟨HO4.out.cell 0 rfl, HO4.out.cell 1 rfl, HO4.out.cell 2 rfl, HO4.out.cell 3 rfl, HO4.out.cell 4 rfl⟩)
    obtain ⟨r0, r1, r2, r3, r4⟩ := (show _ ∧ _ ∧ _ ∧ _ ∧ _ from ⟨HR4.out.cell 0 rfl, HR4.out.cell 1 rfl, HR4.out.cell 2 rfl, HR4.out.cell 3 rfl, HR4.out.cell 4 rfl⟩)
    obtain ⟨f0, f1, f2, f3, f4⟩ := (show _ ∧ _ ∧ _ ∧ _ ∧ _ from ⟨HR4.out.frozen 0, HR4.out.frozen 1, HR4.out.frozen 2, HR4.out.frozen 3, HR4.out.frozen 4⟩)
    clear HO4 HR4
    go_wp2_with fail
    refine bodyPost_ret (v := .agg #[.slice A X.length C, .slice A' X.length C', .int .i64 ep, .int .i64 nx, .slice va un vc]) (by simp [results, Tryz.f18, go_sem, r0, r1, r2, r3, r4]) rfl ?_
    refine ⟨⟨_, rfl, A, X.length, C, A', X.length, C', va, un, vc, l', rfl, ?_, HM.out⟩, ?_⟩
    · rw [HSy.out]
      exact (((((HS4.out.setLow (by omega) _).setLow (by omega) _).setLow (by omega) _).setLow (by omega) _).setLow (by omega) _).low (by omega)
    · exact ((((HB4.out.setCell (by dsimp only; omega) _).setCell (by dsimp only; omega) _).setCell (by dsimp only; omega) _).setCell (by dsimp only; omega) _).setCell (by dsimp only; omega) _

end Go.Proofs.YtlkgopoicpnacaaGreatDoor

namespace Go.Proofs.YtlkgopoicpnacaaGreatDoor
open Go.RowKit
set_option linter.unusedVariables false

set_option maxRecDepth 10000 in
set_option maxHeartbeats 3200000 in
theorem implSvok_any (a : Option Addr) (n ca : Nat) (X : List ByteArray) (a' : Option Addr) (n' ca' : Nat) (Y : List ByteArray) (ep nx : Int) (ua : Option Addr) (un uc lo : Nat) (l : List UE) (ha : Option Addr) (hn hc : Nat) (hs : List Hd) (w : World) (h1 : Strs w a n X) (h2 : Strs w a' n' Y) (hln : n ≤ 1048576) (hln' : n' ≤ 1048576) (hz : ∀ x ∈ X, x.size ≤ 1048576) (hu : UpRow w lo (.slice ua un uc) l) (hun : un = l.length) (hul : un ≤ 1048576) (hh : Helds w ha hn hs) (hhl : hn ≤ 1099511627776) (hsl : SlOk a n ca) (ht : RecT w) (he : ErrN w) :
    Calls Tryz.prog 10 #[.agg #[.slice a n ca, .slice a' n' ca', .int .i64 ep, .int .i64 nx, .slice ua un uc, .slice ha hn hc]] w fun e w' => e = .returned (.bool (svB X Y ep nx (l.map UE.u) hs)) ∧ Below w.heap.size w w' := by
  obtain ⟨w0, hw0⟩ : ∃ w0, w.alloc (.cells #[.slice a n ca, .slice a' n' ca', .int .i64 ep, .int .i64 nx, .slice ua un uc, .slice ha hn hc] 32) = w0 := ⟨_, rfl⟩
  have HE : Hid (w.alloc (.cells #[.slice a n ca, .slice a' n' ca', .int .i64 ep, .int .i64 nx, .slice ua un uc, .slice ha hn hc] 32) = w0) := hw0
  have hB : Below w.heap.size w w0 := by rw [← hw0]; exact (Below.refl _ _).alloc (Nat.le_refl _) _
  have hQ : BoxN w0 w.heap.size 32 [.slice a n ca, .slice a' n' ca', .int .i64 ep, .int .i64 nx, .slice ua un uc, .slice ha hn hc] := by rw [← hw0]; exact BoxN.new _ _ _
  have HX : Hid (∀ W, Below w0.heap.size w0 W → BoxN W w.heap.size 32 [.slice a n ca, .slice a' n' ca', .int .i64 ep, .int .i64 nx, .slice ua un uc, .slice ha hn hc] ∧ Strs W a n X ∧ Strs W a' n' Y ∧ UpRow W lo (.slice ua un uc) l ∧ Below w.heap.size w W ∧ Helds W ha hn hs ∧ RecT W ∧ ErrN W) := fun W hb => by
    have hw : Below w.heap.size w W := hB.trans (hb.mono hB.size)
    exact ⟨hQ.stays hb, h1.below hw, h2.below hw, hu.stays hw, hw, hh.below hw, ht.below hw, he.below hw⟩
  have HL : Hid (un = l.length ∧ (∀ x ∈ X, x.size ≤ 1048576) ∧ hs.length = hn) := ⟨hun, hz, hh.1⟩
  have HA0 : Hid (Below w0.heap.size w0 w0) := Below.refl _ _
  clear hw0 h1 h2 hu hun hz hB hQ hh ht he
  have c5 := BoxN.cell (HX.out _ HA0.out).1 5 rfl
  go_enter Tryz.func10, Tryz.ntmps10
  go_upto_region 1 with fail
  rw [HE.out]
  clear HE
  by_cases h200 : (hn : Int) ≤ 200
  case neg =>
    have hd : decide ((hn : Int) ≤ 200) = false := by simpa using h200
    have HF : Hid (svB X Y ep nx (l.map UE.u) hs = false) := svB_many (by rw [HL.out.2.2]; exact h200)
    have HBw : Hid (Below w.heap.size w w0) := (HX.out _ HA0.out).2.2.2.2.1
    clear HX HA0 h200
    go_wp2_with fail
    go_ret
    exact ⟨by rw [HF.out]; rfl, HBw.out⟩
  have hd : decide ((hn : Int) ≤ 200) = true := by simpa using h200
  have H200 : Hid ((hs.length : Int) ≤ 200) := by show _ ≤ _; rw [HL.out.2.2]; exact h200
  clear h200
  go_wp2_with fail
  refine (implAnyHd_any ha hn hc hs w0 (HX.out _ HA0.out).2.2.2.2.2.1 hhl).mono ?_
  rintro e w1 ⟨rfl, hb1⟩
  have HB1 : Hid (Below w0.heap.size w0 w1) := hb1
  obtain ⟨c0, c1, c2, c3, c4⟩ := (show _ ∧ _ ∧ _ ∧ _ ∧ _ from ⟨BoxN.cell (HX.out _ HB1.out).1 0 rfl, BoxN.cell (HX.out _ HB1.out).1 1 rfl, BoxN.cell (HX.out _ HB1.out).1 2 rfl, BoxN.cell (HX.out _ HB1.out).1 3 rfl, BoxN.cell (HX.out _ HB1.out).1 4 rfl⟩)
  clear hb1 c5
  cases hany : anyH hs
  case true =>
    have HF : Hid (svB X Y ep nx (l.map UE.u) hs = false) := svB_any hany
    have HBw : Hid (Below w.heap.size w w1) := (HX.out _ HB1.out).2.2.2.2.1
    clear HX HA0 HB1 hany H200
    go_wp2_with fail
    go_ret
    exact ⟨by rw [HF.out]; rfl, HBw.out⟩
  have HF : Hid (svB X Y ep nx (l.map UE.u) hs = decB (SOk X Y ep nx (l.map UE.u))) := svB_sto hany H200.out
  clear hany H200
  go_wp2_with fail
  refine (implSok_any a n ca X a' n' ca' Y ep nx ua un uc lo l w1 (HX.out _ HB1.out).2.1 (HX.out _ HB1.out).2.2.1 hln hln' HL.out.2.1 (HX.out _ HB1.out).2.2.2.1 HL.out.1 hul hsl (HX.out _ HB1.out).2.2.2.2.2.2.1 (HX.out _ HB1.out).2.2.2.2.2.2.2).mono ?_
  rintro e w2 ⟨rfl, hb2⟩
  have HBw : Hid (Below w.heap.size w w2) := (HX.out _ (HB1.out.trans (hb2.mono HB1.out.size))).2.2.2.2.1
  obtain ⟨q, hq⟩ : ∃ q, decB (SOk X Y ep nx (l.map UE.u)) = q := ⟨_, rfl⟩
  have HD : Hid (svB X Y ep nx (l.map UE.u) hs = q) := HF.out.trans hq
  rw [hq]
  clear hb2 hq HF HX HB1 HA0 c0 c1 c2 c3 c4
  go_wp2_with fail
  go_ret
  exact ⟨by rw [HD.out]; rfl, HBw.out⟩

end Go.Proofs.YtlkgopoicpnacaaGreatDoor

namespace Go.Proofs.YtlkgopoicpnacaaGreatDoor
open Go.RowKit
set_option linter.unusedVariables false

set_option maxRecDepth 10000 in
set_option maxHeartbeats 1600000 in
theorem waitingAt_any (v0 v1 v4 : Value) (ep nx : Int) (ha : Option Addr) (hn hc : Nat) (hs : List Hd) (w : World) (hh : Helds w ha hn hs) (hhl : hn ≤ 1048576) :
    Calls Tryz.prog 16 #[.agg #[v0, v1, .int .i64 ep, .int .i64 nx, v4, .slice ha hn hc]] w fun e w' => (∃ a' c', e = .returned (.slice a' hn c') ∧ OwnH w' w.heap.size a' hn c' hs) ∧ Below w.heap.size w w' := by
  obtain ⟨w0, hw0⟩ : ∃ w0, w.alloc (.cells #[v0, v1, .int .i64 ep, .int .i64 nx, v4, .slice ha hn hc] 32) = w0 := ⟨_, rfl⟩
  have HE : Hid (w.alloc (.cells #[v0, v1, .int .i64 ep, .int .i64 nx, v4, .slice ha hn hc] 32) = w0) := hw0
  have hB : Below w.heap.size w w0 := by rw [← hw0]; exact (Below.refl _ _).alloc (Nat.le_refl _) _
  have hQ : BoxN w0 w.heap.size 32 [v0, v1, .int .i64 ep, .int .i64 nx, v4, .slice ha hn hc] := by rw [← hw0]; exact BoxN.new _ _ _
  have HB : Hid (Below w.heap.size w w0) := hB
  have HH : Hid (Helds w0 ha hn hs) := hh.below hB
  have c5 := BoxN.cell hQ 5 rfl
  clear hw0 hB hQ hh
  go_enter Tryz.func16, Tryz.ntmps16
  go_upto_region 1 with fail
  rw [HE.out]
  clear HE
  go_wp2_with fail
  refine (cloneH_any ha hn hc hs w0 HH.out hhl).mono ?_
  rintro e w1 ⟨a1, k1, rfl, ho1, hb1⟩
  have HF : Hid (OwnH w1 w0.heap.size a1 hn k1 hs ∧ Below w.heap.size w w1 ∧ w.heap.size ≤ w0.heap.size) := ⟨ho1, HB.out.trans (hb1.mono HB.out.size), HB.out.size⟩
  clear ho1 hb1 c5
  go_wp2_with fail
  go_ret
  exact ⟨⟨a1, k1, rfl, HF.out.1.low HF.out.2.2⟩, HF.out.2.1⟩

set_option maxRecDepth 10000 in
set_option maxHeartbeats 800000 in
theorem leaveH_any (b : Nat) (a : Option Addr) (n c : Nat) (w : World) (h : BoxN w b 48 [.slice a n c]) :
    Calls Tryz.prog 17 #[.pointer (some ⟨b, 0, none⟩)] w fun e w' => e = .returned (.slice a n c) ∧ BoxN w' b 48 [.slice none 0 0] ∧ w.grownBy w' (some b) := by
  have HF : Hid (BoxN (w.setCell ⟨b, 0, none⟩ (.slice none 0 0)) b 48 [.slice none 0 0] ∧ w.grownBy (w.setCell ⟨b, 0, none⟩ (.slice none 0 0)) (some b)) := ⟨h.set 0 _, grownBy_setU w b 0 _⟩
  have c0 := BoxN.cell h 0 rfl
  have f0 := BoxN.frozen h 0
  clear h
  go_enter Tryz.func17, Tryz.ntmps17
  go_wp2_with fail
  go_ret
  exact ⟨rfl, HF.out⟩

set_option maxRecDepth 10000 in
set_option maxHeartbeats 6400000 in
theorem implSyncAll_any (a : Option Addr) (n ca : Nat) (X : List ByteArray) (a' : Option Addr) (n' ca' : Nat) (Y : List ByteArray) (ep nx : Int) (ua : Option Addr) (un uc lo : Nat) (l : List UE) (ha : Option Addr) (hn hc : Nat) (hs : List Hd) (w : World) (h1 : Strs w a n X) (h2 : Strs w a' n' Y) (hln : n ≤ 1048576) (hln' : n' ≤ 1048576) (hzx : ∀ x ∈ X, x.size ≤ 1048576) (hu : UpRow w lo (.slice ua un uc) l) (hun : un = l.length) (hul : un ≤ 1048576) (hz : ∀ e ∈ l, e.n ≤ 1099511627776) (hh : Helds w ha hn hs) (hhl : hn ≤ 1048576) (hsl : SlOk a n ca) (ht : RecT w) (he : ErrN w) :
    Calls Tryz.prog 6 #[.agg #[.slice a n ca, .slice a' n' ca', .int .i64 ep, .int .i64 nx, .slice ua un uc, .slice ha hn hc]] w fun e w' => (∃ v u, e = .returned (.tuple #[v, u]) ∧ AnsVL true w.heap.size X (saY X Y ep nx (l.map UE.u) hs) ep nx (l.map UE.u) (saH X Y ep nx (l.map UE.u) hs) (saL X Y ep nx (l.map UE.u) hs) v u w') ∧ Below w.heap.size w w' := by
  obtain ⟨W2, hW2⟩ : ∃ W2, (w.alloc (.cells #[.slice a n ca, .slice a' n' ca', .int .i64 ep, .int .i64 nx, .slice ua un uc, .slice ha hn hc] 32)).alloc (.cells #[.slice none 0 0, .slice none 0 0, .int .i64 0, .int .i64 0, .slice none 0 0, .slice none 0 0] 32) = W2 := ⟨_, rfl⟩
  have HE : Hid ((w.alloc (.cells #[.slice a n ca, .slice a' n' ca', .int .i64 ep, .int .i64 nx, .slice ua un uc, .slice ha hn hc] 32)).alloc (.cells #[.slice none 0 0, .slice none 0 0, .int .i64 0, .int .i64 0, .slice none 0 0, .slice none 0 0] 32) = W2) := hW2
  have HB2 : Hid (Below w.heap.size w W2) := by show Below _ _ _; rw [← hW2]; exact ((Below.refl _ _).alloc (Nat.le_refl _) _).alloc (by simp) _
  have HZ2 : Hid (W2.heap.size = w.heap.size + 2) := by show _ = _; rw [← hW2]; simp
  have q1 : BoxN W2 w.heap.size 32 [.slice a n ca, .slice a' n' ca', .int .i64 ep, .int .i64 nx, .slice ua un uc, .slice ha hn hc] := by rw [← hW2]; exact (BoxN.new _ _ _).alloc _
  have q2 : BoxN W2 (w.heap.size + 1) 32 [.slice none 0 0, .slice none 0 0, .int .i64 0, .int .i64 0, .slice none 0 0, .slice none 0 0] := by
    rw [← hW2]
    have := BoxN.new (w.alloc (.cells #[.slice a n ca, .slice a' n' ca', .int .i64 ep, .int .i64 nx, .slice ua un uc, .slice ha hn hc] 32)) 32 [.slice none 0 0, .slice none 0 0, .int .i64 0, .int .i64 0, .slice none 0 0, .slice none 0 0]
    rwa [World.size_alloc] at this
  have HQ : Hid (∀ W, Below W2.heap.size W2 W → BoxN W w.heap.size 32 [.slice a n ca, .slice a' n' ca', .int .i64 ep, .int .i64 nx, .slice ua un uc, .slice ha hn hc] ∧ BoxN W (w.heap.size + 1) 32 [.slice none 0 0, .slice none 0 0, .int .i64 0, .int .i64 0, .slice none 0 0, .slice none 0 0]) := fun W h => ⟨q1.stays h, q2.stays h⟩
  have HX : Hid (∀ W, Below W2.heap.size W2 W → Strs W a n X ∧ Strs W a' n' Y ∧ UpRow W lo (.slice ua un uc) l ∧ Helds W ha hn hs ∧ RecT W ∧ ErrN W) := fun W h => by
    have hw := HB2.out.trans (h.mono HB2.out.size)
    exact ⟨h1.below hw, h2.below hw, hu.stays hw, hh.below hw, ht.below hw, he.below hw⟩
  have HL : Hid (un = l.length ∧ (∀ e ∈ l, e.n ≤ 1099511627776) ∧ hs.length = hn ∧ (∀ s ∈ hs, hd64 s) ∧ X.length = n ∧ Y.length = n' ∧ ∀ x ∈ X, x.size ≤ 1048576) := ⟨hun, hz, hh.1, hh.2.1, h1.1, h2.1, hzx⟩
  have HA0 : Hid (Below W2.heap.size W2 W2) := Below.refl _ _
  have hs2 : w.heap.size + 1 < W2.heap.size := q2.lt
  have hne : w.heap.size ≠ w.heap.size + 1 := by omega
  clear hW2 q1 q2 h1 h2 hu hun hz hh hzx ht he
  have HCp : Hid (∀ W, Below W2.heap.size W2 W → Calls Tryz.prog 15 #[.agg #[.slice a n ca, .slice a' n' ca', .int .i64 ep, .int .i64 nx, .slice ua un uc, .slice ha hn hc]] W fun e w' => (∃ b cb b' cb' va vc l' pa pc, e = .returned (.agg #[.slice b n cb, .slice b' n' cb', .int .i64 ep, .int .i64 nx, .slice va un vc, .slice pa hn pc]) ∧ SvAt w' W.heap.size b n cb X b' n' cb' Y va un vc l' pa hn pc hs ∧ l'.map UE.u = l.map UE.u ∧ SvBeh W.heap.size b b' va l' pa) ∧ Below W.heap.size W w') := fun W hb => by
    refine (implVcopy_any a n ca X a' n' ca' Y ep nx ua un uc lo l ha hn hc hs W (HX.out _ hb).1 (HX.out _ hb).2.1 hln hln' (HX.out _ hb).2.2.1 HL.out.1 hul HL.out.2.1 (HX.out _ hb).2.2.2.1 hhl).mono ?_
    rintro e y1 ⟨⟨v1, rfl, hv1⟩, hb1⟩
    obtain ⟨b, cb, b', cb', va, vc, l', pa, pc, rfl, hs1, hm1, hk1⟩ := hv1.get
    rw [List.length_map, ← HL.out.1, HL.out.2.2.2.2.1, HL.out.2.2.2.2.2.1, HL.out.2.2.1] at hs1 ⊢
    exact ⟨⟨b, cb, b', cb', va, vc, l', pa, pc, rfl, hs1, hm1, hk1 rfl⟩, hb1⟩
  have HSy : Hid (∀ W, Below W2.heap.size W2 W → SOk X Y ep nx (l.map UE.u) → Calls Tryz.prog 18 #[.agg #[.slice a n ca, .slice a' n' ca', .int .i64 ep, .int .i64 nx, .slice ua un uc]] W fun e w' => (∃ b cb b' cb' va vc l', e = .returned (.agg #[.slice b n cb, .slice b' n cb', .int .i64 ep, .int .i64 nx, .slice va un vc]) ∧ StoAt w' W.heap.size b n cb X b' n cb' X va un vc l' ∧ l'.map UE.u = l.map UE.u) ∧ Below W.heap.size W w') := fun W hb hok => by
    refine (implSync_any a n ca X a' n' ca' Y ep nx ua un uc lo l W (HX.out _ hb).1 (HX.out _ hb).2.1 hln hln' HL.out.2.2.2.2.2.2 (HX.out _ hb).2.2.1 HL.out.1 hul HL.out.2.1 hsl (HX.out _ hb).2.2.2.2.1 (HX.out _ hb).2.2.2.2.2).mono ?_
    rintro e y1 ⟨⟨v1, rfl, hv1⟩, hb1⟩
    rw [syncY_len hok] at hv1
    obtain ⟨b, cb, b', cb', va, vc, l', rfl, hs1, hm1⟩ := hv1.get
    rw [List.length_map, ← HL.out.1, HL.out.2.2.2.2.1] at hs1 ⊢
    exact ⟨⟨b, cb, b', cb', va, vc, l', rfl, hs1, hm1⟩, hb1⟩
  have HOk : Hid (∀ W, Below W2.heap.size W2 W → Calls Tryz.prog 10 #[.agg #[.slice a n ca, .slice a' n' ca', .int .i64 ep, .int .i64 nx, .slice ua un uc, .slice ha hn hc]] W fun e w' => e = .returned (.bool (svB X Y ep nx (l.map UE.u) hs)) ∧ Below W.heap.size W w') := fun W hb =>
    implSvok_any a n ca X a' n' ca' Y ep nx ua un uc lo l ha hn hc hs W (HX.out _ hb).1 (HX.out _ hb).2.1 hln hln' HL.out.2.2.2.2.2.2 (HX.out _ hb).2.2.1 HL.out.1 hul (HX.out _ hb).2.2.2.1 (by omega) hsl (HX.out _ hb).2.2.2.2.1 (HX.out _ hb).2.2.2.2.2
  have HWt : Hid (∀ W, Below W2.heap.size W2 W → Calls Tryz.prog 16 #[.agg #[.slice a n ca, .slice a' n' ca', .int .i64 ep, .int .i64 nx, .slice ua un uc, .slice ha hn hc]] W fun e w' => (∃ a' c', e = .returned (.slice a' hn c') ∧ OwnH w' W.heap.size a' hn c' hs) ∧ Below W.heap.size W w') := fun W hb =>
    waitingAt_any (.slice a n ca) (.slice a' n' ca') (.slice ua un uc) ep nx ha hn hc hs W (HX.out _ hb).2.2.2.1 hhl
  have HBk : Hid (svB X Y ep nx (l.map UE.u) hs = true → SOk X Y ep nx (l.map UE.u)) := svB_sok
  have HRY : Hid (saY X Y ep nx (l.map UE.u) hs = if svB X Y ep nx (l.map UE.u) hs = true then syncY X Y ep nx (l.map UE.u) else Y) := rfl
  have HRH : Hid (saH X Y ep nx (l.map UE.u) hs = if svB X Y ep nx (l.map UE.u) hs = true then [] else hs) := rfl
  have HRL : Hid (saL X Y ep nx (l.map UE.u) hs = if svB X Y ep nx (l.map UE.u) hs = true then hs else []) := rfl
  generalize saY X Y ep nx (l.map UE.u) hs = RY at *
  generalize saH X Y ep nx (l.map UE.u) hs = RH at *
  generalize saL X Y ep nx (l.map UE.u) hs = RL at *
  obtain ⟨ok, hok⟩ : ∃ ok, svB X Y ep nx (l.map UE.u) hs = ok := ⟨_, rfl⟩
  rw [hok] at HOk HBk HRY HRH HRL
  clear hok hsl
  obtain ⟨c0, c1, c2, c3, c4, c5⟩ := (show _ ∧ _ ∧ _ ∧ _ ∧ _ ∧ _ from ⟨BoxN.cell (HQ.out _ HA0.out).1 0 rfl, BoxN.cell (HQ.out _ HA0.out).1 1 rfl, BoxN.cell (HQ.out _ HA0.out).1 2 rfl, BoxN.cell (HQ.out _ HA0.out).1 3 rfl, BoxN.cell (HQ.out _ HA0.out).1 4 rfl, BoxN.cell (HQ.out _ HA0.out).1 5 rfl⟩)
  go_enter Tryz.func6, Tryz.ntmps6
  go_upto_region 1 with fail
  rw [HE.out]
  clear HE
  go_wp2_with fail
  refine (HOk.out _ HA0.out).mono ?_
  rintro e y1 ⟨rfl, hb1⟩
  have HC1 : Hid (Below W2.heap.size W2 y1) := hb1
  clear hb1 c0 c1 c2 c3 c4 c5
  obtain ⟨c0, c1, c2, c3, c4, c5⟩ := (show _ ∧ _ ∧ _ ∧ _ ∧ _ ∧ _ from ⟨BoxN.cell (HQ.out _ HC1.out).1 0 rfl, BoxN.cell (HQ.out _ HC1.out).1 1 rfl, BoxN.cell (HQ.out _ HC1.out).1 2 rfl, BoxN.cell (HQ.out _ HC1.out).1 3 rfl, BoxN.cell (HQ.out _ HC1.out).1 4 rfl, BoxN.cell (HQ.out _ HC1.out).1 5 rfl⟩)
  cases ok with
  | false =>
    go_wp2_with fail
    refine (HCp.out _ HC1.out).mono ?_
    rintro e y2 ⟨⟨b, cb, b', cb', va, vc, l', pa, pc, rfl, hs1, hm1, hk1⟩, hb2⟩
    have HC2 : Hid (Below W2.heap.size W2 y2) := HC1.out.trans (hb2.mono HC1.out.size)
    have HSV : Hid (SvAt y2 y1.heap.size b n cb X b' n' cb' Y va un vc l' pa hn pc hs ∧ l'.map UE.u = l.map UE.u ∧ SvBeh y1.heap.size b b' va l' pa) := ⟨hs1, hm1, hk1⟩
    have HBw : Hid (Below w.heap.size w y2) := HB2.out.trans (HC2.out.mono HB2.out.size)
    have hs3 : w.heap.size + 1 < y1.heap.size := by have := HC1.out.size; omega
    obtain ⟨r0, r1, r2, r3, r4, r5⟩ := (show _ ∧ _ ∧ _ ∧ _ ∧ _ ∧ _ from ⟨BoxN.cell (HQ.out _ HC2.out).2 0 rfl, BoxN.cell (HQ.out _ HC2.out).2 1 rfl, BoxN.cell (HQ.out _ HC2.out).2 2 rfl, BoxN.cell (HQ.out _ HC2.out).2 3 rfl, BoxN.cell (HQ.out _ HC2.out).2 4 rfl, BoxN.cell (HQ.out _ HC2.out).2 5 rfl⟩)
    obtain ⟨f0, f1, f2, f3, f4, f5⟩ := (show _ ∧ _ ∧ _ ∧ _ ∧ _ ∧ _ from ⟨BoxN.frozen (HQ.out _ HC2.out).2 0, BoxN.frozen (HQ.out _ HC2.out).2 1, BoxN.frozen (HQ.out _ HC2.out).2 2, BoxN.frozen (HQ.out _ HC2.out).2 3, BoxN.frozen (HQ.out _ HC2.out).2 4, BoxN.frozen (HQ.out _ HC2.out).2 5⟩)
    obtain ⟨W8, hW8⟩ : ∃ W8, ((((((y2).setCell ⟨w.heap.size + 1, 0, none⟩ (.slice b n cb)).setCell ⟨w.heap.size + 1, 1, none⟩ (.slice b' n' cb')).setCell ⟨w.heap.size + 1, 2, none⟩ (.int .i64 ep)).setCell ⟨w.heap.size + 1, 3, none⟩ (.int .i64 nx)).setCell ⟨w.heap.size + 1, 4, none⟩ (.slice va un vc)).setCell ⟨w.heap.size + 1, 5, none⟩ (.slice pa hn pc) = W8 := ⟨_, rfl⟩
    have HB8 : Hid (Below w.heap.size w W8) := by show Below _ _ _; rw [← hW8]; exact below_set6 HBw.out (by omega) _ _ _ _ _ _
    have HS8 : Hid (SvAt W8 y1.heap.size b n cb X b' n' cb' Y va un vc l' pa hn pc hs) := by show SvAt _ _ _ _ _ _ _ _ _ _ _ _ _ _ _ _ _ _; rw [← hW8]; exact HSV.out.1.set6 (by omega) _ _ _ _ _ _
    have HR8 : Hid (BoxN W8 (w.heap.size + 1) 32 [.slice b n cb, .slice b' n' cb', .int .i64 ep, .int .i64 nx, .slice va un vc, .slice pa hn pc]) := by show BoxN _ _ _ _; rw [← hW8]; exact BoxN.set6 (HQ.out _ HC2.out).2 _ _ _ _ _ _
    have HZ8 : Hid (W8.heap.size = y2.heap.size) := by show _ = _; rw [← hW8]; simp
    have hyz : w.heap.size + 1 < y2.heap.size := by have := hb2.size; omega
    have q9 : BoxN (y2.alloc (.cells #[] 54)) (w.heap.size + 1) 32 [.slice none 0 0, .slice none 0 0, .int .i64 0, .int .i64 0, .slice none 0 0, .slice none 0 0] := (HQ.out _ HC2.out).2.alloc _
    obtain ⟨u0, u1, u2, u3, u4, u5⟩ := (show _ ∧ _ ∧ _ ∧ _ ∧ _ ∧ _ from ⟨BoxN.cell q9 0 rfl, BoxN.cell q9 1 rfl, BoxN.cell q9 2 rfl, BoxN.cell q9 3 rfl, BoxN.cell q9 4 rfl, BoxN.cell q9 5 rfl⟩)
    obtain ⟨z0, z1, z2, z3, z4, z5⟩ := (show _ ∧ _ ∧ _ ∧ _ ∧ _ ∧ _ from ⟨BoxN.frozen q9 0, BoxN.frozen q9 1, BoxN.frozen q9 2, BoxN.frozen q9 3, BoxN.frozen q9 4, BoxN.frozen q9 5⟩)
    clear HQ HX HC2 hs1 hm1 hk1 hb2 q9 HCp HSy HOk HWt HBk c0 c1 c2 c3 c4 c5
    go_wp2_with fail
    clear hW8 r0 r1 r2 r3 r4 r5 f0 f1 f2 f3 f4 f5 u0 u1 u2 u3 u4 u5 z0 z1 z2 z3 z4 z5
    obtain ⟨W9, hW9⟩ : ∃ W9, W8.alloc (.cells #[] 54) = W9 := ⟨_, rfl⟩
    have HF : Hid (Below w.heap.size w W9 ∧ SvAt W9 y1.heap.size b n cb X b' n' cb' Y va un vc l' pa hn pc hs ∧ OwnH W9 W8.heap.size (some ⟨W8.heap.size, 0, none⟩) 0 0 [] ∧ w.heap.size ≤ W8.heap.size) := by
      show _ ∧ _
      rw [← hW9]
      exact ⟨HB8.out.alloc HB8.out.size _, HS8.out.stays ((Below.refl _ _).alloc (Nat.le_refl _) _), ⟨World.ownsRow_lit W8 #[] 0 (Nat.le_refl _) (Nat.zero_le _) rfl, by simp⟩, HB8.out.size⟩
    have hR9 : BoxN W9 (w.heap.size + 1) 32 [.slice b n cb, .slice b' n' cb', .int .i64 ep, .int .i64 nx, .slice va un vc, .slice pa hn pc] := by rw [← hW9]; exact HR8.out.alloc _
    rw [hW9, ← HZ8.out]
    clear hW9
    obtain ⟨u0, u1, u2, u3, u4, u5⟩ := (show _ ∧ _ ∧ _ ∧ _ ∧ _ ∧ _ from ⟨BoxN.cell hR9 0 rfl, BoxN.cell hR9 1 rfl, BoxN.cell hR9 2 rfl, BoxN.cell hR9 3 rfl, BoxN.cell hR9 4 rfl, BoxN.cell hR9 5 rfl⟩)
    refine bodyPost_ret (v := .tuple #[.agg #[.slice b n cb, .slice b' n' cb', .int .i64 ep, .int .i64 nx, .slice va un vc, .slice pa hn pc], .slice (some ⟨W8.heap.size, 0, none⟩) 0 0]) (by simp [results, Tryz.f6, go_sem, u0, u1, u2, u3, u4, u5]) rfl ?_
    refine ⟨⟨_, _, rfl, ?_⟩, HF.out.1⟩
    rw [HRY.out, HRH.out, HRL.out]
    refine ⟨b, n, cb, b', n', cb', va, un, vc, l', pa, hn, pc, some ⟨W8.heap.size, 0, none⟩, 0, 0, rfl, rfl, HF.out.2.1.low (by omega), HSV.out.2.1, HF.out.2.2.1.low HF.out.2.2.2, fun _ => ⟨?_, .inl rfl⟩⟩
    obtain ⟨m, h1, h2, h3⟩ := HSV.out.2.2
    exact ⟨m, by omega, h2, h3⟩
  | true =>
    go_wp2_with fail
    refine (HWt.out _ HC1.out).mono ?_
    rintro e y2 ⟨⟨pa, pc, rfl, ho2⟩, hb2⟩
    have HC2 : Hid (Below W2.heap.size W2 y2) := HC1.out.trans (hb2.mono HC1.out.size)
    have HO3 : Hid (OwnH (y2.alloc (.cells #[.slice pa hn pc] 48)) y1.heap.size pa hn pc hs ∧ ∀ q, pa.map (·.block) = some q → q < y2.heap.size) := ⟨ho2.below ((Below.refl _ _).alloc (Nat.le_refl _) _), fun q e => (ho2.lt q e).2⟩
    have HQ3 : Hid (BoxN (y2.alloc (.cells #[.slice pa hn pc] 48)) y2.heap.size 48 [.slice pa hn pc]) := BoxN.new _ _ _
    have HC3 : Hid (Below W2.heap.size W2 (y2.alloc (.cells #[.slice pa hn pc] 48))) := HC2.out.alloc HC2.out.size _
    have hy12 : y1.heap.size ≤ y2.heap.size := hb2.size
    have hy21 : W2.heap.size ≤ y1.heap.size := HC1.out.size
    clear ho2 hb2 HC2 c0 c1 c2 c3 c4 c5
    go_upto_region 4 with fail
    obtain ⟨w3, hw3⟩ : ∃ w3, y2.alloc (.cells #[.slice pa hn pc] 48) = w3 := ⟨_, rfl⟩
    rw [hw3] at HO3 HQ3 HC3 ⊢
    clear hw3
    generalize y2.heap.size = bq at *
    go_wp2_with fail
    refine (leaveH_any bq pa hn pc w3 HQ3.out).mono ?_
    rintro e y4 ⟨rfl, hq4, hg4⟩
    have HQ4 : Hid (BoxN y4 bq 48 [.slice none 0 0]) := hq4
    have HC4 : Hid (Below W2.heap.size W2 y4) := HC3.out.grown hg4 HC3.out.size (fun q e => by injection e with e; omega)
    have HO4 : Hid (OwnH y4 y1.heap.size pa hn pc hs) := HO3.out.1.kept hg4 (fun q e e2 => by injection e with e; have := HO3.out.2 q e2; omega)
    have hb4 : bq < y4.heap.size := hq4.lt
    clear hq4 hg4 HQ3 HC3
    have HBd : Hid (Below W2.heap.size W2 y4.drew) := HC4.out.drew
    have HQd : Hid (BoxN y4.drew bq 48 [.slice none 0 0]) := HQ4.out
    have hne2 : bq ≠ w.heap.size + 1 := by omega
    skip
    obtain ⟨c0, c1, c2, c3, c4⟩ := (show _ ∧ _ ∧ _ ∧ _ ∧ _ from ⟨BoxN.cell (HQ.out _ HC4.out).1 0 rfl, BoxN.cell (HQ.out _ HC4.out).1 1 rfl, BoxN.cell (HQ.out _ HC4.out).1 2 rfl, BoxN.cell (HQ.out _ HC4.out).1 3 rfl, BoxN.cell (HQ.out _ HC4.out).1 4 rfl⟩)
    have cq := BoxN.cell HQ4.out 0 rfl
    obtain ⟨d0, d1, d2, d3, d4⟩ := (show _ ∧ _ ∧ _ ∧ _ ∧ _ from ⟨BoxN.cell (HQ.out _ HBd.out).1 0 rfl, BoxN.cell (HQ.out _ HBd.out).1 1 rfl, BoxN.cell (HQ.out _ HBd.out).1 2 rfl, BoxN.cell (HQ.out _ HBd.out).1 3 rfl, BoxN.cell (HQ.out _ HBd.out).1 4 rfl⟩)
    have dq := BoxN.cell HQd.out 0 rfl
    have HSO : Hid (SOk X Y ep nx (l.map UE.u)) := HBk.out (by simp)
    go_upto_region 5 with fail
    go_region_held3 (fun W => W.cell? ⟨w.heap.size, 0, none⟩ = some (.slice a n ca) ∧ W.cell? ⟨w.heap.size, 1, none⟩ = some (.slice a' n' ca') ∧ W.cell? ⟨w.heap.size, 2, none⟩ = some (.int .i64 ep) ∧ W.cell? ⟨w.heap.size, 3, none⟩ = some (.int .i64 nx) ∧ W.cell? ⟨w.heap.size, 4, none⟩ = some (.slice ua un uc) ∧ W.cell? ⟨bq, 0, none⟩ = some (.slice none 0 0)) (first | with_reducible exact ⟨m0, m1, m2, m3, m4, mq⟩ | with_reducible exact ⟨cellD_kept hne (cellD_kept hne (cellD_kept hne (cellD_kept hne (cellD_kept hne (cellD_kept hne (m0)))))), cellD_kept hne (cellD_kept hne (cellD_kept hne (cellD_kept hne (cellD_kept hne (cellD_kept hne (m1)))))), cellD_kept hne (cellD_kept hne (cellD_kept hne (cellD_kept hne (cellD_kept hne (cellD_kept hne (m2)))))), cellD_kept hne (cellD_kept hne (cellD_kept hne (cellD_kept hne (cellD_kept hne (cellD_kept hne (m3)))))), cellD_kept hne (cellD_kept hne (cellD_kept hne (cellD_kept hne (cellD_kept hne (cellD_kept hne (m4)))))), cellD_kept hne2 (cellD_kept hne2 (cellD_kept hne2 (cellD_kept hne2 (cellD_kept hne2 (cellD_kept hne2 (mq))))))⟩ | with_reducible exact ⟨d0, d1, d2, d3, d4, dq⟩ | exact ⟨c0, c1, c2, c3, c4, cq⟩ | fail) (first
      | (go_at_call 18; refine (HSy.out _ HBd.out HSO.out).mono ?_; rintro e y5 ⟨⟨d, cd, d', cd', ea, ec, l3, rfl, hs5, hm5⟩, hb5⟩
         have hB5 : Below W2.heap.size W2 y5 := HBd.out.trans (hb5.mono HBd.out.size)
         have hq5 : BoxN y5 bq 48 [.slice none 0 0] := HQd.out.stays hb5
         have m0 := BoxN.cell (HQ.out _ hB5).1 0 rfl
         have m1 := BoxN.cell (HQ.out _ hB5).1 1 rfl
         have m2 := BoxN.cell (HQ.out _ hB5).1 2 rfl
         have m3 := BoxN.cell (HQ.out _ hB5).1 3 rfl
         have m4 := BoxN.cell (HQ.out _ hB5).1 4 rfl
         have mq := BoxN.cell hq5 0 rfl
         have r0 := BoxN.cell (HQ.out _ hB5).2 0 rfl
         have r1 := BoxN.cell (HQ.out _ hB5).2 1 rfl
         have r2 := BoxN.cell (HQ.out _ hB5).2 2 rfl
         have r3 := BoxN.cell (HQ.out _ hB5).2 3 rfl
         have r4 := BoxN.cell (HQ.out _ hB5).2 4 rfl
         have r5 := BoxN.cell (HQ.out _ hB5).2 5 rfl
         have f0 := BoxN.frozen (HQ.out _ hB5).2 0
         have f1 := BoxN.frozen (HQ.out _ hB5).2 1
         have f2 := BoxN.frozen (HQ.out _ hB5).2 2
         have f3 := BoxN.frozen (HQ.out _ hB5).2 3
         have f4 := BoxN.frozen (HQ.out _ hB5).2 4
         have f5 := BoxN.frozen (HQ.out _ hB5).2 5)
      | fail)
    all_goals
      have HF : Hid (SvAt y5 y4.heap.size d n cd X d' n cd' X ea un ec l3 none 0 0 [] ∧ OwnH y5 y1.heap.size pa hn pc hs ∧ Below w.heap.size w y5 ∧ l3.map UE.u = l.map UE.u ∧ SvBeh w.heap.size d d' ea l3 none ∧ SvAp w.heap.size d d' ea l3 none 0 pa hn) := by
        refine ⟨⟨hs5, World.ownsRow_nil _ _ _ _, by simp⟩, (show OwnH y4.drew y1.heap.size pa hn pc hs from HO4.out).below hb5, HB2.out.trans (hB5.mono HB2.out.size), hm5, ⟨y5.heap.size, by have := hB5.size; omega, hs5.inn, fun q e => by cases e⟩, .inr ⟨rfl, rfl, y4.heap.size, by omega, StoAt.above hs5, fun q e => by have := HO3.out.2 q e; omega⟩⟩
      clear hs5 hm5 hb5 hB5 hq5 mq cq dq c0 c1 c2 c3 c4 d0 d1 d2 d3 d4 m0 m1 m2 m3 m4 HQ HX HBd HQd HC4 HQ4 HO4 HO3 HCp HSy HOk HWt HBk
      go_wp2_with fail
      refine bodyPost_ret (v := .tuple #[.agg #[.slice d n cd, .slice d' n cd', .int .i64 ep, .int .i64 nx, .slice ea un ec, .slice none 0 0], .slice pa hn pc]) (by simp [results, Tryz.f6, go_sem, r0, r1, r2, r3, r4, r5]) rfl ?_
      refine ⟨⟨_, _, rfl, ?_⟩, below_set6 HF.out.2.2.1 (by omega) _ _ _ _ _ _⟩
      rw [HRY.out, HRH.out, HRL.out]
      simp only [if_pos, syncY_len HSO.out]
      exact ⟨d, n, cd, d', n, cd', ea, un, ec, l3, none, 0, 0, pa, hn, pc, rfl, rfl, (HF.out.1.set6 (by omega) _ _ _ _ _ _).low (by omega), HF.out.2.2.2.1, (HF.out.2.1.set6 (by omega) _ _ _ _ _ _).low (by omega), fun _ => ⟨HF.out.2.2.2.2.1, HF.out.2.2.2.2.2⟩⟩

end Go.Proofs.YtlkgopoicpnacaaGreatDoor

namespace Go.Proofs.YtlkgopoicpnacaaGreatDoor
open Go.RowKit
set_option linter.unusedVariables false

theorem blkOf_sG (a : Option Addr) (n c : Nat) : blkOf (.slice a n c) = a.map (·.block) := by cases a <;> rfl

set_option maxRecDepth 10000 in
set_option maxHeartbeats 3200000 in
theorem implFall_any (a : Option Addr) (n ca : Nat) (xs : List ByteArray) (a' : Option Addr) (n' ca' : Nat) (ys : List ByteArray) (ka : Option Addr) (m kc : Nat) (ks : List Bool) (w : World) (h1 : Strs w a n xs) (h2 : Strs w a' n' ys) (h3 : Bools w ka m ks) (hn : n ≤ 2097152) (hn' : n' ≤ 2097152) (hm : m ≤ 1099511627776) :
    Calls Tryz.prog 20 #[.agg #[.slice a n ca, .slice a' n' ca'], .slice ka m kc] w fun e w' => (∃ v, e = .returned v ∧ AnsD w.heap.size (fallX xs ys ks) (fallY xs ys ks) v w') ∧ Below w.heap.size w w' := by
  have HK : Hid (∀ W, Below w.heap.size w W → Bools W ka m ks) := fun W h => h3.below h
  have HKl : Hid (ks.length = m) := h3.1
  clear h3
  have HX : Hid (∀ W, Below w.heap.size w W → Strs W a n xs ∧ Strs W a' n' ys) := fun W h => ⟨h1.below h, h2.below h⟩
  have HLn : Hid (xs.length = n ∧ ys.length = n') := ⟨h1.1, h2.1⟩
  obtain ⟨W2, hW2⟩ : ∃ W2, (w.alloc (.cells #[.slice a n ca, .slice a' n' ca'] 26)).alloc (.cells #[.slice none 0 0, .slice none 0 0] 26) = W2 := ⟨_, rfl⟩
  have HE : Hid ((w.alloc (.cells #[.slice a n ca, .slice a' n' ca'] 26)).alloc (.cells #[.slice none 0 0, .slice none 0 0] 26) = W2) := hW2
  have HB2 : Hid (Below w.heap.size w W2) := by show Below _ _ _; rw [← hW2]; exact ((Below.refl _ _).alloc (Nat.le_refl _) _).alloc (by simp) _
  have HZ2 : Hid (W2.heap.size = w.heap.size + 2) := by show _ = _; rw [← hW2]; simp
  have HQ1 : Hid (Box2R W2 w.heap.size 26 (.slice a n ca) (.slice a' n' ca')) := by show Box2R _ _ _ _ _; rw [← hW2]; exact (Box2R.new _ _ _ _).alloc _
  have HQ2 : Hid (Box2R W2 (w.heap.size + 1) 26 (.slice none 0 0) (.slice none 0 0)) := by
    show Box2R _ _ _ _ _
    rw [← hW2]
    have := Box2R.new (w.alloc (.cells #[.slice a n ca, .slice a' n' ca'] 26)) 26 (.slice none 0 0) (.slice none 0 0)
    rwa [World.size_alloc] at this
  clear hW2 h1 h2
  go_enter Tryz.func20, Tryz.ntmps20
  go_wp2_with fail
  go_step3
  rw [HE.out]
  clear HE
  obtain ⟨c0, c1⟩ := HQ1.out.cells
  go_wp2_with fail
  refine (implDcopy_any a n ca xs a' n' ca' ys _ (HX.out _ HB2.out).1 (HX.out _ HB2.out).2 hn hn').mono ?_
  rintro e x3 ⟨⟨v, rfl, A, C, A', C', rfl, o1, o2, hap⟩, hb3⟩
  rw [HLn.out.1] at o1 ⊢
  rw [HLn.out.2] at o2 ⊢
  have HD : Hid (DOut w (x3.alloc (.cells #[.slice A n C, .slice A' n' C'] 26)) (.slice a n ca) (.slice a' n' ca') x3.heap.size (.slice A n C) (.slice A' n' C') n n' xs ys) := DOut.new HQ1.out HQ2.out HZ2.out HB2.out hb3 o1 o2 (fun q e e2 => by rw [blkOf_sG] at e e2; exact hap q e e2)
  clear o1 o2 hap hb3 HQ1 HQ2 HB2 HZ2 c0 c1
  go_upto_region 2 with fail
  obtain ⟨W3, hW3⟩ : ∃ W3, x3.alloc (.cells #[.slice A n C, .slice A' n' C'] 26) = W3 := ⟨_, rfl⟩
  rw [hW3] at HD ⊢
  clear hW3
  generalize x3.heap.size = o at *
  obtain ⟨c0, c1⟩ := HD.out.1.cells
  go_wp2_with fail
  refine (implDok_any a n ca xs a' n' ca' ys _ (HX.out _ HD.out.2.2.2.2.2.2.2.2).1 (HX.out _ HD.out.2.2.2.2.2.2.2.2).2 (by omega) (by omega)).mono ?_
  rintro e x4 ⟨rfl, hb4⟩
  have HDx : Hid (DOut w x4 (.slice a n ca) (.slice a' n' ca') o (.slice A n C) (.slice A' n' C') n n' xs ys) := HD.out.stays hb4
  clear hb4 HD c0 c1
  cases hok : okD xs ys
  · have HPX : Hid (fallX xs ys ks = xs) := by show _ = _; rw [fallX, hok]; rfl
    have HPY : Hid (fallY xs ys ks = ys) := by show _ = _; rw [fallY, hok]; rfl
    clear hok
    obtain ⟨c0, c1⟩ := HDx.out.2.2.1.cells
    obtain ⟨r0, r1⟩ := HDx.out.2.1.cells
    have f0 := HDx.out.2.1.frozen 0
    have f1 := HDx.out.2.1.frozen 1
    have HR := (show Hid _ from HDx.out.done)
    clear HDx
    go_wp2_with fail
    rw [Exit.noGoto_ret]
    refine bodyPost_ret (v := .agg #[.slice A n C, .slice A' n' C']) (by simp [results, Tryz.f20, go_sem, r0, r1]) rfl ?_
    exact ⟨⟨_, rfl, by rw [HPX.out, HPY.out]; exact HR.out.1⟩, HR.out.2⟩
  obtain rfl : n = n' := by
    have h := (okD_iff.1 hok).1
    have := HLn.out
    omega
  have HPX : Hid (fallX xs ys ks = fallL xs ys ks) := by show _ = _; rw [fallX, hok]; rfl
  have HPY : Hid (fallY xs ys ks = fallL xs ys ks) := by show _ = _; rw [fallY, hok]; rfl
  have HFl : Hid ((fallL xs ys ks).length = xs.length ∧ (fallL xs ys ks).length = ys.length) := ⟨fallL_len _ _ _, (fallL_len _ _ _).trans (okD_iff.1 hok).1⟩
  have HFa : Hid (∀ (k : Nat) (x y : ByteArray), xs[k]? = some x → ys[k]? = some y → (fallL xs ys ks)[k]? = some (if ks.getD k false then x else y)) := fun k x y h1 h2 => fallL_at h1 h2
  clear hok
  generalize fallL xs ys ks = F at *
  obtain ⟨c0, c1⟩ := HDx.out.1.cells
  go_wp2_with fail
  go_step3
  go_wp2_with fail
  clear c0 c1
  go_loopw [17] (fun i wr => ∃ k : Nat, k ≤ n ∧ i = .int .i64 (k : Int) ∧ Hid (DOut w wr (.slice a n ca) (.slice a' n ca') o (.slice A n C) (.slice A' n C') n n (fallTo F xs k) ys)) (fun i _ => n - (intOf i).toNat)
  case atStart => exact ⟨0, Nat.zero_le _, rfl, by rw [fallTo_zero]; exact HDx⟩
  case round =>
    clear HDx
    obtain ⟨k, hk, rfl, HDk⟩ := hrel
    by_cases hlt : k < n
    · obtain ⟨g, rfl⟩ : ∃ g, A = some ⟨g, 0, none⟩ := by
        rcases HDk.out.2.2.2.1.1.2 with ⟨_, h0⟩ | ⟨g, cap', cur, he, _⟩
        · omega
        · injection he with e1 _ _
          exact ⟨g, e1⟩
      have hbel := HDk.out.2.2.2.2.2.2.2.2
      obtain ⟨x, hx⟩ : ∃ x, xs[k]? = some x := ⟨_, List.getElem?_eq_getElem (by have := HLn.out; omega)⟩
      obtain ⟨yb, yo, y, rfl, _, hy, hcy⟩ := (HX.out _ hbel).2.at hlt
      have hym : y.size ≤ maxLen := (HX.out _ hbel).2.2.1 y (List.mem_of_getElem? hy)
      have HFk0 := (show Hid _ from HFa.out k x y hx hy)
      have HXk : Hid (xs[k]? = some x) := hx
      clear hx hy
      have hki : (k : Int) < (n : Int) := by omega
      have hk0 : (0 : Int) ≤ (k : Int) := by omega
      have HP0 : Hid (F[k]? = some y → DOut w (wr.setCell ⟨g, k, none⟩ (.string y)) (.slice a n ca) (.slice (some ⟨yb, yo, none⟩) n ca') o (.slice (some ⟨g, 0, none⟩) n C) (.slice A' n C') n n (fallTo F xs (k + 1)) ys) := by
        intro hF
        have h := HDk.out.put0 (j := k) y hym
        rw [fallTo_set F xs k y HFl.out.1 (by have := HLn.out; omega) hF] at h
        exact h
      have fz : wr.frozen? ⟨g, k, none⟩ = false := HDk.out.2.2.2.1.1.frozenAt _
      obtain ⟨u0, hu0⟩ : ∃ u, wr.cell? ⟨g, k, none⟩ = some u := by
        have hcl : (scells (fallTo F xs k)).length = n := by rw [scells_len, fallTo_len F xs k HFl.out.1 (by have := HLn.out; omega), HLn.out.1]
        rw [HDk.out.2.2.2.1.1.cellAt _ (by omega)]
        exact ⟨_, List.getElem?_eq_getElem (by omega)⟩
      obtain ⟨c0, c1⟩ := HDk.out.2.2.1.cells
      by_cases hkm : k < m
      case neg =>
        have HFk : Hid (F[k]? = some y) := by
          have h := HFk0.out
          have e : ks[k]? = none := List.getElem?_eq_none (by have := HKl.out; omega)
          rw [List.getD_eq_getElem?_getD, e] at h
          exact h
        have hkmi : ¬ (k : Int) < (m : Int) := by omega
        have HD2 := (show Hid _ from HP0.out HFk.out)
        clear HFk0 hbel HP0 HDk HXk HFk
        go_wp2_with fail
        go_roundw
        case rel => exact ⟨k + 1, by omega, by go_num, HD2⟩
        case measure => simp [intOf]; omega
      obtain ⟨kb, ko, b, rfl, _, hkb, hcb⟩ := (HK.out _ hbel).at hkm
      have hkmi : (k : Int) < (m : Int) := by omega
      have HFk1 : Hid (F[k]? = some (if b then x else y)) := by
        have h := HFk0.out
        rw [List.getD_eq_getElem?_getD, hkb] at h
        exact h
      clear HFk0 hbel hkb
      cases b
      · have HD2 := (show Hid _ from HP0.out HFk1.out)
        clear HFk1 HP0 HDk HXk
        go_wp2_with fail
        go_roundw
        case rel => exact ⟨k + 1, by omega, by go_num, HD2⟩
        case measure => simp [intOf]; omega
      · have HD2 : Hid (DOut w wr (.slice a n ca) (.slice (some ⟨yb, yo, none⟩) n ca') o (.slice (some ⟨g, 0, none⟩) n C) (.slice A' n C') n n (fallTo F xs (k + 1)) ys) := by
          have h := HDk.out
          rw [fallTo_same F xs k x HFl.out.1 HXk.out HFk1.out] at h
          exact h
        clear HFk1 HP0 HDk HXk
        go_wp2_with fail
        go_roundw
        case rel => exact ⟨k + 1, by omega, by go_num, HD2⟩
        case measure => simp [intOf]; omega
    · obtain rfl : k = n := by omega
      have HDx : Hid (DOut w wr (.slice a k ca) (.slice a' k ca') o (.slice A k C) (.slice A' k C') k k F ys) := by
        have h := HDk.out
        have hl := HLn.out
        rw [show fallTo F xs k = F from by rw [← hl.1]; exact fallTo_all F xs HFl.out.1] at h
        exact h
      clear HDk
      obtain ⟨c0, c1⟩ := HDx.out.2.2.1.cells
      go_wp2_with fail
      refine (implFlush_any A k C F A' k C' _ HDx.out.2.2.2.1.strs (by omega)).mono ?_
      rintro e x7 ⟨⟨v, rfl, B, D, B', D', rfl, o1, o2, hap⟩, hb7⟩
      have hFn : F.length = k := HFl.out.1.trans HLn.out.1
      rw [hFn] at o1 o2 ⊢
      have hbx := HDx.out.2.1.stays hb7
      obtain ⟨r0, r1⟩ := hbx.cells
      have f0 := hbx.frozen 0
      have f1 := hbx.frozen 1
      have HR : Hid (AnsD w.heap.size F F (.agg #[.slice B k D, .slice B' k D']) ((x7.setCell ⟨w.heap.size + 1, 0, none⟩ (.slice B k D)).setCell ⟨w.heap.size + 1, 1, none⟩ (.slice B' k D')) ∧ Below w.heap.size w ((x7.setCell ⟨w.heap.size + 1, 0, none⟩ (.slice B k D)).setCell ⟨w.heap.size + 1, 1, none⟩ (.slice B' k D'))) := by
        have hlt := HDx.out.2.1.lt
        have hbel := HDx.out.2.2.2.2.2.2.2.2
        have n1 : blkOf (.slice B k D) ≠ some (w.heap.size + 1) := fun e => by have := (o1.lt _ e).1; omega
        have n2 : blkOf (.slice B' k D') ≠ some (w.heap.size + 1) := fun e => by have := (o2.lt _ e).1; omega
        have hbw := hbel.trans (hb7.mono hbel.size)
        exact ⟨AnsD.mk' hFn hFn (((o1.setCell n1 _).setCell n1 _).low (by omega)) (((o2.setCell n2 _).setCell n2 _).low (by omega)) hap, (hbw.setCell (by dsimp only; omega) _).setCell (by dsimp only; omega) _⟩
      clear HDx c0 c1 o1 o2 hap hb7 hbx
      go_wp2_with fail
      rw [Exit.noGoto_ret]
      refine bodyPost_ret (v := .agg #[.slice B k D, .slice B' k D']) (by simp [results, Tryz.f20, go_sem, r0, r1]) rfl ?_
      exact ⟨⟨_, rfl, by rw [HPX.out, HPY.out]; exact HR.out.1⟩, HR.out.2⟩

end Go.Proofs.YtlkgopoicpnacaaGreatDoor

namespace Go.Proofs.YtlkgopoicpnacaaGreatDoor
open Go.RowKit
set_option linter.unusedVariables false

set_option maxRecDepth 10000 in
set_option maxHeartbeats 3200000 in
theorem implOpen_all (a : Option Addr) (n ca : Nat) (X : List ByteArray) (a' : Option Addr) (n' ca' : Nat) (Y : List ByteArray) (w : World) (h1 : Strs w a n X) (h2 : Strs w a' n' Y) (hn : n ≤ 1048576) (hn' : n' ≤ 1048576) (ht : RecT w) (he : ErrN w) :
    Calls Tryz.prog 19 #[.agg #[.slice a n ca, .slice a' n' ca']] w fun e w' => OpenAns w.heap.size X Y e w' ∧ Below w.heap.size w w' := by
  obtain ⟨W2, hW2⟩ : ∃ W2, (w.alloc (.cells #[.slice a n ca, .slice a' n' ca'] 26)).alloc (.cells #[.slice none 0 0, .slice none 0 0, .int .i64 0, .int .i64 0, .slice none 0 0] 29) = W2 := ⟨_, rfl⟩
  have HE : Hid ((w.alloc (.cells #[.slice a n ca, .slice a' n' ca'] 26)).alloc (.cells #[.slice none 0 0, .slice none 0 0, .int .i64 0, .int .i64 0, .slice none 0 0] 29) = W2) := hW2
  have HB2 : Hid (Below w.heap.size w W2) := by show Below _ _ _; rw [← hW2]; exact ((Below.refl _ _).alloc (Nat.le_refl _) _).alloc (by simp) _
  have q1 : BoxN W2 w.heap.size 26 [.slice a n ca, .slice a' n' ca'] := by rw [← hW2]; exact (BoxN.new _ _ _).alloc _
  have q2 : BoxN W2 (w.heap.size + 1) 29 [.slice none 0 0, .slice none 0 0, .int .i64 0, .int .i64 0, .slice none 0 0] := by
    rw [← hW2]
    have := BoxN.new (w.alloc (.cells #[.slice a n ca, .slice a' n' ca'] 26)) 29 [.slice none 0 0, .slice none 0 0, .int .i64 0, .int .i64 0, .slice none 0 0]
    rwa [World.size_alloc] at this
  have HQ : Hid (∀ W, Below W2.heap.size W2 W → BoxN W w.heap.size 26 [.slice a n ca, .slice a' n' ca'] ∧ BoxN W (w.heap.size + 1) 29 [.slice none 0 0, .slice none 0 0, .int .i64 0, .int .i64 0, .slice none 0 0]) := fun W h => ⟨q1.stays h, q2.stays h⟩
  have HX : Hid (∀ W, Below W2.heap.size W2 W → Strs W a n X ∧ Strs W a' n' Y ∧ RecT W ∧ ErrN W) := fun W h => by
    have hw := HB2.out.trans (h.mono HB2.out.size)
    exact ⟨h1.below hw, h2.below hw, ht.below hw, he.below hw⟩
  have HZ : Hid (okD X Y = true → ∀ x ∈ X, x.size ≤ 1048576) := fun h x hx => by have := (okD_iff.1 h).2.2.1 x hx; omega
  have hs2 : w.heap.size + 1 < W2.heap.size := q2.lt
  clear hW2 q1 q2 h1 h2 ht he
  have HA0 : Hid (Below W2.heap.size W2 W2) := Below.refl _ _
  obtain ⟨c0, c1⟩ := (show _ ∧ _ from ⟨(HQ.out _ HA0.out).1.cell 0 rfl, (HQ.out _ HA0.out).1.cell 1 rfl⟩)
  go_enter Tryz.func19, Tryz.ntmps19
  go_upto_region 1 with fail
  rw [HE.out]
  clear HE
  go_wp2_with fail
  refine (implDok_any a n ca X a' n' ca' Y W2 (HX.out _ HA0.out).1 (HX.out _ HA0.out).2.1 (by omega) (by omega)).mono ?_
  rintro _ y1 ⟨rfl, hb1⟩
  have HB1 : Hid (Below W2.heap.size W2 y1) := hb1
  clear hb1 c0 c1
  cases hok : okD X Y
  · try dsimp only
    have HN : Hid (openO X Y = none) := by show _ = _; rw [openO, hok]
    have HBw : Hid (Below w.heap.size w y1) := HB2.out.trans (HB1.out.mono HB2.out.size)
    obtain ⟨r0, r1, r2, r3, r4⟩ := (show _ ∧ _ ∧ _ ∧ _ ∧ _ from ⟨(HQ.out _ HB1.out).2.cell 0 rfl, (HQ.out _ HB1.out).2.cell 1 rfl, (HQ.out _ HB1.out).2.cell 2 rfl, (HQ.out _ HB1.out).2.cell 3 rfl, (HQ.out _ HB1.out).2.cell 4 rfl⟩)
    obtain ⟨f0, f1, f2, f3, f4⟩ := (show _ ∧ _ ∧ _ ∧ _ ∧ _ from ⟨(HQ.out _ HB1.out).2.frozen 0, (HQ.out _ HB1.out).2.frozen 1, (HQ.out _ HB1.out).2.frozen 2, (HQ.out _ HB1.out).2.frozen 3, (HQ.out _ HB1.out).2.frozen 4⟩)
    clear HQ HX HB1
    go_wp2_with fail
    refine bodyPost_ret (v := .tuple #[.agg #[.slice none 0 0, .slice none 0 0, .int .i64 0, .int .i64 0, .slice none 0 0], .bool false]) (by simp [results, Tryz.f19, go_sem, r0, r1, r2, r3, r4]) rfl ?_
    refine ⟨?_, ?_⟩
    · rw [OpenAns, HN.out]
      exact ⟨_, rfl, none, 0, 0, none, 0, 0, none, 0, 0, [], rfl, ⟨⟨⟨rfl, .inl ⟨rfl, rfl⟩⟩, by simp⟩, ⟨⟨rfl, .inl ⟨rfl, rfl⟩⟩, by simp⟩, by simp, ⟨⟨rfl, .inl ⟨rfl, rfl⟩⟩, by simp, by simp⟩, rfl⟩, rfl⟩
    · exact ((((HBw.out.setCell (by dsimp only; omega) _).setCell (by dsimp only; omega) _).setCell (by dsimp only; omega) _).setCell (by dsimp only; omega) _).setCell (by dsimp only; omega) _

  have HOk : Hid (okD X Y = true) := hok
  clear hok
  obtain ⟨c0, c1⟩ := (show _ ∧ _ from ⟨(HQ.out _ HB1.out).1.cell 0 rfl, (HQ.out _ HB1.out).1.cell 1 rfl⟩)
  go_wp2_with fail
  refine (implScan_any a n ca X a' n' ca' y1 (HX.out _ HB1.out).1 (by omega) (HZ.out HOk.out) (HX.out _ HB1.out).2.2.1).mono ?_
  rintro _ y2 ⟨⟨v2, rs, rfl, hrow, hlm⟩, hb2⟩
  have HC2 : Hid (Below W2.heap.size W2 y2) := HB1.out.trans (hb2.mono HB1.out.size)
  obtain ⟨ra, rc, rfl⟩ := hrow.shape
  obtain ⟨M, hM⟩ : ∃ M, rs.length = M := ⟨_, rfl⟩
  rw [hM] at hrow ⊢
  have HM : Hid (M = rs.length) := hM.symm
  have HLm : Hid (rs.map RE.r = scanR X) := hlm
  have HR2 : Hid (RcRow y2 y1.heap.size (.slice ra M rc) rs) := hrow
  have HSh : Hid (∀ e ∈ rs, e.n ≤ 24) := rows_short hrow hlm (scanFrom_ok X 0 0).2
  have HMl : Hid (M = (scanR X).length) := by show _ = _; rw [← hlm, List.length_map, hM]
  have hMn : M ≤ 1048576 := by
    have h1 := (scanFrom_ok X 0 0).1
    have h2 := (HX.out _ HC2.out).1.1
    have h3 := congrArg List.length hlm
    rw [List.length_map, hM] at h3
    have h4 : (scanR X).length = (scanFrom 0 0 X).length := rfl
    omega
  clear hrow hlm hM hb2 c0 c1
  go_wp2_with fail
  refine (implFold_any ra M rc y1.heap.size rs 24 y2 HR2.out HM.out (by omega) HSh.out (by omega) (by omega) (rows_ns HLm.out) (HX.out _ HC2.out).2.2.2).mono ?_
  rintro _ y3 ⟨⟨x3, l3, rfl, hrow3, hm3, h310⟩, hb3⟩
  rw [HLm.out, foldP_ok] at hm3 ⊢
  have HC3 : Hid (Below W2.heap.size W2 y3) := HC2.out.trans (hb3.mono HC2.out.size)
  obtain ⟨xa, xc, rfl⟩ := hrow3.shape
  obtain ⟨K, hK⟩ : ∃ K, l3.length = K := ⟨_, rfl⟩
  rw [hK] at hrow3 ⊢
  have hy2 : W2.heap.size ≤ y2.heap.size := HC2.out.size
  have HR3 : Hid (UpRow y3 y2.heap.size (.slice xa K xc) l3 ∧ K = l3.length) := ⟨hrow3, hK.symm⟩
  clear hb3 hrow3 hK h310 HB1 HC2 HR2
  obtain ⟨c0, c1⟩ := (show _ ∧ _ from ⟨(HQ.out _ HC3.out).1.cell 0 rfl, (HQ.out _ HC3.out).1.cell 1 rfl⟩)
  have HTb : Hid (-1 ≤ topE X ∧ topE X ≤ 10000) := topE_range X
  obtain ⟨T, hT⟩ : ∃ T, topE X = T := ⟨_, rfl⟩
  have HTe : Hid (topE X = T) := hT
  have htb : -1 ≤ T ∧ T ≤ 10000 := by rw [← hT]; exact HTb.out
  clear hT
  have htb1 : -1 ≤ T := htb.1
  have htb2 : T ≤ 10000 := htb.2
  clear htb
  cases hf : foldU (scanR X) with
  | none =>
    rw [hf] at hm3
    dsimp only [Option.isSome]
    go_wp2_with fail
    refine (implTop_any a n ca X a' n' ca' y3 (HX.out _ HC3.out).1 (by omega) (HZ.out HOk.out) (HX.out _ HC3.out).2.2.1).mono ?_
    rintro _ y4 ⟨rfl, hb4⟩
    rw [HTe.out]
    have HC4 : Hid (Below W2.heap.size W2 y4) := HC3.out.trans (hb4.mono HC3.out.size)
    clear hb4 c0 c1 HR3 HC3
    have HN : Hid (openO X Y = none) := by show _ = _; rw [openO, HOk.out, hf]
    have HBw : Hid (Below w.heap.size w y4) := HB2.out.trans (HC4.out.mono HB2.out.size)
    obtain ⟨r0, r1, r2, r3, r4⟩ := (show _ ∧ _ ∧ _ ∧ _ ∧ _ from ⟨(HQ.out _ HC4.out).2.cell 0 rfl, (HQ.out _ HC4.out).2.cell 1 rfl, (HQ.out _ HC4.out).2.cell 2 rfl, (HQ.out _ HC4.out).2.cell 3 rfl, (HQ.out _ HC4.out).2.cell 4 rfl⟩)
    obtain ⟨f0, f1, f2, f3, f4⟩ := (show _ ∧ _ ∧ _ ∧ _ ∧ _ from ⟨(HQ.out _ HC4.out).2.frozen 0, (HQ.out _ HC4.out).2.frozen 1, (HQ.out _ HC4.out).2.frozen 2, (HQ.out _ HC4.out).2.frozen 3, (HQ.out _ HC4.out).2.frozen 4⟩)
    clear HQ HX HC4
    go_wp2_with fail
    refine bodyPost_ret (v := .tuple #[.agg #[.slice none 0 0, .slice none 0 0, .int .i64 0, .int .i64 0, .slice none 0 0], .bool false]) (by simp [results, Tryz.f19, go_sem, r0, r1, r2, r3, r4]) rfl ?_
    refine ⟨?_, ?_⟩
    · rw [OpenAns, HN.out]
      exact ⟨_, rfl, none, 0, 0, none, 0, 0, none, 0, 0, [], rfl, ⟨⟨⟨rfl, .inl ⟨rfl, rfl⟩⟩, by simp⟩, ⟨⟨rfl, .inl ⟨rfl, rfl⟩⟩, by simp⟩, by simp, ⟨⟨rfl, .inl ⟨rfl, rfl⟩⟩, by simp, by simp⟩, rfl⟩, rfl⟩
    · exact ((((HBw.out.setCell (by dsimp only; omega) _).setCell (by dsimp only; omega) _).setCell (by dsimp only; omega) _).setCell (by dsimp only; omega) _).setCell (by dsimp only; omega) _

  | some us =>
    rw [hf] at hm3
    dsimp only [Option.isSome]
    have HUs : Hid (l3.map UE.u = us) := hm3
    have HFo : Hid (foldU (scanR X) = some us) := hf
    clear hm3 hf
    go_wp2_with fail
    refine (implTop_any a n ca X a' n' ca' y3 (HX.out _ HC3.out).1 (by omega) (HZ.out HOk.out) (HX.out _ HC3.out).2.2.1).mono ?_
    rintro _ y4 ⟨rfl, hb4⟩
    rw [HTe.out]
    have HC4 : Hid (Below W2.heap.size W2 y4) := HC3.out.trans (hb4.mono HC3.out.size)
    have HR4 : Hid (UpRow y4 y2.heap.size (.slice xa K xc) l3 ∧ K = l3.length) := ⟨HR3.out.1.stays hb4, HR3.out.2⟩
    clear hb4 c0 c1 HR3 HC3
    by_cases hbig : 10000 < T + 1
    · clear HR4
      have HN : Hid (openO X Y = none) := by show _ = _; rw [openO, HOk.out, HFo.out, HTe.out]; simp [hbig]
      have HBw : Hid (Below w.heap.size w y4) := HB2.out.trans (HC4.out.mono HB2.out.size)
      obtain ⟨r0, r1, r2, r3, r4⟩ := (show _ ∧ _ ∧ _ ∧ _ ∧ _ from ⟨(HQ.out _ HC4.out).2.cell 0 rfl, (HQ.out _ HC4.out).2.cell 1 rfl, (HQ.out _ HC4.out).2.cell 2 rfl, (HQ.out _ HC4.out).2.cell 3 rfl, (HQ.out _ HC4.out).2.cell 4 rfl⟩)
      obtain ⟨f0, f1, f2, f3, f4⟩ := (show _ ∧ _ ∧ _ ∧ _ ∧ _ from ⟨(HQ.out _ HC4.out).2.frozen 0, (HQ.out _ HC4.out).2.frozen 1, (HQ.out _ HC4.out).2.frozen 2, (HQ.out _ HC4.out).2.frozen 3, (HQ.out _ HC4.out).2.frozen 4⟩)
      clear HQ HX HC4
      go_wp2_with fail
      refine bodyPost_ret (v := .tuple #[.agg #[.slice none 0 0, .slice none 0 0, .int .i64 0, .int .i64 0, .slice none 0 0], .bool false]) (by simp [results, Tryz.f19, go_sem, r0, r1, r2, r3, r4]) rfl ?_
      refine ⟨?_, ?_⟩
      · rw [OpenAns, HN.out]
        exact ⟨_, rfl, none, 0, 0, none, 0, 0, none, 0, 0, [], rfl, ⟨⟨⟨rfl, .inl ⟨rfl, rfl⟩⟩, by simp⟩, ⟨⟨rfl, .inl ⟨rfl, rfl⟩⟩, by simp⟩, by simp, ⟨⟨rfl, .inl ⟨rfl, rfl⟩⟩, by simp, by simp⟩, rfl⟩, rfl⟩
      · exact ((((HBw.out.setCell (by dsimp only; omega) _).setCell (by dsimp only; omega) _).setCell (by dsimp only; omega) _).setCell (by dsimp only; omega) _).setCell (by dsimp only; omega) _

    have HS : Hid (openO X Y = some (T + 1, M, us)) := by show _ = _; rw [openO, HOk.out, HFo.out, HTe.out, HMl.out]; simp [hbig]
    obtain ⟨c0, c1⟩ := (show _ ∧ _ from ⟨(HQ.out _ HC4.out).1.cell 0 rfl, (HQ.out _ HC4.out).1.cell 1 rfl⟩)
    go_wp2_with fail
    refine (implDcopy_any a n ca X a' n' ca' Y y4 (HX.out _ HC4.out).1 (HX.out _ HC4.out).2.1 (by omega) (by omega)).mono ?_
    rintro _ y5 ⟨⟨v5, rfl, A, C, A', C', rfl, ow, ow', hap⟩, hb5⟩
    have HBw : Hid (Below w.heap.size w y5) := by
      have h1 := HC4.out.trans (hb5.mono HC4.out.size)
      exact HB2.out.trans (h1.mono HB2.out.size)
    have hy4 : W2.heap.size ≤ y4.heap.size := HC4.out.size
    have HS5 : Hid (StoAt y5 (w.heap.size + 2) A X.length C X A' Y.length C' Y xa K xc l3) := ⟨ow.low (by omega), ow'.low (by omega), hap, (HR4.out.1.stays hb5).low (by omega), HR4.out.2⟩
    have hq5 := (HQ.out _ (HC4.out.trans (hb5.mono HC4.out.size))).2
    obtain ⟨r0, r1, r2, r3, r4⟩ := (show _ ∧ _ ∧ _ ∧ _ ∧ _ from ⟨hq5.cell 0 rfl, hq5.cell 1 rfl, hq5.cell 2 rfl, hq5.cell 3 rfl, hq5.cell 4 rfl⟩)
    obtain ⟨f0, f1, f2, f3, f4⟩ := (show _ ∧ _ ∧ _ ∧ _ ∧ _ from ⟨hq5.frozen 0, hq5.frozen 1, hq5.frozen 2, hq5.frozen 3, hq5.frozen 4⟩)
    clear ow ow' hap hb5 hq5 HQ HX HC4 HR4 c0 c1
    go_wp2_with fail
    refine bodyPost_ret (v := .tuple #[.agg #[.slice A X.length C, .slice A' Y.length C', .int .i64 (T + 1), .int .i64 (M : Int), .slice xa K xc], .bool true]) (by simp [results, Tryz.f19, go_sem, r0, r1, r2, r3, r4]) rfl ?_
    refine ⟨?_, ?_⟩
    · rw [OpenAns, HS.out]
      exact ⟨_, rfl, A, X.length, C, A', Y.length, C', xa, K, xc, l3, rfl, (((((HS5.out.setLow (by omega) _).setLow (by omega) _).setLow (by omega) _).setLow (by omega) _).setLow (by omega) _).low (by omega), HUs.out⟩
    · exact ((((HBw.out.setCell (by dsimp only; omega) _).setCell (by dsimp only; omega) _).setCell (by dsimp only; omega) _).setCell (by dsimp only; omega) _).setCell (by dsimp only; omega) _

end Go.Proofs.YtlkgopoicpnacaaGreatDoor
