/- What the specification's SyncStore answers. -/
import Derived.Test.YtammmecddnafaaaGreatDoorM20
import Derived.Test.YtammmecddnafaaaGreatDoorM29
import Derived.Test.YtammmecddnafaaaGreatDoorS01
import Derived.Test.YtammmecddnafaaaGreatDoorM05
import Derived.Test.YtammmecddnafaaaGreatDoorS01
namespace Go.Proofs.YtammmecddnafaaaGreatDoor
open Go.RowKit
set_option linter.unusedVariables false

set_option maxRecDepth 10000 in
set_option maxHeartbeats 3200000 in
theorem specSync_any (a : Option Addr) (n ca : Nat) (X : List ByteArray) (a' : Option Addr) (n' ca' : Nat) (Y : List ByteArray) (ep nx : Int) (ua : Option Addr) (un uc lo : Nat) (l : List UE) (w : World) (h1 : Strs w a n X) (h2 : Strs w a' n' Y) (hn : n ≤ 1048576) (hn' : n' ≤ 1048576) (hzx : ∀ x ∈ X, x.size ≤ 1048576) (hu : UpRow w lo (.slice ua un uc) l) (hun : un = l.length) (hul : un ≤ 1048576) (hz : ∀ e ∈ l, e.n ≤ 1099511627776) :
    Calls Tryz.prog 21 #[.agg #[.slice a n ca, .slice a' n' ca', .int .i64 ep, .int .i64 nx, .slice ua un uc]] w fun e w' => (∃ v, e = .returned v ∧ AnsS w.heap.size X (syncY X Y ep nx (l.map UE.u)) ep nx (l.map UE.u) v w') ∧ Below w.heap.size w w' := by
  obtain ⟨W2, hW2⟩ : ∃ W2, (w.alloc (.cells #[.slice a n ca, .slice a' n' ca', .int .i64 ep, .int .i64 nx, .slice ua un uc] 32)).alloc (.cells #[.slice none 0 0, .slice none 0 0, .int .i64 0, .int .i64 0, .slice none 0 0] 32) = W2 := ⟨_, rfl⟩
  have HE : Hid ((w.alloc (.cells #[.slice a n ca, .slice a' n' ca', .int .i64 ep, .int .i64 nx, .slice ua un uc] 32)).alloc (.cells #[.slice none 0 0, .slice none 0 0, .int .i64 0, .int .i64 0, .slice none 0 0] 32) = W2) := hW2
  have HB2 : Hid (Below w.heap.size w W2) := by show Below _ _ _; rw [← hW2]; exact ((Below.refl _ _).alloc (Nat.le_refl _) _).alloc (by simp) _
  have q1 : BoxN W2 w.heap.size 32 [.slice a n ca, .slice a' n' ca', .int .i64 ep, .int .i64 nx, .slice ua un uc] := by rw [← hW2]; exact (BoxN.new _ _ _).alloc _
  have q2 : BoxN W2 (w.heap.size + 1) 32 [.slice none 0 0, .slice none 0 0, .int .i64 0, .int .i64 0, .slice none 0 0] := by
    rw [← hW2]
    have := BoxN.new (w.alloc (.cells #[.slice a n ca, .slice a' n' ca', .int .i64 ep, .int .i64 nx, .slice ua un uc] 32)) 32 [.slice none 0 0, .slice none 0 0, .int .i64 0, .int .i64 0, .slice none 0 0]
    rwa [World.size_alloc] at this
  have HQ : Hid (∀ W, Below W2.heap.size W2 W → BoxN W w.heap.size 32 [.slice a n ca, .slice a' n' ca', .int .i64 ep, .int .i64 nx, .slice ua un uc] ∧ BoxN W (w.heap.size + 1) 32 [.slice none 0 0, .slice none 0 0, .int .i64 0, .int .i64 0, .slice none 0 0]) := fun W h => ⟨q1.stays h, q2.stays h⟩
  have HX : Hid (∀ W, Below W2.heap.size W2 W → Strs W a n X ∧ Strs W a' n' Y ∧ UpRow W lo (.slice ua un uc) l) := fun W h => by
    have hw := HB2.out.trans (h.mono HB2.out.size)
    exact ⟨h1.below hw, h2.below hw, hu.stays hw⟩
  have HL : Hid (un = l.length ∧ (∀ e ∈ l, e.n ≤ 1099511627776) ∧ ∀ x ∈ X, x.size ≤ 1048576) := ⟨hun, hz, hzx⟩
  have hs2 : w.heap.size + 1 < W2.heap.size := q2.lt
  clear hW2 q1 q2 h1 h2 hu hun hz hzx
  obtain ⟨c0, c1, c2, c3, c4⟩ := (show _ ∧ _ ∧ _ ∧ _ ∧ _ from ⟨(HQ.out _ (Below.refl _ _)).1.cell 0 rfl, (HQ.out _ (Below.refl _ _)).1.cell 1 rfl, (HQ.out _ (Below.refl _ _)).1.cell 2 rfl, (HQ.out _ (Below.refl _ _)).1.cell 3 rfl, (HQ.out _ (Below.refl _ _)).1.cell 4 rfl⟩)
  go_enter Tryz.func21, Tryz.ntmps21
  go_upto_region 1 with fail
  rw [HE.out]
  clear HE
  go_wp2_with fail
  refine (specScopy_any a n ca X a' n' ca' Y ep nx ua un uc lo l W2 (HX.out _ (Below.refl _ _)).1 (HX.out _ (Below.refl _ _)).2.1 hn hn' (HX.out _ (Below.refl _ _)).2.2 HL.out.1 hul HL.out.2.1).mono ?_
  rintro e y1 ⟨⟨v, rfl, hv⟩, hb1⟩
  obtain ⟨b, cb, b', cb', va, vc, l', rfl, hs1, hm1⟩ := hv.get
  rw [List.length_map, ← HL.out.1] at hs1 ⊢
  have HA1 : Hid (SAt (y1.alloc (.cells #[.slice b X.length cb, .slice b' Y.length cb', .int .i64 ep, .int .i64 nx, .slice va un vc] 32)) W2.heap.size y1.heap.size b X.length cb X b' Y.length cb' Y ep nx va un vc l') := SAt.new hs1 hb1.size
  have HC1 : Hid (Below W2.heap.size W2 (y1.alloc (.cells #[.slice b X.length cb, .slice b' Y.length cb', .int .i64 ep, .int .i64 nx, .slice va un vc] 32))) := hb1.alloc hb1.size _
  have HM : Hid (l'.map UE.u = l.map UE.u) := hm1
  clear hv hs1 hb1 hm1 c0 c1 c2 c3 c4
  obtain ⟨d0, d1, d2, d3, d4⟩ := (show _ ∧ _ ∧ _ ∧ _ ∧ _ from ⟨(HQ.out _ HC1.out).1.cell 0 rfl, (HQ.out _ HC1.out).1.cell 1 rfl, (HQ.out _ HC1.out).1.cell 2 rfl, (HQ.out _ HC1.out).1.cell 3 rfl, (HQ.out _ HC1.out).1.cell 4 rfl⟩)
  go_wp2_with fail
  obtain ⟨w1, hw1⟩ : ∃ w1, y1.alloc (.cells #[.slice b X.length cb, .slice b' Y.length cb', .int .i64 ep, .int .i64 nx, .slice va un vc] 32) = w1 := ⟨_, rfl⟩
  rw [hw1] at HA1 HC1 ⊢
  clear hw1 d0 d1 d2 d3 d4
  generalize y1.heap.size = bo at *
  refine (specSok_any a n ca X a' n' ca' Y ep nx ua un uc lo l w1 (HX.out _ HC1.out).1 (HX.out _ HC1.out).2.1 hn hn' HL.out.2.2 (HX.out _ HC1.out).2.2 HL.out.1 hul).mono ?_
  rintro e y2 ⟨⟨ok, rfl, hok⟩, hb2⟩
  have HA2 : Hid (SAt y2 W2.heap.size bo b X.length cb X b' Y.length cb' Y ep nx va un vc l') := HA1.out.stays hb2
  have HC2 : Hid (Below W2.heap.size W2 y2) := HC1.out.trans (hb2.mono HC1.out.size)
  have hdb : decB (SOk X Y ep nx (l.map UE.u)) = ok := by
    rw [Bool.eq_iff_iff, hok]
    simp [decB]
  have HSy : Hid (syncY X Y ep nx (l.map UE.u) = if ok = true then X else Y) := by show _ = _; rw [syncY, hdb]
  have hlo : W2.heap.size ≤ bo := HA1.out.lob
  clear hb2 hok hdb HA1 HC1
  cases ok with
  | false =>
    obtain ⟨r0, r1, r2, r3, r4⟩ := (show _ ∧ _ ∧ _ ∧ _ ∧ _ from ⟨(HQ.out _ HC2.out).2.cell 0 rfl, (HQ.out _ HC2.out).2.cell 1 rfl, (HQ.out _ HC2.out).2.cell 2 rfl, (HQ.out _ HC2.out).2.cell 3 rfl, (HQ.out _ HC2.out).2.cell 4 rfl⟩)
    obtain ⟨o0, o1, o2, o3, o4⟩ := (show _ ∧ _ ∧ _ ∧ _ ∧ _ from ⟨HA2.out.box.cell 0 rfl, HA2.out.box.cell 1 rfl, HA2.out.box.cell 2 rfl, HA2.out.box.cell 3 rfl, HA2.out.box.cell 4 rfl⟩)
    obtain ⟨f0, f1, f2, f3, f4⟩ := (show _ ∧ _ ∧ _ ∧ _ ∧ _ from ⟨(HQ.out _ HC2.out).2.frozen 0, (HQ.out _ HC2.out).2.frozen 1, (HQ.out _ HC2.out).2.frozen 2, (HQ.out _ HC2.out).2.frozen 3, (HQ.out _ HC2.out).2.frozen 4⟩)
    have HBw : Hid (Below w.heap.size w y2) := HB2.out.trans (HC2.out.mono HB2.out.size)
    clear HQ HX HC2
    go_wp2_with fail
    refine bodyPost_ret (v := .agg #[.slice b X.length cb, .slice b' Y.length cb', .int .i64 ep, .int .i64 nx, .slice va un vc]) (by simp [results, Tryz.f21, go_sem, r0, r1, r2, r3, r4]) rfl ?_
    refine ⟨⟨_, rfl, b, X.length, cb, b', Y.length, cb', va, un, vc, l', rfl, ?_, HM.out⟩, ?_⟩
    · rw [HSy.out]
      exact (((((HA2.out.sto.setLow (by omega) _).setLow (by omega) _).setLow (by omega) _).setLow (by omega) _).setLow (by omega) _).low (by omega)
    · exact ((((HBw.out.setCell (by dsimp only; omega) _).setCell (by dsimp only; omega) _).setCell (by dsimp only; omega) _).setCell (by dsimp only; omega) _).setCell (by dsimp only; omega) _
  | true =>
    obtain ⟨d0, d1, d2, d3, d4⟩ := (show _ ∧ _ ∧ _ ∧ _ ∧ _ from ⟨(HQ.out _ HC2.out).1.cell 0 rfl, (HQ.out _ HC2.out).1.cell 1 rfl, (HQ.out _ HC2.out).1.cell 2 rfl, (HQ.out _ HC2.out).1.cell 3 rfl, (HQ.out _ HC2.out).1.cell 4 rfl⟩)
    go_wp2_with fail
    refine (specFlush_any a n ca X a' n' ca' Y y2 (HX.out _ HC2.out).1 (HX.out _ HC2.out).2.1 (by omega) (by omega)).mono ?_
    rintro e y3 ⟨⟨v3, rfl, A, C, A', C', rfl, ow, ow', hap⟩, hb3⟩
    have HA3 : Hid (SAt y3 W2.heap.size bo b X.length cb X b' Y.length cb' Y ep nx va un vc l') := HA2.out.stays hb3
    have HC3 : Hid (Below W2.heap.size W2 y3) := HC2.out.trans (hb3.mono HC2.out.size)
    have hbo : bo < y2.heap.size := HA2.out.box.lt
    have hlo2 : w.heap.size + 2 ≤ W2.heap.size := by omega
    have ho := HA3.out.box
    obtain ⟨o0, o1, o2, o3, o4⟩ := (show _ ∧ _ ∧ _ ∧ _ ∧ _ from ⟨ho.cell 0 rfl, ho.cell 1 rfl, ho.cell 2 rfl, ho.cell 3 rfl, ho.cell 4 rfl⟩)
    have z0 := ho.frozen 0
    have z1 := ho.frozen 1
    obtain ⟨x4, hx4⟩ : ∃ x4, (y3.setCell ⟨bo, 0, none⟩ (.slice A X.length C)).setCell ⟨bo, 1, none⟩ (.slice A' X.length C') = x4 := ⟨_, rfl⟩
    have HE4 : Hid ((y3.setCell ⟨bo, 0, none⟩ (.slice A X.length C)).setCell ⟨bo, 1, none⟩ (.slice A' X.length C') = x4) := hx4
    have HO4 : Hid (BoxN x4 bo 32 [.slice A X.length C, .slice A' X.length C', .int .i64 ep, .int .i64 nx, .slice va un vc]) := by
      show BoxN _ _ _ _
      rw [← hx4]
      exact (ho.set 0 _).set 1 _
    have HR4 : Hid (BoxN x4 (w.heap.size + 1) 32 [.slice none 0 0, .slice none 0 0, .int .i64 0, .int .i64 0, .slice none 0 0]) := by
      show BoxN _ _ _ _
      rw [← hx4]
      exact ((HQ.out _ HC3.out).2.other (by omega) _).other (by omega) _
    have hba : ∀ q, A.map (·.block) = some q → y2.heap.size ≤ q := fun q e => (ow.lt q (by rw [blk_own]; exact e)).1
    have hba' : ∀ q, A'.map (·.block) = some q → y2.heap.size ≤ q := fun q e => (ow'.lt q (by rw [blk_own]; exact e)).1
    have hn1 : blkOf (.slice A X.length C) ≠ some bo := fun e => by have := hba _ (by rw [← blk_own A X.length C]; exact e); omega
    have hn2 : blkOf (.slice A' X.length C') ≠ some bo := fun e => by have := hba' _ (by rw [← blk_own A' X.length C']; exact e); omega
    have hy2 : W2.heap.size ≤ y2.heap.size := HC2.out.size
    have HS4 : Hid (StoAt x4 (w.heap.size + 2) A X.length C X A' X.length C' X va un vc l') := by
      have hin := HA3.out.inn
      refine ⟨?_, ?_, hap, ?_, HA3.out.sto.len⟩
      · rw [← hx4]; exact ((ow.setCell hn1 _).setCell hn1 _).low (by omega)
      · rw [← hx4]; exact ((ow'.setCell hn2 _).setCell hn2 _).low (by omega)
      · rw [← hx4]
        have g1 : ∀ q, some bo = some q → (Value.slice va un vc).ownBlock ≠ some q := fun q hq hq2 => by injection hq with hq; have := hin.2.2.1 q (by rw [← ownBlock_sU va un vc]; exact hq2); omega
        have g2 : ∀ e ∈ l', ∀ q, some bo = some q → e.a.map (·.block) ≠ some q := fun e he q hq hq2 => by injection hq with hq; have := hin.2.2.2 e he q hq2; omega
        exact (((HA3.out.sto.ups.grown (grownBy_setU _ bo 0 _) g1 g2).grown (grownBy_setU _ bo 1 _) g1 g2)).low (by omega)
    have HB4 : Hid (Below w.heap.size w x4) := by
      show Below _ _ _
      rw [← hx4]
      exact ((HB2.out.trans (HC3.out.mono HB2.out.size)).setCell (by dsimp only; omega) _).setCell (by dsimp only; omega) _
    clear hx4 ow ow' hap hb3 ho hba hba' hn1 hn2 HA2 HA3 HC2 HC3 HQ HX d0 d1 d2 d3 d4
    go_upto_region 4 with fail
    rw [HE4.out]
    clear HE4 z0 z1 o0 o1 o2 o3 o4
    obtain ⟨o0, o1, o2, o3, o4⟩ := (show _ ∧ _ ∧ _ ∧ _ ∧ _ from ⟨HO4.out.cell 0 rfl, HO4.out.cell 1 rfl, HO4.out.cell 2 rfl, HO4.out.cell 3 rfl, HO4.out.cell 4 rfl⟩)
    obtain ⟨r0, r1, r2, r3, r4⟩ := (show _ ∧ _ ∧ _ ∧ _ ∧ _ from ⟨HR4.out.cell 0 rfl, HR4.out.cell 1 rfl, HR4.out.cell 2 rfl, HR4.out.cell 3 rfl, HR4.out.cell 4 rfl⟩)
    obtain ⟨f0, f1, f2, f3, f4⟩ := (show _ ∧ _ ∧ _ ∧ _ ∧ _ from ⟨HR4.out.frozen 0, HR4.out.frozen 1, HR4.out.frozen 2, HR4.out.frozen 3, HR4.out.frozen 4⟩)
    clear HO4 HR4
    go_wp2_with fail
    refine bodyPost_ret (v := .agg #[.slice A X.length C, .slice A' X.length C', .int .i64 ep, .int .i64 nx, .slice va un vc]) (by simp [results, Tryz.f21, go_sem, r0, r1, r2, r3, r4]) rfl ?_
    refine ⟨⟨_, rfl, A, X.length, C, A', X.length, C', va, un, vc, l', rfl, ?_, HM.out⟩, ?_⟩
    · rw [HSy.out]
      exact (((((HS4.out.setLow (by omega) _).setLow (by omega) _).setLow (by omega) _).setLow (by omega) _).setLow (by omega) _).low (by omega)
    · exact ((((HB4.out.setCell (by dsimp only; omega) _).setCell (by dsimp only; omega) _).setCell (by dsimp only; omega) _).setCell (by dsimp only; omega) _).setCell (by dsimp only; omega) _

end Go.Proofs.YtammmecddnafaaaGreatDoor
