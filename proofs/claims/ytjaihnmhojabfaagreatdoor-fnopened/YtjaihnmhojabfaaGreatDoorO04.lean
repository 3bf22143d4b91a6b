/- What the program's SyncStore answers. What the program's FallDisk answers. The law that what opens of a drawn disk is right, and opened again it has the same; its epoch is above all that were written; under its table and its error. -/
import Derived.Test.YtjaihnmhojabfaaGreatDoorM43
import Derived.Test.YtjaihnmhojabfaaGreatDoorM41
import Derived.Test.YtjaihnmhojabfaaGreatDoorO03
import Derived.Test.YtjaihnmhojabfaaGreatDoorM05
import Derived.Test.YtjaihnmhojabfaaGreatDoorM08
import Derived.Test.YtjaihnmhojabfaaGreatDoorM23
import Derived.Test.YtjaihnmhojabfaaGreatDoorM34
import Derived.Test.YtjaihnmhojabfaaGreatDoorM09
import Derived.Deep.CutBlock
import Derived.WalkMore
import Derived.Deep.RegionHeld3
import Derived.Test.YtjaihnmhojabfaaGreatDoorM40
import Derived.Test.YtjaihnmhojabfaaGreatDoorM40
import Derived.Test.YtjaihnmhojabfaaGreatDoorM45
import Derived.Test.YtjaihnmhojabfaaGreatDoorM45
import Derived.BigQuiet
namespace Go.Proofs.YtjaihnmhojabfaaGreatDoor
open Go.RowKit
set_option linter.unusedVariables false

set_option maxRecDepth 10000 in
set_option maxHeartbeats 3200000 in
theorem implSync_any (a : Option Addr) (n ca : Nat) (X : List ByteArray) (a' : Option Addr) (n' ca' : Nat) (Y : List ByteArray) (ep nx : Int) (ua : Option Addr) (un uc lo : Nat) (l : List UE) (w : World) (h1 : Strs w a n X) (h2 : Strs w a' n' Y) (hn : n ≤ 1048576) (hn' : n' ≤ 1048576) (hzx : ∀ x ∈ X, x.size ≤ 1048576) (hu : UpRow w lo (.slice ua un uc) l) (hun : un = l.length) (hul : un ≤ 1048576) (hz : ∀ e ∈ l, e.n ≤ 1099511627776) (hsl : SlOk a n ca) (ht : RecT w) (he : ErrN w) :
    Calls Tryz.prog 24 #[.agg #[.slice a n ca, .slice a' n' ca', .int .i64 ep, .int .i64 nx, .slice ua un uc]] w fun e w' => (∃ v, e = .returned v ∧ AnsS w.heap.size X (syncY X Y ep nx (l.map UE.u)) ep nx (l.map UE.u) v w') ∧ Below w.heap.size w w' := by
  obtain ⟨W2, hW2⟩ : ∃ W2, (w.alloc (.cells #[.slice a n ca, .slice a' n' ca', .int .i64 ep, .int .i64 nx, .slice ua un uc] 29)).alloc (.cells #[.slice none 0 0, .slice none 0 0, .int .i64 0, .int .i64 0, .slice none 0 0] 29) = W2 := ⟨_, rfl⟩
  have HE : Hid ((w.alloc (.cells #[.slice a n ca, .slice a' n' ca', .int .i64 ep, .int .i64 nx, .slice ua un uc] 29)).alloc (.cells #[.slice none 0 0, .slice none 0 0, .int .i64 0, .int .i64 0, .slice none 0 0] 29) = W2) := hW2
  have HB2 : Hid (Below w.heap.size w W2) := by show Below _ _ _; rw [← hW2]; exact ((Below.refl _ _).alloc (Nat.le_refl _) _).alloc (by simp) _
  have q1 : BoxN W2 w.heap.size 29 [.slice a n ca, .slice a' n' ca', .int .i64 ep, .int .i64 nx, .slice ua un uc] := by rw [← hW2]; exact (BoxN.new _ _ _).alloc _
  have q2 : BoxN W2 (w.heap.size + 1) 29 [.slice none 0 0, .slice none 0 0, .int .i64 0, .int .i64 0, .slice none 0 0] := by
    rw [← hW2]
    have := BoxN.new (w.alloc (.cells #[.slice a n ca, .slice a' n' ca', .int .i64 ep, .int .i64 nx, .slice ua un uc] 29)) 29 [.slice none 0 0, .slice none 0 0, .int .i64 0, .int .i64 0, .slice none 0 0]
    rwa [World.size_alloc] at this
  have HQ : Hid (∀ W, Below W2.heap.size W2 W → BoxN W w.heap.size 29 [.slice a n ca, .slice a' n' ca', .int .i64 ep, .int .i64 nx, .slice ua un uc] ∧ BoxN W (w.heap.size + 1) 29 [.slice none 0 0, .slice none 0 0, .int .i64 0, .int .i64 0, .slice none 0 0]) := fun W h => ⟨q1.stays h, q2.stays h⟩
  have HX : Hid (∀ W, Below W2.heap.size W2 W → Strs W a n X ∧ Strs W a' n' Y ∧ UpRow W lo (.slice ua un uc) l ∧ RecT W ∧ ErrN W) := fun W h => by
    have hw := HB2.out.trans (h.mono HB2.out.size)
    exact ⟨h1.below hw, h2.below hw, hu.stays hw, ht.below hw, he.below hw⟩
  have HL : Hid (un = l.length ∧ (∀ e ∈ l, e.n ≤ 1099511627776) ∧ ∀ x ∈ X, x.size ≤ 1048576) := ⟨hun, hz, hzx⟩
  have hs2 : w.heap.size + 1 < W2.heap.size := q2.lt
  clear hW2 q1 q2 h1 h2 hu hun hz hzx ht he
  obtain ⟨c0, c1, c2, c3, c4⟩ := (show _ ∧ _ ∧ _ ∧ _ ∧ _ from ⟨(HQ.out _ (Below.refl _ _)).1.cell 0 rfl, (HQ.out _ (Below.refl _ _)).1.cell 1 rfl, (HQ.out _ (Below.refl _ _)).1.cell 2 rfl, (HQ.out _ (Below.refl _ _)).1.cell 3 rfl, (HQ.out _ (Below.refl _ _)).1.cell 4 rfl⟩)
  go_enter Tryz.func24, Tryz.ntmps24
  go_upto_region 1 with fail
  rw [HE.out]
  clear HE
  go_wp2_with fail
  refine (implScopy_any a n ca X a' n' ca' Y ep nx ua un uc lo l W2 (HX.out _ (Below.refl _ _)).1 (HX.out _ (Below.refl _ _)).2.1 hn hn' (HX.out _ (Below.refl _ _)).2.2.1 HL.out.1 hul HL.out.2.1).mono ?_
  rintro e y1 ⟨⟨v, rfl, hv⟩, hb1⟩
  obtain ⟨b, cb, b', cb', va, vc, l', rfl, hs1, hm1⟩ := hv.get
  rw [List.length_map, ← HL.out.1] at hs1 ⊢
  have HA1 : Hid (SAt (y1.alloc (.cells #[.slice b X.length cb, .slice b' Y.length cb', .int .i64 ep, .int .i64 nx, .slice va un vc] 29)) W2.heap.size y1.heap.size b X.length cb X b' Y.length cb' Y ep nx va un vc l') := SAt.new hs1 hb1.size
  have HC1 : Hid (Below W2.heap.size W2 (y1.alloc (.cells #[.slice b X.length cb, .slice b' Y.length cb', .int .i64 ep, .int .i64 nx, .slice va un vc] 29))) := hb1.alloc hb1.size _
  have HM : Hid (l'.map UE.u = l.map UE.u) := hm1
  clear hv hs1 hb1 hm1 c0 c1 c2 c3 c4
  obtain ⟨d0, d1, d2, d3, d4⟩ := (show _ ∧ _ ∧ _ ∧ _ ∧ _ from ⟨(HQ.out _ HC1.out).1.cell 0 rfl, (HQ.out _ HC1.out).1.cell 1 rfl, (HQ.out _ HC1.out).1.cell 2 rfl, (HQ.out _ HC1.out).1.cell 3 rfl, (HQ.out _ HC1.out).1.cell 4 rfl⟩)
  go_wp2_with fail
  obtain ⟨w1, hw1⟩ : ∃ w1, y1.alloc (.cells #[.slice b X.length cb, .slice b' Y.length cb', .int .i64 ep, .int .i64 nx, .slice va un vc] 29) = w1 := ⟨_, rfl⟩
  rw [hw1] at HA1 HC1 ⊢
  clear hw1 d0 d1 d2 d3 d4
  generalize y1.heap.size = bo at *
  refine (implSok_any a n ca X a' n' ca' Y ep nx ua un uc lo l w1 (HX.out _ HC1.out).1 (HX.out _ HC1.out).2.1 hn hn' HL.out.2.2 (HX.out _ HC1.out).2.2.1 HL.out.1 hul hsl (HX.out _ HC1.out).2.2.2.1 (HX.out _ HC1.out).2.2.2.2).mono ?_
  rintro e y2 ⟨rfl, hb2⟩
  obtain ⟨ok, hdb⟩ : ∃ ok, decB (SOk X Y ep nx (l.map UE.u)) = ok := ⟨_, rfl⟩
  rw [hdb]
  have HA2 : Hid (SAt y2 W2.heap.size bo b X.length cb X b' Y.length cb' Y ep nx va un vc l') := HA1.out.stays hb2
  have HC2 : Hid (Below W2.heap.size W2 y2) := HC1.out.trans (hb2.mono HC1.out.size)
  have HSy : Hid (syncY X Y ep nx (l.map UE.u) = if ok = true then X else Y) := by show _ = _; rw [syncY, hdb]
  have hlo : W2.heap.size ≤ bo := HA1.out.lob
  clear hb2 hdb HA1 HC1
  cases ok with
  | false =>
    obtain ⟨r0, r1, r2, r3, r4⟩ := (show _ ∧ _ ∧ _ ∧ _ ∧ _ from ⟨(HQ.out _ HC2.out).2.cell 0 rfl, (HQ.out _ HC2.out).2.cell 1 rfl, (HQ.out _ HC2.out).2.cell 2 rfl, (HQ.out _ HC2.out).2.cell 3 rfl, (HQ.out _ HC2.out).2.cell 4 rfl⟩)
    obtain ⟨o0, o1, o2, o3, o4⟩ := (show _ ∧ _ ∧ _ ∧ _ ∧ _ from ⟨HA2.out.box.cell 0 rfl, HA2.out.box.cell 1 rfl, HA2.out.box.cell 2 rfl, HA2.out.box.cell 3 rfl, HA2.out.box.cell 4 rfl⟩)
    obtain ⟨f0, f1, f2, f3, f4⟩ := (show _ ∧ _ ∧ _ ∧ _ ∧ _ from ⟨(HQ.out _ HC2.out).2.frozen 0, (HQ.out _ HC2.out).2.frozen 1, (HQ.out _ HC2.out).2.frozen 2, (HQ.out _ HC2.out).2.frozen 3, (HQ.out _ HC2.out).2.frozen 4⟩)
    have HBw : Hid (Below w.heap.size w y2) := HB2.out.trans (HC2.out.mono HB2.out.size)
    clear HQ HX HC2
    go_wp2_with fail
    refine bodyPost_ret (v := .agg #[.slice b X.length cb, .slice b' Y.length cb', .int .i64 ep, .int .i64 nx, .slice va un vc]) (by simp [results, Tryz.f24, go_sem, r0, r1, r2, r3, r4]) rfl ?_
    refine ⟨⟨_, rfl, b, X.length, cb, b', Y.length, cb', va, un, vc, l', rfl, ?_, HM.out⟩, ?_⟩
    · rw [HSy.out]
      exact (((((HA2.out.sto.setLow (by omega) _).setLow (by omega) _).setLow (by omega) _).setLow (by omega) _).setLow (by omega) _).low (by omega)
    · exact ((((HBw.out.setCell (by dsimp only; omega) _).setCell (by dsimp only; omega) _).setCell (by dsimp only; omega) _).setCell (by dsimp only; omega) _).setCell (by dsimp only; omega) _
  | true =>
    obtain ⟨d0, d1, d2, d3, d4⟩ := (show _ ∧ _ ∧ _ ∧ _ ∧ _ from ⟨HA2.out.box.cell 0 rfl, HA2.out.box.cell 1 rfl, HA2.out.box.cell 2 rfl, HA2.out.box.cell 3 rfl, HA2.out.box.cell 4 rfl⟩)
    have hXn : X.length ≤ 1048576 := by have := (HX.out _ HC2.out).1.1; omega
    go_wp2_with fail
    refine (implFlush_any b X.length cb X b' Y.length cb' y2 HA2.out.sto.now.strs (by omega)).mono ?_
    rintro e y3 ⟨⟨v3, rfl, A, C, A', C', rfl, ow, ow', hap⟩, hb3⟩
    have HA3 : Hid (SAt y3 W2.heap.size bo b X.length cb X b' Y.length cb' Y ep nx va un vc l') := HA2.out.stays hb3
    have HC3 : Hid (Below W2.heap.size W2 y3) := HC2.out.trans (hb3.mono HC2.out.size)
    have hbo : bo < y2.heap.size := HA2.out.box.lt
    have hlo2 : w.heap.size + 2 ≤ W2.heap.size := by omega
    have ho := HA3.out.box
    obtain ⟨o0, o1, o2, o3, o4⟩ := (show _ ∧ _ ∧ _ ∧ _ ∧ _ from ⟨ho.cell 0 rfl, ho.cell 1 rfl, ho.cell 2 rfl, ho.cell 3 rfl, ho.cell 4 rfl⟩)
    have z0 := ho.frozen 0
    have z1 := ho.frozen 1
    obtain ⟨x4, hx4⟩ : ∃ x4, (y3.setCell ⟨bo, 0, none⟩ (.slice A X.length C)).setCell ⟨bo, 1, none⟩ (.slice A' X.length C') = x4 := ⟨_, rfl⟩
    have HE4 : Hid ((y3.setCell ⟨bo, 0, none⟩ (.slice A X.length C)).setCell ⟨bo, 1, none⟩ (.slice A' X.length C') = x4) := hx4
    have HO4 : Hid (BoxN x4 bo 29 [.slice A X.length C, .slice A' X.length C', .int .i64 ep, .int .i64 nx, .slice va un vc]) := by
      show BoxN _ _ _ _
      rw [← hx4]
      exact (ho.set 0 _).set 1 _
    have HR4 : Hid (BoxN x4 (w.heap.size + 1) 29 [.slice none 0 0, .slice none 0 0, .int .i64 0, .int .i64 0, .slice none 0 0]) := by
      show BoxN _ _ _ _
      rw [← hx4]
      exact ((HQ.out _ HC3.out).2.other (by omega) _).other (by omega) _
    have hba : ∀ q, A.map (·.block) = some q → y2.heap.size ≤ q := fun q e => (ow.lt q (by rw [blk_own]; exact e)).1
    have hba' : ∀ q, A'.map (·.block) = some q → y2.heap.size ≤ q := fun q e => (ow'.lt q (by rw [blk_own]; exact e)).1
    have hn1 : blkOf (.slice A X.length C) ≠ some bo := fun e => by have := hba _ (by rw [← blk_own A X.length C]; exact e); omega
    have hn2 : blkOf (.slice A' X.length C') ≠ some bo := fun e => by have := hba' _ (by rw [← blk_own A' X.length C']; exact e); omega
    have hy2 : W2.heap.size ≤ y2.heap.size := HC2.out.size
    have HS4 : Hid (StoAt x4 (w.heap.size + 2) A X.length C X A' X.length C' X va un vc l') := by
      have hin := HA3.out.inn
      refine ⟨?_, ?_, hap, ?_, HA3.out.sto.len⟩
      · rw [← hx4]; exact ((ow.setCell hn1 _).setCell hn1 _).low (by omega)
      · rw [← hx4]; exact ((ow'.setCell hn2 _).setCell hn2 _).low (by omega)
      · rw [← hx4]
        have g1 : ∀ q, some bo = some q → (Value.slice va un vc).ownBlock ≠ some q := fun q hq hq2 => by injection hq with hq; have := hin.2.2.1 q (by rw [← ownBlock_sU va un vc]; exact hq2); omega
        have g2 : ∀ e ∈ l', ∀ q, some bo = some q → e.a.map (·.block) ≠ some q := fun e he q hq hq2 => by injection hq with hq; have := hin.2.2.2 e he q hq2; omega
        exact (((HA3.out.sto.ups.grown (grownBy_setU _ bo 0 _) g1 g2).grown (grownBy_setU _ bo 1 _) g1 g2)).low (by omega)
    have HB4 : Hid (Below w.heap.size w x4) := by
      show Below _ _ _
      rw [← hx4]
      exact ((HB2.out.trans (HC3.out.mono HB2.out.size)).setCell (by dsimp only; omega) _).setCell (by dsimp only; omega) _
    clear hx4 ow ow' hap hb3 ho hba hba' hn1 hn2 HA2 HA3 HC2 HC3 HQ HX d0 d1 d2 d3 d4
    go_upto_region 4 with fail
    rw [HE4.out]
    clear HE4 z0 z1 o0 o1 o2 o3 o4
    obtain ⟨o0, o1, o2, o3, o4⟩ := (show _ ∧ _ ∧ _ ∧ _ ∧ _ from ⟨HO4.out.cell 0 rfl, HO4.out.cell 1 rfl, HO4.out.cell 2 rfl, HO4.out.cell 3 rfl, HO4.out.cell 4 rfl⟩)
    obtain ⟨r0, r1, r2, r3, r4⟩ := (show _ ∧ _ ∧ _ ∧ _ ∧ _ from ⟨HR4.out.cell 0 rfl, HR4.out.cell 1 rfl, HR4.out.cell 2 rfl, HR4.out.cell 3 rfl, HR4.out.cell 4 rfl⟩)
    obtain ⟨f0, f1, f2, f3, f4⟩ := (show _ ∧ _ ∧ _ ∧ _ ∧ _ from ⟨HR4.out.frozen 0, HR4.out.frozen 1, HR4.out.frozen 2, HR4.out.frozen 3, HR4.out.frozen 4⟩)
    clear HO4 HR4
    go_wp2_with fail
    refine bodyPost_ret (v := .agg #[.slice A X.length C, .slice A' X.length C', .int .i64 ep, .int .i64 nx, .slice va un vc]) (by simp [results, Tryz.f24, go_sem, r0, r1, r2, r3, r4]) rfl ?_
    refine ⟨⟨_, rfl, A, X.length, C, A', X.length, C', va, un, vc, l', rfl, ?_, HM.out⟩, ?_⟩
    · rw [HSy.out]
      exact (((((HS4.out.setLow (by omega) _).setLow (by omega) _).setLow (by omega) _).setLow (by omega) _).setLow (by omega) _).low (by omega)
    · exact ((((HB4.out.setCell (by dsimp only; omega) _).setCell (by dsimp only; omega) _).setCell (by dsimp only; omega) _).setCell (by dsimp only; omega) _).setCell (by dsimp only; omega) _

end Go.Proofs.YtjaihnmhojabfaaGreatDoor

namespace Go.Proofs.YtjaihnmhojabfaaGreatDoor
open Go.RowKit
set_option linter.unusedVariables false

theorem blkOf_sG (a : Option Addr) (n c : Nat) : blkOf (.slice a n c) = a.map (·.block) := by cases a <;> rfl

set_option maxRecDepth 10000 in
set_option maxHeartbeats 3200000 in
theorem implFall_any (a : Option Addr) (n ca : Nat) (xs : List ByteArray) (a' : Option Addr) (n' ca' : Nat) (ys : List ByteArray) (ka : Option Addr) (m kc : Nat) (ks : List Bool) (w : World) (h1 : Strs w a n xs) (h2 : Strs w a' n' ys) (h3 : Bools w ka m ks) (hn : n ≤ 2097152) (hn' : n' ≤ 2097152) (hm : m ≤ 1099511627776) :
    Calls Tryz.prog 23 #[.agg #[.slice a n ca, .slice a' n' ca'], .slice ka m kc] w fun e w' => (∃ v, e = .returned v ∧ AnsD w.heap.size (fallX xs ys ks) (fallY xs ys ks) v w') ∧ Below w.heap.size w w' := by
  have HK : Hid (∀ W, Below w.heap.size w W → Bools W ka m ks) := fun W h => h3.below h
  have HKl : Hid (ks.length = m) := h3.1
  clear h3
  have HX : Hid (∀ W, Below w.heap.size w W → Strs W a n xs ∧ Strs W a' n' ys) := fun W h => ⟨h1.below h, h2.below h⟩
  have HLn : Hid (xs.length = n ∧ ys.length = n') := ⟨h1.1, h2.1⟩
  obtain ⟨W2, hW2⟩ : ∃ W2, (w.alloc (.cells #[.slice a n ca, .slice a' n' ca'] 26)).alloc (.cells #[.slice none 0 0, .slice none 0 0] 26) = W2 := ⟨_, rfl⟩
  have HE : Hid ((w.alloc (.cells #[.slice a n ca, .slice a' n' ca'] 26)).alloc (.cells #[.slice none 0 0, .slice none 0 0] 26) = W2) := hW2
  have HB2 : Hid (Below w.heap.size w W2) := by show Below _ _ _; rw [← hW2]; exact ((Below.refl _ _).alloc (Nat.le_refl _) _).alloc (by simp) _
  have HZ2 : Hid (W2.heap.size = w.heap.size + 2) := by show _ = _; rw [← hW2]; simp
  have HQ1 : Hid (Box2R W2 w.heap.size 26 (.slice a n ca) (.slice a' n' ca')) := by show Box2R _ _ _ _ _; rw [← hW2]; exact (Box2R.new _ _ _ _).alloc _
  have HQ2 : Hid (Box2R W2 (w.heap.size + 1) 26 (.slice none 0 0) (.slice none 0 0)) := by
    show Box2R _ _ _ _ _
    rw [← hW2]
    have := Box2R.new (w.alloc (.cells #[.slice a n ca, .slice a' n' ca'] 26)) 26 (.slice none 0 0) (.slice none 0 0)
    rwa [World.size_alloc] at this
  clear hW2 h1 h2
  go_enter Tryz.func23, Tryz.ntmps23
  go_wp2_with fail
  go_step3
  rw [HE.out]
  clear HE
  obtain ⟨c0, c1⟩ := HQ1.out.cells
  go_wp2_with fail
  refine (implDcopy_any a n ca xs a' n' ca' ys _ (HX.out _ HB2.out).1 (HX.out _ HB2.out).2 hn hn').mono ?_
  rintro e x3 ⟨⟨v, rfl, A, C, A', C', rfl, o1, o2, hap⟩, hb3⟩
  rw [HLn.out.1] at o1 ⊢
  rw [HLn.out.2] at o2 ⊢
  have HD : Hid (DOut w (x3.alloc (.cells #[.slice A n C, .slice A' n' C'] 26)) (.slice a n ca) (.slice a' n' ca') x3.heap.size (.slice A n C) (.slice A' n' C') n n' xs ys) := DOut.new HQ1.out HQ2.out HZ2.out HB2.out hb3 o1 o2 (fun q e e2 => by rw [blkOf_sG] at e e2; exact hap q e e2)
  clear o1 o2 hap hb3 HQ1 HQ2 HB2 HZ2 c0 c1
  go_upto_region 2 with fail
  obtain ⟨W3, hW3⟩ : ∃ W3, x3.alloc (.cells #[.slice A n C, .slice A' n' C'] 26) = W3 := ⟨_, rfl⟩
  rw [hW3] at HD ⊢
  clear hW3
  generalize x3.heap.size = o at *
  obtain ⟨c0, c1⟩ := HD.out.1.cells
  go_wp2_with fail
  refine (implDok_any a n ca xs a' n' ca' ys _ (HX.out _ HD.out.2.2.2.2.2.2.2.2).1 (HX.out _ HD.out.2.2.2.2.2.2.2.2).2 (by omega) (by omega)).mono ?_
  rintro e x4 ⟨rfl, hb4⟩
  have HDx : Hid (DOut w x4 (.slice a n ca) (.slice a' n' ca') o (.slice A n C) (.slice A' n' C') n n' xs ys) := HD.out.stays hb4
  clear hb4 HD c0 c1
  cases hok : okD xs ys
  · have HPX : Hid (fallX xs ys ks = xs) := by show _ = _; rw [fallX, hok]; rfl
    have HPY : Hid (fallY xs ys ks = ys) := by show _ = _; rw [fallY, hok]; rfl
    clear hok
    obtain ⟨c0, c1⟩ := HDx.out.2.2.1.cells
    obtain ⟨r0, r1⟩ := HDx.out.2.1.cells
    have f0 := HDx.out.2.1.frozen 0
    have f1 := HDx.out.2.1.frozen 1
    have HR := (show Hid _ from HDx.out.done)
    clear HDx
    go_wp2_with fail
    rw [Exit.noGoto_ret]
    refine bodyPost_ret (v := .agg #[.slice A n C, .slice A' n' C']) (by simp [results, Tryz.f23, go_sem, r0, r1]) rfl ?_
    exact ⟨⟨_, rfl, by rw [HPX.out, HPY.out]; exact HR.out.1⟩, HR.out.2⟩
  obtain rfl : n = n' := by
    have h := (okD_iff.1 hok).1
    have := HLn.out
    omega
  have HPX : Hid (fallX xs ys ks = fallL xs ys ks) := by show _ = _; rw [fallX, hok]; rfl
  have HPY : Hid (fallY xs ys ks = fallL xs ys ks) := by show _ = _; rw [fallY, hok]; rfl
  have HFl : Hid ((fallL xs ys ks).length = xs.length ∧ (fallL xs ys ks).length = ys.length) := ⟨fallL_len _ _ _, (fallL_len _ _ _).trans (okD_iff.1 hok).1⟩
  have HFa : Hid (∀ (k : Nat) (x y : ByteArray), xs[k]? = some x → ys[k]? = some y → (fallL xs ys ks)[k]? = some (if ks.getD k false then x else y)) := fun k x y h1 h2 => fallL_at h1 h2
  clear hok
  generalize fallL xs ys ks = F at *
  obtain ⟨c0, c1⟩ := HDx.out.1.cells
  go_wp2_with fail
  go_step3
  go_wp2_with fail
  clear c0 c1
  go_loopw [17] (fun i wr => ∃ k : Nat, k ≤ n ∧ i = .int .i64 (k : Int) ∧ Hid (DOut w wr (.slice a n ca) (.slice a' n ca') o (.slice A n C) (.slice A' n C') n n (fallTo F xs k) ys)) (fun i _ => n - (intOf i).toNat)
  case atStart => exact ⟨0, Nat.zero_le _, rfl, by rw [fallTo_zero]; exact HDx⟩
  case round =>
    clear HDx
    obtain ⟨k, hk, rfl, HDk⟩ := hrel
    by_cases hlt : k < n
    · obtain ⟨g, rfl⟩ : ∃ g, A = some ⟨g, 0, none⟩ := by
        rcases HDk.out.2.2.2.1.1.2 with ⟨_, h0⟩ | ⟨g, cap', cur, he, _⟩
        · omega
        · injection he with e1 _ _
          exact ⟨g, e1⟩
      have hbel := HDk.out.2.2.2.2.2.2.2.2
      obtain ⟨x, hx⟩ : ∃ x, xs[k]? = some x := ⟨_, List.getElem?_eq_getElem (by have := HLn.out; omega)⟩
      obtain ⟨yb, yo, y, rfl, _, hy, hcy⟩ := (HX.out _ hbel).2.at hlt
      have hym : y.size ≤ maxLen := (HX.out _ hbel).2.2.1 y (List.mem_of_getElem? hy)
      have HFk0 := (show Hid _ from HFa.out k x y hx hy)
      have HXk : Hid (xs[k]? = some x) := hx
      clear hx hy
      have hki : (k : Int) < (n : Int) := by omega
      have hk0 : (0 : Int) ≤ (k : Int) := by omega
      have HP0 : Hid (F[k]? = some y → DOut w (wr.setCell ⟨g, k, none⟩ (.string y)) (.slice a n ca) (.slice (some ⟨yb, yo, none⟩) n ca') o (.slice (some ⟨g, 0, none⟩) n C) (.slice A' n C') n n (fallTo F xs (k + 1)) ys) := by
        intro hF
        have h := HDk.out.put0 (j := k) y hym
        rw [fallTo_set F xs k y HFl.out.1 (by have := HLn.out; omega) hF] at h
        exact h
      have fz : wr.frozen? ⟨g, k, none⟩ = false := HDk.out.2.2.2.1.1.frozenAt _
      obtain ⟨u0, hu0⟩ : ∃ u, wr.cell? ⟨g, k, none⟩ = some u := by
        have hcl : (scells (fallTo F xs k)).length = n := by rw [scells_len, fallTo_len F xs k HFl.out.1 (by have := HLn.out; omega), HLn.out.1]
        rw [HDk.out.2.2.2.1.1.cellAt _ (by omega)]
        exact ⟨_, List.getElem?_eq_getElem (by omega)⟩
      obtain ⟨c0, c1⟩ := HDk.out.2.2.1.cells
      by_cases hkm : k < m
      case neg =>
        have HFk : Hid (F[k]? = some y) := by
          have h := HFk0.out
          have e : ks[k]? = none := List.getElem?_eq_none (by have := HKl.out; omega)
          rw [List.getD_eq_getElem?_getD, e] at h
          exact h
        have hkmi : ¬ (k : Int) < (m : Int) := by omega
        have HD2 := (show Hid _ from HP0.out HFk.out)
        clear HFk0 hbel HP0 HDk HXk HFk
        go_wp2_with fail
        go_roundw
        case rel => exact ⟨k + 1, by omega, by go_num, HD2⟩
        case measure => simp [intOf]; omega
      obtain ⟨kb, ko, b, rfl, _, hkb, hcb⟩ := (HK.out _ hbel).at hkm
      have hkmi : (k : Int) < (m : Int) := by omega
      have HFk1 : Hid (F[k]? = some (if b then x else y)) := by
        have h := HFk0.out
        rw [List.getD_eq_getElem?_getD, hkb] at h
        exact h
      clear HFk0 hbel hkb
      cases b
      · have HD2 := (show Hid _ from HP0.out HFk1.out)
        clear HFk1 HP0 HDk HXk
        go_wp2_with fail
        go_roundw
        case rel => exact ⟨k + 1, by omega, by go_num, HD2⟩
        case measure => simp [intOf]; omega
      · have HD2 : Hid (DOut w wr (.slice a n ca) (.slice (some ⟨yb, yo, none⟩) n ca') o (.slice (some ⟨g, 0, none⟩) n C) (.slice A' n C') n n (fallTo F xs (k + 1)) ys) := by
          have h := HDk.out
          rw [fallTo_same F xs k x HFl.out.1 HXk.out HFk1.out] at h
          exact h
        clear HFk1 HP0 HDk HXk
        go_wp2_with fail
        go_roundw
        case rel => exact ⟨k + 1, by omega, by go_num, HD2⟩
        case measure => simp [intOf]; omega
    · obtain rfl : k = n := by omega
      have HDx : Hid (DOut w wr (.slice a k ca) (.slice a' k ca') o (.slice A k C) (.slice A' k C') k k F ys) := by
        have h := HDk.out
        have hl := HLn.out
        rw [show fallTo F xs k = F from by rw [← hl.1]; exact fallTo_all F xs HFl.out.1] at h
        exact h
      clear HDk
      obtain ⟨c0, c1⟩ := HDx.out.2.2.1.cells
      go_wp2_with fail
      refine (implFlush_any A k C F A' k C' _ HDx.out.2.2.2.1.strs (by omega)).mono ?_
      rintro e x7 ⟨⟨v, rfl, B, D, B', D', rfl, o1, o2, hap⟩, hb7⟩
      have hFn : F.length = k := HFl.out.1.trans HLn.out.1
      rw [hFn] at o1 o2 ⊢
      have hbx := HDx.out.2.1.stays hb7
      obtain ⟨r0, r1⟩ := hbx.cells
      have f0 := hbx.frozen 0
      have f1 := hbx.frozen 1
      have HR : Hid (AnsD w.heap.size F F (.agg #[.slice B k D, .slice B' k D']) ((x7.setCell ⟨w.heap.size + 1, 0, none⟩ (.slice B k D)).setCell ⟨w.heap.size + 1, 1, none⟩ (.slice B' k D')) ∧ Below w.heap.size w ((x7.setCell ⟨w.heap.size + 1, 0, none⟩ (.slice B k D)).setCell ⟨w.heap.size + 1, 1, none⟩ (.slice B' k D'))) := by
        have hlt := HDx.out.2.1.lt
        have hbel := HDx.out.2.2.2.2.2.2.2.2
        have n1 : blkOf (.slice B k D) ≠ some (w.heap.size + 1) := fun e => by have := (o1.lt _ e).1; omega
        have n2 : blkOf (.slice B' k D') ≠ some (w.heap.size + 1) := fun e => by have := (o2.lt _ e).1; omega
        have hbw := hbel.trans (hb7.mono hbel.size)
        exact ⟨AnsD.mk' hFn hFn (((o1.setCell n1 _).setCell n1 _).low (by omega)) (((o2.setCell n2 _).setCell n2 _).low (by omega)) hap, (hbw.setCell (by dsimp only; omega) _).setCell (by dsimp only; omega) _⟩
      clear HDx c0 c1 o1 o2 hap hb7 hbx
      go_wp2_with fail
      rw [Exit.noGoto_ret]
      refine bodyPost_ret (v := .agg #[.slice B k D, .slice B' k D']) (by simp [results, Tryz.f23, go_sem, r0, r1]) rfl ?_
      exact ⟨⟨_, rfl, by rw [HPX.out, HPY.out]; exact HR.out.1⟩, HR.out.2⟩

end Go.Proofs.YtjaihnmhojabfaaGreatDoor

namespace Go.Proofs.YtjaihnmhojabfaaGreatDoor
open Go.RowKit
set_option linter.unusedVariables false

theorem bools_none (w : World) (a : Option Addr) : Bools w a 0 [] := ⟨rfl, trivial, .inl rfl⟩

theorem row_lenO {W : World} {lo : Nat} {ra : Option Addr} {M rc : Nat} {rs : List RE} {X : List ByteArray} (h : RcRow W lo (.slice ra M rc) rs) (hm : rs.map RE.r = scanR X) (hM : rs.length = M) : (M : Int) = ((scanR X).length : Int) := by rw [← hm, List.length_map, hM]

set_option maxRecDepth 10000 in
set_option maxHeartbeats 12800000 in
theorem lawOpened_any (a : Option Addr) (len cap : Nat) (zs : List Int) (w : World) (hm : len ≤ maxLen) (hs : Seg w a len zs) (ht : RecT w) (he : ErrN w) :
    Calls Tryz.prog 5 #[.slice a len cap] w fun e w' => e = .returned (.bool true) ∧ Below w.heap.size w w' := by
  have HR : Hid (∀ W, Below w.heap.size w W → Seg W a len zs ∧ RecT W ∧ ErrN W) := fun W h => ⟨hs.below h, ht.below h, he.below h⟩
  clear hs ht he
  by_cases hbig : (1048576 : Int) < (len : Int)
  · have hd : Hid (decide ((1048576 : Int) < (len : Int)) = true) := by show _ = _; simpa using hbig
    go_enter Tryz.func5, Tryz.ntmps5
    go_wp2_with fail
    refine (big_any a len cap w hm).mono ?_
    rintro e w1 ⟨rfl, hw1⟩
    subst w1
    rw [hd.out]
    go_wp2_with fail
    go_ret
    exact ⟨rfl, Below.refl _ _⟩
  have hd : Hid (decide ((1048576 : Int) < (len : Int)) = false) := by show _ = _; simpa using hbig
  have hl : len ≤ 1099511627776 := by omega
  clear hbig
  go_enter Tryz.func5, Tryz.ntmps5
  go_wp2_with fail
  refine (big_any a len cap w hm).mono ?_
  rintro e w1 ⟨rfl, hw1⟩
  subst w1
  rw [hd.out]
  clear hd
  go_wp2_with fail
  refine (drawOpen_any a len cap zs w (HR.out w (Below.refl _ _)).1 hl).mono ?_
  rintro e w2 ⟨⟨v, rfl, A, n, C, A', n', C', X, Y, rfl, hn4, hn4', hx, hy⟩, hb2⟩
  have hba : Below w2.heap.size w2 (w2.alloc (.cells #[.slice A n C, .slice A' n' C'] 26)) := (Below.refl _ _).alloc (Nat.le_refl _) _
  have HT : Hid (∀ W, Below (w2.alloc (.cells #[.slice A n C, .slice A' n' C'] 26)).heap.size (w2.alloc (.cells #[.slice A n C, .slice A' n' C'] 26)) W → BoxN W w2.heap.size 26 [.slice A n C, .slice A' n' C'] ∧ (Strs W A n X ∧ Strs W A' n' Y) ∧ (RecT W ∧ ErrN W) ∧ Below w.heap.size w W) := fun W h => by
    have h2 : Below w2.heap.size w2 W := hba.trans (h.mono hba.size)
    have g : Below w.heap.size w W := hb2.trans (h2.mono hb2.size)
    exact ⟨(BoxN.new w2 _ _).stays h, ⟨hx.below h2, hy.below h2⟩, (HR.out W g).2, g⟩
  clear hx hy hb2 hba HR
  go_upto_region 4 with fail
  obtain ⟨w4, hw4⟩ : ∃ w4, w2.alloc (.cells #[.slice A n C, .slice A' n' C'] 26) = w4 := ⟨_, rfl⟩
  rw [hw4] at HT ⊢
  clear hw4
  obtain ⟨bd, hbd⟩ : ∃ bd, w2.heap.size = bd := ⟨_, rfl⟩
  rw [hbd] at HT ⊢
  clear hbd
  have HB4 : Hid (Below w4.heap.size w4 w4) := Below.refl _ _
  have HT4 := (show Hid _ from HT.out _ HB4.out)
  obtain ⟨d0, d1⟩ := (show _ ∧ _ from ⟨BoxN.cell HT4.out.1 0 rfl, BoxN.cell HT4.out.1 1 rfl⟩)
  go_wp2_with fail
  refine (implOpen_all A n C X A' n' C' Y w4 HT4.out.2.1.1 HT4.out.2.1.2 (by omega) (by omega) HT4.out.2.2.1.1 HT4.out.2.2.1.2).mono ?_
  rintro e w5 ⟨hop, hb5⟩
  cases ho : openO X Y with
  | none =>
    rw [OpenAns, ho] at hop
    obtain ⟨v, rfl, hans⟩ := hop
    obtain ⟨a1, c1, a1', c1', u1, uc1, l1, rfl, hs1, hm1⟩ := hans.get
    simp only [List.length_nil] at hs1 ⊢
    have HOn : Hid (openO X Y = none) := ho
    have hba : Below w5.heap.size w5 (w5.alloc (.cells #[.slice a1 0 c1, .slice a1' 0 c1', .int .i64 0, .int .i64 0, .slice u1 0 uc1] 29)) := (Below.refl _ _).alloc (Nat.le_refl _) _
    have HT5 : Hid (∀ W, Below (w5.alloc (.cells #[.slice a1 0 c1, .slice a1' 0 c1', .int .i64 0, .int .i64 0, .slice u1 0 uc1] 29)).heap.size (w5.alloc (.cells #[.slice a1 0 c1, .slice a1' 0 c1', .int .i64 0, .int .i64 0, .slice u1 0 uc1] 29)) W → Below w4.heap.size w4 W ∧ BoxN W w5.heap.size 29 [.slice a1 0 c1, .slice a1' 0 c1', .int .i64 0, .int .i64 0, .slice u1 0 uc1]) := fun W h => by
      have h2 : Below w5.heap.size w5 W := hba.trans (h.mono hba.size)
      exact ⟨hb5.trans (h2.mono hb5.size), (BoxN.new w5 _ _).stays h⟩
    clear hans hs1 hm1 hb5 hba ho d0 d1 HT4 HB4
    go_upto_region 5 with fail
    obtain ⟨w6, hw6⟩ : ∃ w6, w5.alloc (.cells #[.slice a1 0 c1, .slice a1' 0 c1', .int .i64 0, .int .i64 0, .slice u1 0 uc1] 29) = w6 := ⟨_, rfl⟩
    rw [hw6] at HT5 ⊢
    clear hw6
    obtain ⟨bs, hbs⟩ : ∃ bs, w5.heap.size = bs := ⟨_, rfl⟩
    rw [hbs] at HT5 ⊢
    clear hbs
    have HT6 := (show Hid _ from HT.out _ (HT5.out _ (Below.refl _ _)).1)
    obtain ⟨d0, d1⟩ := (show _ ∧ _ from ⟨BoxN.cell HT6.out.1 0 rfl, BoxN.cell HT6.out.1 1 rfl⟩)
    go_wp2_with fail
    refine (specOpen_all A n C X A' n' C' Y w6 HT6.out.2.1.1 HT6.out.2.1.2 (by omega) (by omega)).mono ?_
    rintro e w7 ⟨hop, hb7⟩
    rw [OpenAns, HOn.out] at hop
    obtain ⟨v, rfl, hans⟩ := hop
    obtain ⟨a2, c2, a2', c2', u2, uc2, l2, rfl, hs2, hm2⟩ := hans.get
    simp only [List.length_nil]
    obtain ⟨o2, ho2⟩ : ∃ o2, (Obj.cells #[.slice a2 0 c2, .slice a2' 0 c2', .int .i64 0, .int .i64 0, .slice u2 0 uc2] 29) = o2 := ⟨_, rfl⟩
    have HB8 : Hid (Below w6.heap.size w6 (w7.alloc o2)) := hb7.alloc hb7.size _
    clear hans hs2 hm2 hb7 HT6 HOn d0 d1
    go_upto_region 6 with fail
    try rw [ho2]
    obtain ⟨w8, hw8⟩ : ∃ w8, w7.alloc o2 = w8 := ⟨_, rfl⟩
    rw [hw8] at HB8 ⊢
    clear hw8 ho2
    have x4 := BoxN.cell (HT5.out _ HB8.out).2 4 rfl
    have HBw : Hid (Below w.heap.size w w8) := (HT.out _ (HT5.out _ HB8.out).1).2.2.2
    clear HT HT5 HB8
    go_wp2_with fail
    go_ret
    exact ⟨rfl, HBw.out⟩
  | some t =>
  obtain ⟨ep, nxn, us⟩ := t
  rw [OpenAns, ho] at hop
  obtain ⟨v, rfl, hans⟩ := hop
  obtain ⟨hso, htop⟩ := open_ok ho
  have HOn : Hid (openO X Y = some (ep, nxn, us)) := ho
  obtain ⟨nx, hnx⟩ : ∃ nx : Int, (nxn : Int) = nx := ⟨_, rfl⟩
  rw [hnx] at hso hans
  have HNx : Hid ((nxn : Int) = nx) := hnx
  obtain ⟨a1, c1, a1', c1', u1, uc1, l1, rfl, hs1, hm1⟩ := hans.get
  subst hm1
  obtain ⟨M, hM⟩ : ∃ M, (l1.map UE.u).length = M := ⟨_, rfl⟩
  rw [hM] at hs1 ⊢
  have HSo : Hid (SOk X Y ep nx (l1.map UE.u)) := hso
  have HMl : Hid ((l1.map UE.u).length = M) := hM
  have HTp : Hid (ep = topE X + 1) := htop
  have hM10 : M ≤ 10 := by have := hso.few; omega
  have hXn : X.length ≤ 400 := by have := HT4.out.2.1.1.1; omega
  have hYn : Y.length ≤ 400 := by have := HT4.out.2.1.2.1; omega
  have HZx : Hid (∀ x ∈ X, x.size ≤ 1048576) := fun x hx => by have := (okD_iff.1 hso.1).2.2.1 x hx; omega
  have hba : Below w5.heap.size w5 (w5.alloc (.cells #[.slice a1 X.length c1, .slice a1' Y.length c1', .int .i64 ep, .int .i64 nx, .slice u1 M uc1] 29)) := (Below.refl _ _).alloc (Nat.le_refl _) _
  have HT5 : Hid (∀ W, Below (w5.alloc (.cells #[.slice a1 X.length c1, .slice a1' Y.length c1', .int .i64 ep, .int .i64 nx, .slice u1 M uc1] 29)).heap.size (w5.alloc (.cells #[.slice a1 X.length c1, .slice a1' Y.length c1', .int .i64 ep, .int .i64 nx, .slice u1 M uc1] 29)) W → Below w4.heap.size w4 W ∧ BoxN W w5.heap.size 29 [.slice a1 X.length c1, .slice a1' Y.length c1', .int .i64 ep, .int .i64 nx, .slice u1 M uc1] ∧ StoAt W w4.heap.size a1 X.length c1 X a1' Y.length c1' Y u1 M uc1 l1) := fun W h => by
    have h2 : Below w5.heap.size w5 W := hba.trans (h.mono hba.size)
    exact ⟨hb5.trans (h2.mono hb5.size), (BoxN.new w5 _ _).stays h, hs1.stays h2⟩
  clear hans hs1 hb5 hba ho hso htop hnx hM d0 d1 HT4 HB4
  go_upto_region 5 with fail
  obtain ⟨w6, hw6⟩ : ∃ w6, w5.alloc (.cells #[.slice a1 X.length c1, .slice a1' Y.length c1', .int .i64 ep, .int .i64 nx, .slice u1 M uc1] 29) = w6 := ⟨_, rfl⟩
  rw [hw6] at HT5 ⊢
  clear hw6
  obtain ⟨bs, hbs⟩ : ∃ bs, w5.heap.size = bs := ⟨_, rfl⟩
  rw [hbs] at HT5 ⊢
  clear hbs
  have HT6 := (show Hid _ from HT.out _ (HT5.out _ (Below.refl _ _)).1)
  obtain ⟨d0, d1⟩ := (show _ ∧ _ from ⟨BoxN.cell HT6.out.1 0 rfl, BoxN.cell HT6.out.1 1 rfl⟩)
  go_wp2_with fail
  refine (specOpen_all A n C X A' n' C' Y w6 HT6.out.2.1.1 HT6.out.2.1.2 (by omega) (by omega)).mono ?_
  rintro e w7 ⟨hop, hb7⟩
  rw [OpenAns, HOn.out] at hop
  obtain ⟨v, rfl, hans⟩ := hop
  obtain ⟨a2, c2, a2', c2', u2, uc2, l2, rfl, hs2, hm2⟩ := hans.get
  obtain ⟨o2, ho2⟩ : ∃ o2, (Obj.cells #[.slice a2 X.length c2, .slice a2' Y.length c2', .int .i64 ep, .int .i64 (nxn : Int), .slice u2 M uc2] 29) = o2 := ⟨_, rfl⟩
  rw [HMl.out]
  have HB8 : Hid (Below w6.heap.size w6 (w7.alloc o2)) := hb7.alloc hb7.size _
  clear hans hs2 hm2 hb7 HT6 d0 d1
  go_upto_region 6 with fail
  try rw [ho2]
  obtain ⟨w8, hw8⟩ : ∃ w8, w7.alloc o2 = w8 := ⟨_, rfl⟩
  rw [hw8] at HB8 ⊢
  clear hw8 ho2
  have HT8 := (show Hid _ from HT5.out _ HB8.out)
  have HU8 := (show Hid _ from HT.out _ HT8.out.1)
  have HP := (show Hid _ from HT8.out.2.2.pre HSo.out)
  obtain ⟨x0, x1, x2, x3, x4⟩ := (show _ ∧ _ ∧ _ ∧ _ ∧ _ from ⟨BoxN.cell HT8.out.2.1 0 rfl, BoxN.cell HT8.out.2.1 1 rfl, BoxN.cell HT8.out.2.1 2 rfl, BoxN.cell HT8.out.2.1 3 rfl, BoxN.cell HT8.out.2.1 4 rfl⟩)
  go_wp2_with fail
  refine (implSync_any a1 X.length c1 X a1' Y.length c1' Y ep nx u1 M uc1 w4.heap.size l1 w8 HP.out.1 HP.out.2.1 (by omega) (by omega) HP.out.2.2.2.2.1 HP.out.2.2.2.2.2.1 HP.out.2.2.2.2.2.2.1 (by omega) (fun e he => by have := HP.out.2.2.2.2.2.2.2.2.1 e he; omega) HT8.out.2.2.now.sl HU8.out.2.2.1.1 HU8.out.2.2.1.2).mono ?_
  rintro e w9 ⟨⟨v, rfl, hans⟩, hb9⟩
  rw [show syncY X Y ep nx (l1.map UE.u) = X from if_pos (decB_true HSo.out)] at hans
  obtain ⟨a2, c2, a2', c2', u2, uc2, l2, rfl, hs2, hm2⟩ := hans.get
  have hb9a : Below w9.heap.size w9 (w9.alloc (.cells #[] 4)) := (Below.refl _ _).alloc (Nat.le_refl _) _
  have HB9 : Hid (Below w8.heap.size w8 (w9.alloc (.cells #[] 4)) ∧ Strs (w9.alloc (.cells #[] 4)) a2 X.length X ∧ Strs (w9.alloc (.cells #[] 4)) a2' X.length X) := ⟨hb9.trans (hb9a.mono hb9.size), hs2.now.strs.below hb9a, hs2.sure.strs.below hb9a⟩
  rw [HMl.out]
  have hfd : ∀ W : World, (Instr.field 29 (.agg #[.slice a2 X.length c2, .slice a2' X.length c2', .int .i64 ep, .int .i64 nx, .slice u2 M uc2]) 0).run Tryz.prog W = .ok (.agg #[.slice a2 X.length c2, .slice a2' X.length c2']) W := fun _ => by kernel_rfl
  clear hans hs2 hm2 hb9 hb9a HP x0 x1 x2 x3 x4
  go_wp2_with fail
  clear hfd
  obtain ⟨wA, hwA⟩ : ∃ wA, w9.alloc (.cells #[] 4) = wA := ⟨_, rfl⟩
  rw [hwA] at HB9 ⊢
  clear hwA
  refine (implFall_any a2 X.length c2 X a2' X.length c2' X _ 0 _ [] wA HB9.out.2.1 HB9.out.2.2 (bools_none _ _) (by omega) (by omega) (by omega)).mono ?_
  rintro e wB ⟨⟨v, rfl, hans⟩, hbB⟩
  have hfx : fallX X X [] = X := by
    obtain ⟨e1, e2⟩ := fall_same [] (okD_self HSo.out.1)
    rw [e1, fallL_self]
  have hfy : fallY X X [] = X := by
    obtain ⟨e1, e2⟩ := fall_same [] (okD_self HSo.out.1)
    rw [e2, fallL_self]
  have hre := reopened HOn.out []
  rw [hfx, hfy] at hans hre
  obtain ⟨P, PC, P', PC', rfl, o1, o2, hap⟩ := hans
  have HRe : Hid (openO X X = some (ep, nxn, l1.map UE.u)) := hre
  have HBB : Hid (Below w8.heap.size w8 wB) := HB9.out.1.trans (hbB.mono HB9.out.1.size)
  have HSB : Hid (Strs wB P X.length X ∧ Strs wB P' X.length X) := ⟨o1.strs, o2.strs⟩
  have HTB := (show Hid _ from HT.out _ (HT5.out _ (HB8.out.trans (HBB.out.mono HB8.out.size))).1)
  clear hfx hfy hre o1 o2 hap hbB HB9 HOn
  go_wp2_with fail
  refine (implOpen_all P X.length PC X P' X.length PC' X wB HSB.out.1 HSB.out.2 (by omega) (by omega) HTB.out.2.2.1.1 HTB.out.2.2.1.2).mono ?_
  rintro e wC ⟨hop, hbC⟩
  rw [OpenAns, HRe.out] at hop
  obtain ⟨v, rfl, hans⟩ := hop
  rw [HNx.out] at hans ⊢
  obtain ⟨a3, c3, a3', c3', u3, uc3, l3, rfl, hs3, hm3⟩ := hans.get
  rw [HMl.out] at hs3 ⊢
  have HM3 : Hid (l3.map UE.u = l1.map UE.u) := hm3
  have hba : Below wC.heap.size wC (wC.alloc (.cells #[.slice a3 X.length c3, .slice a3' X.length c3', .int .i64 ep, .int .i64 nx, .slice u3 M uc3] 29)) := (Below.refl _ _).alloc (Nat.le_refl _) _
  have HTC : Hid (∀ W, Below (wC.alloc (.cells #[.slice a3 X.length c3, .slice a3' X.length c3', .int .i64 ep, .int .i64 nx, .slice u3 M uc3] 29)).heap.size (wC.alloc (.cells #[.slice a3 X.length c3, .slice a3' X.length c3', .int .i64 ep, .int .i64 nx, .slice u3 M uc3] 29)) W → Below w6.heap.size w6 W ∧ BoxN W wC.heap.size 29 [.slice a3 X.length c3, .slice a3' X.length c3', .int .i64 ep, .int .i64 nx, .slice u3 M uc3] ∧ StoAt W wB.heap.size a3 X.length c3 X a3' X.length c3' X u3 M uc3 l3) := fun W h => by
    have h2 : Below wC.heap.size wC W := hba.trans (h.mono hba.size)
    have h3 : Below w8.heap.size w8 W := HBB.out.trans ((hbC.trans (h2.mono hbC.size)).mono HBB.out.size)
    exact ⟨HB8.out.trans (h3.mono HB8.out.size), (BoxN.new wC _ _).stays h, hs3.stays h2⟩
  clear hans hs3 hm3 hba hbC HSB HTB HBB HRe HNx HT8 HU8 HB8 HMl
  go_upto_region 9 with fail
  obtain ⟨wD, hwD⟩ : ∃ wD, wC.alloc (.cells #[.slice a3 X.length c3, .slice a3' X.length c3', .int .i64 ep, .int .i64 nx, .slice u3 M uc3] 29) = wD := ⟨_, rfl⟩
  rw [hwD] at HTC ⊢
  clear hwD
  obtain ⟨bt, hbt⟩ : ∃ bt, wC.heap.size = bt := ⟨_, rfl⟩
  rw [hbt] at HTC ⊢
  clear hbt
  obtain ⟨T, hT⟩ : ∃ T, topE X = T := ⟨_, rfl⟩
  have hep : IntKind.i64.wrap (T + 1) = ep := by
    have h1 := topE_range X
    have h2 := HTp.out
    rw [hT] at h1 h2
    rw [IntKind.wrap_i64]
    omega
  have HT1 : Hid (topE X = T) := hT
  have hepe : (ep == ep) = true := by simp
  have hnxe : (nx == nx) = true := by simp
  have HNs : Hid (nx = ((scanR X).length : Int)) := HSo.out.2.2.2.1
  clear hT
  have HF : Hid (∀ W, Below wD.heap.size wD W → (BoxN W bs 29 [.slice a1 X.length c1, .slice a1' Y.length c1', .int .i64 ep, .int .i64 nx, .slice u1 M uc1] ∧ StoAt W w4.heap.size a1 X.length c1 X a1' Y.length c1' Y u1 M uc1 l1) ∧ (BoxN W bt 29 [.slice a3 X.length c3, .slice a3' X.length c3', .int .i64 ep, .int .i64 nx, .slice u3 M uc3] ∧ StoAt W wB.heap.size a3 X.length c3 X a3' X.length c3' X u3 M uc3 l3) ∧ BoxN W bd 26 [.slice A n C, .slice A' n' C'] ∧ (Strs W A n X ∧ Strs W A' n' Y) ∧ (RecT W ∧ ErrN W) ∧ Below w.heap.size w W) := fun W h => by
    have q := HTC.out W h
    have r := HT5.out W q.1
    exact ⟨r.2, q.2, HT.out W r.1⟩
  clear HTC HT5 HT
  have HBd : Hid (Below wD.heap.size wD wD.drew) := (Below.refl _ _).drew
  have HF0 := (show Hid _ from HF.out _ HBd.out)
  have k0 := BoxN.cell HF0.out.1.1 0 rfl
  have k1 := BoxN.cell HF0.out.1.1 1 rfl
  have k2 := BoxN.cell HF0.out.1.1 2 rfl
  have k3 := BoxN.cell HF0.out.1.1 3 rfl
  have k4 := BoxN.cell HF0.out.1.1 4 rfl
  have k5 := BoxN.cell HF0.out.2.1.1 4 rfl
  have k6 := BoxN.cell HF0.out.2.2.1 0 rfl
  have k7 := BoxN.cell HF0.out.2.2.1 1 rfl
  go_region_held3 (fun W => W.cell? ⟨bs, 0, none⟩ = some (.slice a1 X.length c1) ∧ W.cell? ⟨bs, 1, none⟩ = some (.slice a1' Y.length c1') ∧ W.cell? ⟨bs, 2, none⟩ = some (.int .i64 ep) ∧ W.cell? ⟨bs, 3, none⟩ = some (.int .i64 nx) ∧ W.cell? ⟨bs, 4, none⟩ = some (.slice u1 M uc1) ∧ W.cell? ⟨bt, 4, none⟩ = some (.slice u3 M uc3) ∧ W.cell? ⟨bd, 0, none⟩ = some (.slice A n C) ∧ W.cell? ⟨bd, 1, none⟩ = some (.slice A' n' C')) (first | with_reducible exact ⟨k0, k1, k2, k3, k4, k5, k6, k7⟩ | with_reducible exact ⟨e0, e1, e2, e3, e4, e5, e6, e7⟩ | with_reducible exact ⟨m0, m1, m2, m3, m4, m5, m6, m7⟩ | with_reducible exact ⟨r0, r1, r2, r3, r4, r5, r6, r7⟩ | with_reducible exact ⟨z0, z1, z2, z3, z4, z5, z6, z7⟩ | fail) (first
    | (go_at_call 13
       have HP := (show Hid _ from HF0.out.1.2.pre HSo.out)
       refine (implSok_any a1 X.length c1 X a1' Y.length c1' Y ep nx u1 M uc1 w4.heap.size l1 wD.drew HP.out.1 HP.out.2.1 (by omega) (by omega) HP.out.2.2.2.2.1 HP.out.2.2.2.2.2.1 HP.out.2.2.2.2.2.2.1 (by omega) HF0.out.1.2.now.sl HF0.out.2.2.2.2.1.1 HF0.out.2.2.2.2.1.2).mono ?_; rintro e y1 ⟨rfl, hb1⟩
       rw [decB_true HSo.out]
       have HB1 : Hid (Below wD.heap.size wD y1) := HBd.out.trans (hb1.mono HBd.out.size)
       have HF1 := (show Hid _ from HF.out _ HB1.out)
       have e0 := BoxN.cell HF1.out.1.1 0 rfl
       have e1 := BoxN.cell HF1.out.1.1 1 rfl
       have e2 := BoxN.cell HF1.out.1.1 2 rfl
       have e3 := BoxN.cell HF1.out.1.1 3 rfl
       have e4 := BoxN.cell HF1.out.1.1 4 rfl
       have e5 := BoxN.cell HF1.out.2.1.1 4 rfl
       have e6 := BoxN.cell HF1.out.2.2.1 0 rfl
       have e7 := BoxN.cell HF1.out.2.2.1 1 rfl
       clear hb1 HP)
    | (go_at_call 10
       have HP := (show Hid _ from HF1.out.1.2.pre HSo.out)
       refine (sameUs_same u3 M uc3 wB.heap.size l3 u1 M uc1 w4.heap.size l1 y1 HF1.out.2.1.2.ups HF1.out.1.2.ups HF1.out.2.1.2.len HF1.out.1.2.len HM3.out (by omega) (fun e he => by have := sizes_same HM3.out HF1.out.2.1.2.ups HF1.out.1.2.ups (fun e he => HP.out.2.2.2.2.2.2.2.2.1 e he) e he; omega)).mono ?_; rintro e y2 ⟨rfl, kk, hy2⟩
       have HB2 : Hid (Below wD.heap.size wD y2) := by show Below _ _ _; rw [hy2]; exact below_drewN HB1.out kk
       have HF2 := (show Hid _ from HF.out _ HB2.out)
       have m0 := BoxN.cell HF2.out.1.1 0 rfl
       have m1 := BoxN.cell HF2.out.1.1 1 rfl
       have m2 := BoxN.cell HF2.out.1.1 2 rfl
       have m3 := BoxN.cell HF2.out.1.1 3 rfl
       have m4 := BoxN.cell HF2.out.1.1 4 rfl
       have m5 := BoxN.cell HF2.out.2.1.1 4 rfl
       have m6 := BoxN.cell HF2.out.2.2.1 0 rfl
       have m7 := BoxN.cell HF2.out.2.2.1 1 rfl
       clear hy2 HP)
    | (go_at_call 25
       refine (implTop_any A n C X A' n' C' y2 HF2.out.2.2.2.1.1 (by omega) HZx.out HF2.out.2.2.2.2.1.1).mono ?_; rintro e y3 ⟨rfl, hb3⟩
       rw [HT1.out]
       have HB3 : Hid (Below wD.heap.size wD y3) := HB2.out.trans (hb3.mono HB2.out.size)
       have HF3 := (show Hid _ from HF.out _ HB3.out)
       have r0 := BoxN.cell HF3.out.1.1 0 rfl
       have r1 := BoxN.cell HF3.out.1.1 1 rfl
       have r2 := BoxN.cell HF3.out.1.1 2 rfl
       have r3 := BoxN.cell HF3.out.1.1 3 rfl
       have r4 := BoxN.cell HF3.out.1.1 4 rfl
       have r5 := BoxN.cell HF3.out.2.1.1 4 rfl
       have r6 := BoxN.cell HF3.out.2.2.1 0 rfl
       have r7 := BoxN.cell HF3.out.2.2.1 1 rfl
       clear hb3)
    | (go_at_call 26
       refine (implScan_any A n C X A' n' C' y3 HF3.out.2.2.2.1.1 (by omega) HZx.out HF3.out.2.2.2.2.1.1).mono ?_; rintro e y4 ⟨⟨v4, rs, rfl, hrow, hlm⟩, hb4⟩
       have HB4 : Hid (Below wD.heap.size wD y4) := HB3.out.trans (hb4.mono HB3.out.size)
       obtain ⟨ra, rc, rfl⟩ := hrow.shape
       have hln : ((rs.length : Nat) : Int) = nx := (row_lenO hrow hlm rfl).trans HNs.out.symm
       have HBw : Hid (Below w.heap.size w y4) := (HF.out _ HB4.out).2.2.2.2.2
       have HF4 := (show Hid _ from HF.out _ HB4.out)
       have z0 := BoxN.cell HF4.out.1.1 0 rfl
       have z1 := BoxN.cell HF4.out.1.1 1 rfl
       have z2 := BoxN.cell HF4.out.1.1 2 rfl
       have z3 := BoxN.cell HF4.out.1.1 3 rfl
       have z4 := BoxN.cell HF4.out.1.1 4 rfl
       have z5 := BoxN.cell HF4.out.2.1.1 4 rfl
       have z6 := BoxN.cell HF4.out.2.2.1 0 rfl
       have z7 := BoxN.cell HF4.out.2.2.1 1 rfl
       clear hb4 hrow hlm)
    | fail)
  all_goals
    go_wp2_with fail
    go_ret
    exact ⟨rfl, HBw.out⟩

end Go.Proofs.YtjaihnmhojabfaaGreatDoor
