/- What the specification's DropUp answers. What spec.FlushDisk answers. What the specification's SyncStore answers. What the specification's TopEpoch answers. What the specification's OpenStore answers. A copy of a disk in a variable, beside the disk and a variable for the answer. No statement of the program but its table of types. What the specification's FallDisk answers. An upload that is asked for: what both functions answer; no program in it. -/
import Derived.Test.YtiigdcpjelbdjaaGreatDoorM11
import Derived.Test.YtiigdcpjelbdjaaGreatDoorM21
import Derived.Test.YtiigdcpjelbdjaaGreatDoorM05
import Derived.Test.YtiigdcpjelbdjaaGreatDoorM22
import Derived.Test.YtiigdcpjelbdjaaGreatDoorM22
import Derived.Test.YtiigdcpjelbdjaaGreatDoorM06
import Derived.Test.YtiigdcpjelbdjaaGreatDoorM22
import Derived.Test.YtiigdcpjelbdjaaGreatDoorM04
import Derived.Test.YtiigdcpjelbdjaaGreatDoorM10
import Derived.Test.YtiigdcpjelbdjaaGreatDoorM10
import Derived.Deep.RegionHeld3
import Derived.Deep.CutBlock
import Derived.Test.YtiigdcpjelbdjaaGreatDoorM08
import Derived.Test.YtiigdcpjelbdjaaGreatDoorM19
import Derived.Test.YtiigdcpjelbdjaaGreatDoorM14
import Derived.Test.YtiigdcpjelbdjaaGreatDoorM16
import Derived.Test.YtiigdcpjelbdjaaGreatDoorM20
import Derived.Test.YtiigdcpjelbdjaaGreatDoorM20
import Derived.Test.YtiigdcpjelbdjaaGreatDoorM07
import Derived.Test.YtiigdcpjelbdjaaGreatDoorM09
namespace Go.Proofs.YtiigdcpjelbdjaaGreatDoor
open Go.RowKit
set_option linter.unusedVariables false

set_option maxRecDepth 10000 in
set_option maxHeartbeats 3200000 in
theorem specDrop_any (a : Option Addr) (n ca : Nat) (X : List ByteArray) (a' : Option Addr) (n' ca' : Nat) (Y : List ByteArray) (ep nx : Int) (ua : Option Addr) (un uc lo : Nat) (l : List UE) (id : ByteArray) (w : World) (h1 : Strs w a n X) (h2 : Strs w a' n' Y) (hn : n ≤ 1048576) (hn' : n' ≤ 1048576) (hzx : ∀ x ∈ X, x.size ≤ 1048576) (hu : UpRow w lo (.slice ua un uc) l) (hun : un = l.length) (hul : un ≤ 1048576) (hz : ∀ e ∈ l, e.n ≤ 1099511627776) (hid : id.size ≤ maxLen) :
    Calls Tryz.prog 64 #[.agg #[.slice a n ca, .slice a' n' ca', .int .i64 ep, .int .i64 nx, .slice ua un uc], .string id] w fun e w' => WAns w.heap.size Y ep (dropA X Y ep nx (l.map UE.u) id) e w' ∧ Below w.heap.size w w' := by
  have hmm : maxLen < 9223372036854775808 := by decide
  obtain ⟨W2, hW2⟩ : ∃ W2, (w.alloc (.cells #[.slice a n ca, .slice a' n' ca', .int .i64 ep, .int .i64 nx, .slice ua un uc] 29)).alloc (.cells #[.slice none 0 0, .slice none 0 0, .int .i64 0, .int .i64 0, .slice none 0 0] 29) = W2 := ⟨_, rfl⟩
  have HE : Hid ((w.alloc (.cells #[.slice a n ca, .slice a' n' ca', .int .i64 ep, .int .i64 nx, .slice ua un uc] 29)).alloc (.cells #[.slice none 0 0, .slice none 0 0, .int .i64 0, .int .i64 0, .slice none 0 0] 29) = W2) := hW2
  have HB2 : Hid (Below w.heap.size w W2) := by show Below _ _ _; rw [← hW2]; exact ((Below.refl _ _).alloc (Nat.le_refl _) _).alloc (by simp) _
  have q1 : BoxN W2 w.heap.size 29 [.slice a n ca, .slice a' n' ca', .int .i64 ep, .int .i64 nx, .slice ua un uc] := by rw [← hW2]; exact (BoxN.new _ _ _).alloc _
  have q2 : BoxN W2 (w.heap.size + 1) 29 [.slice none 0 0, .slice none 0 0, .int .i64 0, .int .i64 0, .slice none 0 0] := by
    rw [← hW2]
    have := BoxN.new (w.alloc (.cells #[.slice a n ca, .slice a' n' ca', .int .i64 ep, .int .i64 nx, .slice ua un uc] 29)) 29 [.slice none 0 0, .slice none 0 0, .int .i64 0, .int .i64 0, .slice none 0 0]
    rwa [World.size_alloc] at this
  have HQ : Hid (∀ W, Below W2.heap.size W2 W → BoxN W w.heap.size 29 [.slice a n ca, .slice a' n' ca', .int .i64 ep, .int .i64 nx, .slice ua un uc] ∧ BoxN W (w.heap.size + 1) 29 [.slice none 0 0, .slice none 0 0, .int .i64 0, .int .i64 0, .slice none 0 0]) := fun W h => ⟨q1.stays h, q2.stays h⟩
  have HX : Hid (∀ W, Below W2.heap.size W2 W → Strs W a n X ∧ Strs W a' n' Y ∧ UpRow W lo (.slice ua un uc) l) := fun W h => by
    have hw := HB2.out.trans (h.mono HB2.out.size)
    exact ⟨h1.below hw, h2.below hw, hu.stays hw⟩
  have HL : Hid (un = l.length ∧ (∀ e ∈ l, e.n ≤ 1099511627776) ∧ (∀ x ∈ X, x.size ≤ 1048576) ∧ X.length = n) := ⟨hun, hz, hzx, h1.1⟩
  have hs2 : w.heap.size + 1 < W2.heap.size := q2.lt
  clear hW2 q1 q2 h1 h2 hu hun hz hzx
  obtain ⟨c0, c1, c2, c3, c4⟩ := (show _ ∧ _ ∧ _ ∧ _ ∧ _ from ⟨(HQ.out _ (Below.refl _ _)).1.cell 0 rfl, (HQ.out _ (Below.refl _ _)).1.cell 1 rfl, (HQ.out _ (Below.refl _ _)).1.cell 2 rfl, (HQ.out _ (Below.refl _ _)).1.cell 3 rfl, (HQ.out _ (Below.refl _ _)).1.cell 4 rfl⟩)
  go_enter Tryz.func64, Tryz.ntmps64
  go_upto_region 1 with fail
  rw [HE.out]
  clear HE
  go_wp2_with fail
  refine (specScopy_any a n ca X a' n' ca' Y ep nx ua un uc lo l W2 (HX.out _ (Below.refl _ _)).1 (HX.out _ (Below.refl _ _)).2.1 hn hn' (HX.out _ (Below.refl _ _)).2.2 HL.out.1 hul HL.out.2.1).mono ?_
  rintro e y1 ⟨⟨v, rfl, hv⟩, hb1⟩
  obtain ⟨b, cb, b', cb', va, vc, l', rfl, hs1, hm1⟩ := hv.get
  rw [List.length_map, ← HL.out.1] at hs1 ⊢
  have HA1 : Hid (SAt (y1.alloc (.cells #[.slice b X.length cb, .slice b' Y.length cb', .int .i64 ep, .int .i64 nx, .slice va un vc] 29)) W2.heap.size y1.heap.size b X.length cb X b' Y.length cb' Y ep nx va un vc l') := SAt.new hs1 hb1.size
  have HC1 : Hid (Below W2.heap.size W2 (y1.alloc (.cells #[.slice b X.length cb, .slice b' Y.length cb', .int .i64 ep, .int .i64 nx, .slice va un vc] 29))) := hb1.alloc hb1.size _
  have HM : Hid (l'.map UE.u = l.map UE.u) := hm1
  have HZ' : Hid (∀ e ∈ l', e.n ≤ 1099511627776) := sizes_same hm1 hs1.ups (HX.out _ (Below.refl _ _)).2.2 HL.out.2.1
  clear hv hs1 hb1 hm1 c0 c1 c2 c3 c4
  obtain ⟨d0, d1, d2, d3, d4⟩ := (show _ ∧ _ ∧ _ ∧ _ ∧ _ from ⟨(HQ.out _ HC1.out).1.cell 0 rfl, (HQ.out _ HC1.out).1.cell 1 rfl, (HQ.out _ HC1.out).1.cell 2 rfl, (HQ.out _ HC1.out).1.cell 3 rfl, (HQ.out _ HC1.out).1.cell 4 rfl⟩)
  go_wp2_with fail
  obtain ⟨w1, hw1⟩ : ∃ w1, y1.alloc (.cells #[.slice b X.length cb, .slice b' Y.length cb', .int .i64 ep, .int .i64 nx, .slice va un vc] 29) = w1 := ⟨_, rfl⟩
  rw [hw1] at HA1 HC1 ⊢
  clear hw1 d0 d1 d2 d3 d4
  have hlo : W2.heap.size ≤ y1.heap.size := HA1.out.lob
  generalize y1.heap.size = bo at *
  refine (specSok_any a n ca X a' n' ca' Y ep nx ua un uc lo l w1 (HX.out _ HC1.out).1 (HX.out _ HC1.out).2.1 hn hn' HL.out.2.2.1 (HX.out _ HC1.out).2.2 HL.out.1 hul).mono ?_
  rintro e y2 ⟨⟨ok, rfl, hok⟩, hb2⟩
  have hdb : ok = decB (SOk X Y ep nx (l.map UE.u)) := decB_iff hok
  have HA2 : Hid (SAt y2 W2.heap.size bo b X.length cb X b' Y.length cb' Y ep nx va un vc l') := HA1.out.stays hb2
  have HC2 : Hid (Below W2.heap.size W2 y2) := HC1.out.trans (hb2.mono HC1.out.size)
  clear hb2 HA1 HC1
  cases ok with
  | false =>
    have hno : ¬ decB (SOk X Y ep nx (l.map UE.u)) = true := by rw [← hdb]; simp
    clear hok hdb
    have HRs : Hid (dropA X Y ep nx (l.map UE.u) id = ⟨X, nx, l.map UE.u, 1⟩) := if_neg (fun h => hno h.1)
    have HBw : Hid (Below w.heap.size w y2) := HB2.out.trans (HC2.out.mono HB2.out.size)
    obtain ⟨r0, r1, r2, r3, r4⟩ := (show _ ∧ _ ∧ _ ∧ _ ∧ _ from ⟨(HQ.out _ HC2.out).2.cell 0 rfl, (HQ.out _ HC2.out).2.cell 1 rfl, (HQ.out _ HC2.out).2.cell 2 rfl, (HQ.out _ HC2.out).2.cell 3 rfl, (HQ.out _ HC2.out).2.cell 4 rfl⟩)
    obtain ⟨f0, f1, f2, f3, f4⟩ := (show _ ∧ _ ∧ _ ∧ _ ∧ _ from ⟨(HQ.out _ HC2.out).2.frozen 0, (HQ.out _ HC2.out).2.frozen 1, (HQ.out _ HC2.out).2.frozen 2, (HQ.out _ HC2.out).2.frozen 3, (HQ.out _ HC2.out).2.frozen 4⟩)
    obtain ⟨o0, o1, o2, o3, o4⟩ := (show _ ∧ _ ∧ _ ∧ _ ∧ _ from ⟨HA2.out.box.cell 0 rfl, HA2.out.box.cell 1 rfl, HA2.out.box.cell 2 rfl, HA2.out.box.cell 3 rfl, HA2.out.box.cell 4 rfl⟩)
    have HSt : Hid (StoAt y2 W2.heap.size b X.length cb X b' Y.length cb' Y va un vc l') := HA2.out.sto
    clear HQ HX HC2 HA2
    go_wp2_with fail
    refine bodyPost_ret (v := .tuple #[.agg #[.slice b X.length cb, .slice b' Y.length cb', .int .i64 ep, .int .i64 nx, .slice va un vc], .int .i64 1]) (by simp [results, Tryz.f64, go_sem, r0, r1, r2, r3, r4]) rfl ?_
    refine ⟨?_, ?_⟩
    · rw [WAns, HRs.out]
      exact ⟨_, rfl, b, X.length, cb, b', Y.length, cb', va, un, vc, l', rfl, (((((HSt.out.setLow (by omega) _).setLow (by omega) _).setLow (by omega) _).setLow (by omega) _).setLow (by omega) _).low (by omega), HM.out⟩
    · exact ((((HBw.out.setCell (by dsimp only; omega) _).setCell (by dsimp only; omega) _).setCell (by dsimp only; omega) _).setCell (by dsimp only; omega) _).setCell (by dsimp only; omega) _
  | true =>
  have HSo : Hid (SOk X Y ep nx (l.map UE.u)) := hok.1 rfl
  have HDb : Hid (decB (SOk X Y ep nx (l.map UE.u)) = true) := hdb.symm
  clear hok hdb
  go_wp2_with fail
  refine (specId_any id y2 (by omega)).mono ?_
  rintro _ y2 ⟨rfl, rfl⟩
  cases hidB : idB id.data.toList with
  | false =>
    have hno : ¬ idB id.data.toList = true := by rw [hidB]; simp
    clear hidB
    have HRs : Hid (dropA X Y ep nx (l.map UE.u) id = ⟨X, nx, l.map UE.u, 1⟩) := if_neg (fun h => hno h.2)
    have HBw : Hid (Below w.heap.size w y2) := HB2.out.trans (HC2.out.mono HB2.out.size)
    obtain ⟨r0, r1, r2, r3, r4⟩ := (show _ ∧ _ ∧ _ ∧ _ ∧ _ from ⟨(HQ.out _ HC2.out).2.cell 0 rfl, (HQ.out _ HC2.out).2.cell 1 rfl, (HQ.out _ HC2.out).2.cell 2 rfl, (HQ.out _ HC2.out).2.cell 3 rfl, (HQ.out _ HC2.out).2.cell 4 rfl⟩)
    obtain ⟨f0, f1, f2, f3, f4⟩ := (show _ ∧ _ ∧ _ ∧ _ ∧ _ from ⟨(HQ.out _ HC2.out).2.frozen 0, (HQ.out _ HC2.out).2.frozen 1, (HQ.out _ HC2.out).2.frozen 2, (HQ.out _ HC2.out).2.frozen 3, (HQ.out _ HC2.out).2.frozen 4⟩)
    obtain ⟨o0, o1, o2, o3, o4⟩ := (show _ ∧ _ ∧ _ ∧ _ ∧ _ from ⟨HA2.out.box.cell 0 rfl, HA2.out.box.cell 1 rfl, HA2.out.box.cell 2 rfl, HA2.out.box.cell 3 rfl, HA2.out.box.cell 4 rfl⟩)
    have HSt : Hid (StoAt y2 W2.heap.size b X.length cb X b' Y.length cb' Y va un vc l') := HA2.out.sto
    clear HQ HX HC2 HA2
    go_wp2_with fail
    refine bodyPost_ret (v := .tuple #[.agg #[.slice b X.length cb, .slice b' Y.length cb', .int .i64 ep, .int .i64 nx, .slice va un vc], .int .i64 1]) (by simp [results, Tryz.f64, go_sem, r0, r1, r2, r3, r4]) rfl ?_
    refine ⟨?_, ?_⟩
    · rw [WAns, HRs.out]
      exact ⟨_, rfl, b, X.length, cb, b', Y.length, cb', va, un, vc, l', rfl, (((((HSt.out.setLow (by omega) _).setLow (by omega) _).setLow (by omega) _).setLow (by omega) _).setLow (by omega) _).low (by omega), HM.out⟩
    · exact ((((HBw.out.setCell (by dsimp only; omega) _).setCell (by dsimp only; omega) _).setCell (by dsimp only; omega) _).setCell (by dsimp only; omega) _).setCell (by dsimp only; omega) _
  | true =>
  have HId : Hid (idB id.data.toList = true) := hidB
  clear hidB
  have hsn := HSo.out.nums
  obtain ⟨hen, hn0, hnX, hX200⟩ := hsn
  have hfew : un ≤ 10 := by have := HSo.out.few; rw [List.length_map, ← HL.out.1] at this; exact this
  obtain ⟨d0, d1, d2, d3, d4⟩ := (show _ ∧ _ ∧ _ ∧ _ ∧ _ from ⟨(HQ.out _ HC2.out).1.cell 0 rfl, (HQ.out _ HC2.out).1.cell 1 rfl, (HQ.out _ HC2.out).1.cell 2 rfl, (HQ.out _ HC2.out).1.cell 3 rfl, (HQ.out _ HC2.out).1.cell 4 rfl⟩)
  go_wp2_with fail
  refine (specAtU_any ua un uc lo id l y2 (HX.out _ HC2.out).2.2 HL.out.1 (by omega)).mono ?_
  rintro _ y2 ⟨rfl, rfl⟩
  clear d0 d1 d2 d3 d4
  cases hat : atU (l.map UE.u) id with
  | none =>
    have hki : atI (l.map UE.u) id = -1 := by rw [atI, hat]
    rw [hki]
    have HRs : Hid (dropA X Y ep nx (l.map UE.u) id = ⟨X, nx, l.map UE.u, 2⟩) := by show _ = _; rw [dropA, if_pos ⟨HDb.out, HId.out⟩, if_pos hat]
    have HBw : Hid (Below w.heap.size w y2) := HB2.out.trans (HC2.out.mono HB2.out.size)
    obtain ⟨r0, r1, r2, r3, r4⟩ := (show _ ∧ _ ∧ _ ∧ _ ∧ _ from ⟨(HQ.out _ HC2.out).2.cell 0 rfl, (HQ.out _ HC2.out).2.cell 1 rfl, (HQ.out _ HC2.out).2.cell 2 rfl, (HQ.out _ HC2.out).2.cell 3 rfl, (HQ.out _ HC2.out).2.cell 4 rfl⟩)
    obtain ⟨f0, f1, f2, f3, f4⟩ := (show _ ∧ _ ∧ _ ∧ _ ∧ _ from ⟨(HQ.out _ HC2.out).2.frozen 0, (HQ.out _ HC2.out).2.frozen 1, (HQ.out _ HC2.out).2.frozen 2, (HQ.out _ HC2.out).2.frozen 3, (HQ.out _ HC2.out).2.frozen 4⟩)
    obtain ⟨o0, o1, o2, o3, o4⟩ := (show _ ∧ _ ∧ _ ∧ _ ∧ _ from ⟨HA2.out.box.cell 0 rfl, HA2.out.box.cell 1 rfl, HA2.out.box.cell 2 rfl, HA2.out.box.cell 3 rfl, HA2.out.box.cell 4 rfl⟩)
    have HSt : Hid (StoAt y2 W2.heap.size b X.length cb X b' Y.length cb' Y va un vc l') := HA2.out.sto
    clear HQ HX HC2 HA2
    go_wp2_with fail
    refine bodyPost_ret (v := .tuple #[.agg #[.slice b X.length cb, .slice b' Y.length cb', .int .i64 ep, .int .i64 nx, .slice va un vc], .int .i64 2]) (by simp [results, Tryz.f64, go_sem, r0, r1, r2, r3, r4]) rfl ?_
    refine ⟨?_, ?_⟩
    · rw [WAns, HRs.out]
      exact ⟨_, rfl, b, X.length, cb, b', Y.length, cb', va, un, vc, l', rfl, (((((HSt.out.setLow (by omega) _).setLow (by omega) _).setLow (by omega) _).setLow (by omega) _).setLow (by omega) _).low (by omega), HM.out⟩
    · exact ((((HBw.out.setCell (by dsimp only; omega) _).setCell (by dsimp only; omega) _).setCell (by dsimp only; omega) _).setCell (by dsimp only; omega) _).setCell (by dsimp only; omega) _
  | some k =>
  have hki : atI (l.map UE.u) id = (k : Int) := by rw [atI, hat]
  have hk0 : ¬ (k : Int) < 0 := by omega
  have hk1 : (0 : Int) ≤ (k : Int) := by omega
  rw [hki]
  obtain ⟨d0, d1, d2, d3, d4⟩ := (show _ ∧ _ ∧ _ ∧ _ ∧ _ from ⟨(HQ.out _ HC2.out).1.cell 0 rfl, (HQ.out _ HC2.out).1.cell 1 rfl, (HQ.out _ HC2.out).1.cell 2 rfl, (HQ.out _ HC2.out).1.cell 3 rfl, (HQ.out _ HC2.out).1.cell 4 rfl⟩)
  go_wp2_with fail
  refine (specLeft_any a n ca a' n' ca' ep nx ua un uc y2 (by omega) (by omega)).mono ?_
  rintro _ y3 ⟨rfl, hb3⟩
  clear d0 d1 d2 d3 d4
  have HA3 : Hid (SAt y3 W2.heap.size bo b X.length cb X b' Y.length cb' Y ep nx va un vc l') := HA2.out.stays hb3
  have HC3 : Hid (Below W2.heap.size W2 y3) := HC2.out.trans (hb3.mono HC2.out.size)
  clear hb3 HA2 HC2
  by_cases hroom : (n : Int) - nx < 1
  · have hrn : ¬ nx < (X.length : Int) := by have := HL.out.2.2.2; omega
    have HRs : Hid (dropA X Y ep nx (l.map UE.u) id = ⟨X, nx, l.map UE.u, 5⟩) := by show _ = _; rw [dropA, if_pos ⟨HDb.out, HId.out⟩, if_neg (by rw [hat]; simp), if_neg hrn]
    have HBw : Hid (Below w.heap.size w y3) := HB2.out.trans (HC3.out.mono HB2.out.size)
    obtain ⟨r0, r1, r2, r3, r4⟩ := (show _ ∧ _ ∧ _ ∧ _ ∧ _ from ⟨(HQ.out _ HC3.out).2.cell 0 rfl, (HQ.out _ HC3.out).2.cell 1 rfl, (HQ.out _ HC3.out).2.cell 2 rfl, (HQ.out _ HC3.out).2.cell 3 rfl, (HQ.out _ HC3.out).2.cell 4 rfl⟩)
    obtain ⟨f0, f1, f2, f3, f4⟩ := (show _ ∧ _ ∧ _ ∧ _ ∧ _ from ⟨(HQ.out _ HC3.out).2.frozen 0, (HQ.out _ HC3.out).2.frozen 1, (HQ.out _ HC3.out).2.frozen 2, (HQ.out _ HC3.out).2.frozen 3, (HQ.out _ HC3.out).2.frozen 4⟩)
    obtain ⟨o0, o1, o2, o3, o4⟩ := (show _ ∧ _ ∧ _ ∧ _ ∧ _ from ⟨HA3.out.box.cell 0 rfl, HA3.out.box.cell 1 rfl, HA3.out.box.cell 2 rfl, HA3.out.box.cell 3 rfl, HA3.out.box.cell 4 rfl⟩)
    have HSt : Hid (StoAt y3 W2.heap.size b X.length cb X b' Y.length cb' Y va un vc l') := HA3.out.sto
    clear HQ HX HC3 HA3
    go_wp2_with fail
    refine bodyPost_ret (v := .tuple #[.agg #[.slice b X.length cb, .slice b' Y.length cb', .int .i64 ep, .int .i64 nx, .slice va un vc], .int .i64 5]) (by simp [results, Tryz.f64, go_sem, r0, r1, r2, r3, r4]) rfl ?_
    refine ⟨?_, ?_⟩
    · rw [WAns, HRs.out]
      exact ⟨_, rfl, b, X.length, cb, b', Y.length, cb', va, un, vc, l', rfl, (((((HSt.out.setLow (by omega) _).setLow (by omega) _).setLow (by omega) _).setLow (by omega) _).setLow (by omega) _).low (by omega), HM.out⟩
    · exact ((((HBw.out.setCell (by dsimp only; omega) _).setCell (by dsimp only; omega) _).setCell (by dsimp only; omega) _).setCell (by dsimp only; omega) _).setCell (by dsimp only; omega) _
  obtain ⟨us0, ho1⟩ := drop_fits hat
  obtain ⟨M, hM⟩ := Int.eq_ofNat_of_zero_le hn0
  obtain ⟨E, hE⟩ := Int.eq_ofNat_of_zero_le hen.1
  subst hM hE
  have hMl : M < X.length := by have := HL.out.2.2.2; omega
  have HRs : Hid (dropA X Y (E : Int) (M : Int) (l.map UE.u) id = ⟨X.set M (txU (sumB (recB E M 4 id 0 []))), (M : Int) + 1, us0, 0⟩) := by
    show _ = _
    rw [dropA, if_pos ⟨HDb.out, HId.out⟩, if_neg (by rw [hat]; simp), if_pos (by omega)]
    show wroteA X (E : Int) (M : Int) (l.map UE.u) [dropR id] = _
    have hf : [dropR id].foldlM oneU (l.map UE.u) = some us0 := by rw [List.foldlM_cons, ho1]; rfl
    rw [wroteA, hf]
    rfl
  have hsq : HA3.out.box = HA3.out.box := rfl
  have hi8 : id.size ≤ 255 := by
    have h := HId.out
    simp only [idB, Bool.and_eq_true, decide_eq_true_eq, Array.length_toList] at h
    have h8 : id.data.size = id.size := rfl
    omega
  have HWr : Hid (Calls Tryz.prog 89 #[.pointer (some ⟨bo, 0, none⟩), .agg #[.int .i64 0, .int .i64 0, .int .i64 4, .string id, .int .i64 0, .slice none 0 0]] y3 fun e w' => e = .returned (.tuple #[]) ∧ (∃ ua' un' uc' l2, BoxN w' bo 29 [.slice b X.length cb, .slice b' Y.length cb', .int .i64 (E : Int), .int .i64 ((M : Int) + 1), .slice ua' un' uc'] ∧ StoAt w' W2.heap.size b X.length cb (X.set M (txU (sumB (recB E M 4 id 0 [])))) b' Y.length cb' Y ua' un' uc' l2 ∧ l2.map UE.u = us0) ∧ Below W2.heap.size y3 w') :=
    specWrite_any W2.heap.size bo b cb X b' Y.length cb' Y E M va un vc l' 0 0 4 id 0 none 0 0 [] us0 y3 HA3.out.box HA3.out.sto hlo 0 (owns_nil _ _) hMl (by omega) (by omega) HZ'.out hi8 (by omega) (by omega) (by omega) (by omega) (by rw [HM.out]; exact ho1)
  go_wp2_with fail
  refine HWr.out.mono ?_
  rintro _ y4 ⟨rfl, ⟨ua', un', uc', l2, hq4, hs4, hm4⟩, hb4⟩
  have HC4 : Hid (Below W2.heap.size W2 y4) := HC3.out.trans hb4
  have HBw : Hid (Below w.heap.size w y4) := HB2.out.trans (HC4.out.mono HB2.out.size)
  obtain ⟨r0, r1, r2, r3, r4⟩ := (show _ ∧ _ ∧ _ ∧ _ ∧ _ from ⟨(HQ.out _ HC4.out).2.cell 0 rfl, (HQ.out _ HC4.out).2.cell 1 rfl, (HQ.out _ HC4.out).2.cell 2 rfl, (HQ.out _ HC4.out).2.cell 3 rfl, (HQ.out _ HC4.out).2.cell 4 rfl⟩)
  obtain ⟨f0, f1, f2, f3, f4⟩ := (show _ ∧ _ ∧ _ ∧ _ ∧ _ from ⟨(HQ.out _ HC4.out).2.frozen 0, (HQ.out _ HC4.out).2.frozen 1, (HQ.out _ HC4.out).2.frozen 2, (HQ.out _ HC4.out).2.frozen 3, (HQ.out _ HC4.out).2.frozen 4⟩)
  obtain ⟨o0, o1, o2, o3, o4⟩ := (show _ ∧ _ ∧ _ ∧ _ ∧ _ from ⟨hq4.cell 0 rfl, hq4.cell 1 rfl, hq4.cell 2 rfl, hq4.cell 3 rfl, hq4.cell 4 rfl⟩)
  have HSt : Hid (StoAt y4 W2.heap.size b X.length cb (X.set M (txU (sumB (recB E M 4 id 0 [])))) b' Y.length cb' Y ua' un' uc' l2 ∧ l2.map UE.u = us0) := ⟨hs4, hm4⟩
  clear HQ HX HC3 HA3 HC4 hq4 hs4 hm4 hb4 HWr
  go_wp2_with fail
  refine bodyPost_ret (v := .tuple #[.agg #[.slice b X.length cb, .slice b' Y.length cb', .int .i64 (E : Int), .int .i64 ((M : Int) + 1), .slice ua' un' uc'], .int .i64 0]) (by simp [results, Tryz.f64, go_sem, r0, r1, r2, r3, r4]) rfl ?_
  refine ⟨?_, ?_⟩
  · rw [WAns, HRs.out]
    exact ⟨_, rfl, b, X.length, cb, b', Y.length, cb', ua', un', uc', l2, rfl, (((((HSt.out.1.setLow (by omega) _).setLow (by omega) _).setLow (by omega) _).setLow (by omega) _).setLow (by omega) _).low (by omega), HSt.out.2⟩
  · exact ((((HBw.out.setCell (by dsimp only; omega) _).setCell (by dsimp only; omega) _).setCell (by dsimp only; omega) _).setCell (by dsimp only; omega) _).setCell (by dsimp only; omega) _

end Go.Proofs.YtiigdcpjelbdjaaGreatDoor

namespace Go.Proofs.YtiigdcpjelbdjaaGreatDoor
open Go.RowKit
set_option linter.unusedVariables false

set_option maxRecDepth 10000 in
set_option maxHeartbeats 3200000 in
theorem specFlush_any (a : Option Addr) (n ca : Nat) (xs : List ByteArray) (a' : Option Addr) (n' ca' : Nat) (ys : List ByteArray) (w : World) (h1 : Strs w a n xs) (h2 : Strs w a' n' ys) (hn : n ≤ 2097152) (hn' : n' ≤ 2097152) :
    Calls Tryz.prog 90 #[.agg #[.slice a n ca, .slice a' n' ca']] w fun e w' => (∃ v, e = .returned v ∧ AnsD w.heap.size xs xs v w') ∧ Below w.heap.size w w' := by
  obtain ⟨i0, hi, hz0, hz1, hz2⟩ := info_parts info_string
  have HM0 : Hid (∀ x ∈ xs, x.size ≤ maxLen) := h1.2.1
  have HM1 : Hid (∀ x ∈ ys, x.size ≤ maxLen) := h2.2.1
  have HLn : Hid (xs.length = n ∧ ys.length = n') := ⟨h1.1, h2.1⟩
  obtain ⟨W2, hW2⟩ : ∃ W2, (w.alloc (.cells #[.slice a n ca, .slice a' n' ca'] 26)).alloc (.cells #[.slice none 0 0, .slice none 0 0] 26) = W2 := ⟨_, rfl⟩
  have HE : Hid ((w.alloc (.cells #[.slice a n ca, .slice a' n' ca'] 26)).alloc (.cells #[.slice none 0 0, .slice none 0 0] 26) = W2) := hW2
  have HB2 : Hid (Below w.heap.size w W2) := by show Below _ _ _; rw [← hW2]; exact ((Below.refl _ _).alloc (Nat.le_refl _) _).alloc (by simp) _
  have HZ2 : Hid (W2.heap.size = w.heap.size + 2) := by show _ = _; rw [← hW2]; simp
  have q1 : Box2R W2 w.heap.size 26 (.slice a n ca) (.slice a' n' ca') := by rw [← hW2]; exact (Box2R.new _ _ _ _).alloc _
  have q2 : Box2R W2 (w.heap.size + 1) 26 (.slice none 0 0) (.slice none 0 0) := by
    rw [← hW2]
    have := Box2R.new (w.alloc (.cells #[.slice a n ca, .slice a' n' ca'] 26)) 26 (.slice none 0 0) (.slice none 0 0)
    rwa [World.size_alloc] at this
  have HQ : Hid (∀ W, Below W2.heap.size W2 W → Box2R W w.heap.size 26 (.slice a n ca) (.slice a' n' ca') ∧ Box2R W (w.heap.size + 1) 26 (.slice none 0 0) (.slice none 0 0)) := fun W h => ⟨q1.stays h, q2.stays h⟩
  have HX : Hid (∀ W, Below W2.heap.size W2 W → Strs W a n xs ∧ Strs W a' n' ys) := fun W h => by
    have hw := HB2.out.trans (h.mono HB2.out.size)
    exact ⟨h1.below hw, h2.below hw⟩
  have HBa : Hid (Below W2.heap.size W2 (W2.alloc (.cells #[] 9))) := (Below.refl _ _).alloc (Nat.le_refl _) _
  have HBb : Hid (Below W2.heap.size W2 ((W2.alloc (.cells #[] 9)).alloc (.cells #[] 9))) := ((Below.refl _ _).alloc (Nat.le_refl _) _).alloc (by simp) _
  have HBad : Hid (Below W2.heap.size W2 (W2.alloc (.cells #[] 9)).drew) := HBa.out.drew
  have HBbd : Hid (Below W2.heap.size W2 ((W2.alloc (.cells #[] 9)).alloc (.cells #[] 9)).drew) := HBb.out.drew
  have HLa : Hid ((W2.alloc (.cells #[] 9)).heap[W2.heap.size]? = some (.cells #[] 9)) := heap_alloc_new _ _
  have HLb : Hid (((W2.alloc (.cells #[] 9)).alloc (.cells #[] 9)).heap[W2.heap.size]? = some (.cells #[] 9)) := by
    show _ = _
    rw [heap_alloc_old _ _ (by simp)]
    exact heap_alloc_new _ _
  have HLc : Hid (((W2.alloc (.cells #[] 9)).alloc (.cells #[] 9)).heap[W2.heap.size + 1]? = some (.cells #[] 9)) := by
    have := heap_alloc_new (W2.alloc (.cells #[] 9)) (.cells #[] 9)
    rwa [World.size_alloc] at this
  clear hW2 q1 q2 h1 h2
  have hne : w.heap.size ≠ w.heap.size + 1 := by omega
  have hs2 : w.heap.size + 1 < W2.heap.size := by have := HZ2.out; omega
  go_enter Tryz.func90, Tryz.ntmps90
  go_upto_region 1 with fail
  rw [HE.out]
  clear HE
  obtain ⟨c0, c1⟩ := (HQ.out _ (Below.refl _ _)).1.cells
  go_cut [] from 3 (fun W => Hid (∃ g1 c1 g2 c2, Box2R W (w.heap.size + 1) 26 (.slice (some ⟨g1, 0, none⟩) n c1) (.slice (some ⟨g2, 0, none⟩) n c2) ∧ g1 ≠ g2 ∧ OwnSt W w.heap.size (.slice (some ⟨g1, 0, none⟩) n c1) n xs ∧ OwnSt W w.heap.size (.slice (some ⟨g2, 0, none⟩) n c2) n xs ∧ Below w.heap.size w W))
  case first =>
    go_region_held3 (fun W => W.cell? ⟨w.heap.size, 0, none⟩ = some (.slice a n ca) ∧ W.cell? ⟨w.heap.size, 1, none⟩ = some (.slice a' n' ca')) (first | (refine ⟨?_, ?_⟩ <;> assumption) | (refine ⟨?_, ?_⟩ <;> (exact cellD_kept hne (cellD_kept hne (by assumption)))) | go_keep) (first
      | (refine step_append_lit rfl (.tmp 7) (.tmp 9) 24 24 rfl W2.heap.size 9 i0 (.string ⟨#[]⟩) 1 16 Tryz.underlying24 hi hz0 hz1 hz2 rfl (by decide) (W2.heap.size + 1) rfl hl2 (by omega) _ n (scells xs) rfl (HX.out _ hB1).1.src (by unfold maxLen; omega) (by omega) hB1.size ?_; intro g2 c2 y2 hown2 hb2 hw2; have hB2 : Below W2.heap.size W2 y2 := hB1.trans (hb2.mono hB1.size); obtain ⟨m0, m1⟩ := (HQ.out _ hB2).1.cells; obtain ⟨r0, r1⟩ := (HQ.out _ hB2).2.cells; have f0 := (HQ.out _ hB2).2.frozen 0; have f1 := (HQ.out _ hB2).2.frozen 1; have hne12 : g1 ≠ g2 := (by rcases hw2 with h | h <;> omega); have hownP := own_below hown1 hb2)
      | (refine step_append_lit rfl (.tmp 7) (.tmp 9) 24 24 rfl W2.heap.size 9 i0 (.string ⟨#[]⟩) 1 16 Tryz.underlying24 hi hz0 hz1 hz2 rfl (by decide) W2.heap.size rfl hl3 (by omega) _ n (scells xs) rfl (HX.out _ hB1).1.src (by unfold maxLen; omega) (by omega) hB1.size ?_; intro g2 c2 y2 hown2 hb2 hw2; have hB2 : Below W2.heap.size W2 y2 := hB1.trans (hb2.mono hB1.size); obtain ⟨m0, m1⟩ := (HQ.out _ hB2).1.cells; obtain ⟨r0, r1⟩ := (HQ.out _ hB2).2.cells; have f0 := (HQ.out _ hB2).2.frozen 0; have f1 := (HQ.out _ hB2).2.frozen 1; have hne12 : g1 ≠ g2 := (by rcases hw2 with h | h <;> omega); have hownP := own_below hown1 hb2)
      | (refine step_append_lit rfl (.tmp 7) (.tmp 9) 24 24 rfl W2.heap.size 9 i0 (.string ⟨#[]⟩) 1 16 Tryz.underlying24 hi hz0 hz1 hz2 rfl (by decide) y1.heap.size rfl (heap_alloc_new y1 _) (by omega) _ n (scells xs) rfl (HX.out _ (hB1.alloc hB1.size (.cells #[] 9))).1.src (by unfold maxLen; omega) (by omega) (hB1.alloc hB1.size (.cells #[] 9)).size ?_; intro g2 c2 y2 hown2 hb2 hw2; have hB2 : Below W2.heap.size W2 y2 := (hB1.alloc hB1.size (.cells #[] 9)).trans (hb2.mono (hB1.alloc hB1.size (.cells #[] 9)).size); obtain ⟨m0, m1⟩ := (HQ.out _ hB2).1.cells; obtain ⟨r0, r1⟩ := (HQ.out _ hB2).2.cells; have f0 := (HQ.out _ hB2).2.frozen 0; have f1 := (HQ.out _ hB2).2.frozen 1; have hne12 : g1 ≠ g2 := (by rw [World.size_alloc] at hw2; rcases hw2 with h | h <;> omega); have hownP := own_below hown1 (((Below.refl y1.heap.size y1).alloc (Nat.le_refl _) _).trans (hb2.mono (by simp))))
      | (refine step_append_lit rfl (.tmp 3) (.tmp 5) 24 24 rfl W2.heap.size 9 i0 (.string ⟨#[]⟩) 1 16 Tryz.underlying24 hi hz0 hz1 hz2 rfl (by decide) W2.heap.size rfl HLa.out (by omega) _ n (scells xs) rfl (HX.out _ HBad.out).1.src (by unfold maxLen; omega) (by omega) HBad.out.size ?_; intro g1 c1 y1 hown1 hb1 hw1; have hB1 : Below W2.heap.size W2 y1 := HBad.out.trans (hb1.mono HBad.out.size); obtain ⟨e0, e1⟩ := (HQ.out _ hB1).1.cells; have hy1 := hB1.size; have hg1 := (show g1 < y1.heap.size from (OwnSt.lt ⟨hown1, HM0.out⟩ g1 rfl).2); have mark1 := trivial)
      | (refine step_append_lit rfl (.tmp 3) (.tmp 5) 24 24 rfl W2.heap.size 9 i0 (.string ⟨#[]⟩) 1 16 Tryz.underlying24 hi hz0 hz1 hz2 rfl (by decide) W2.heap.size rfl HLb.out (by omega) _ n (scells xs) rfl (HX.out _ HBbd.out).1.src (by unfold maxLen; omega) (by omega) HBbd.out.size ?_; intro g1 c1 y1 hown1 hb1 hw1; have hB1 : Below W2.heap.size W2 y1 := HBbd.out.trans (hb1.mono HBbd.out.size); obtain ⟨e0, e1⟩ := (HQ.out _ hB1).1.cells; have hy1 := hB1.size; have hg1 := (show g1 < y1.heap.size from (OwnSt.lt ⟨hown1, HM0.out⟩ g1 rfl).2); have hl2 : y1.heap[W2.heap.size + 1]? = some (.cells #[] 9) := (hb1.block _ (by show W2.heap.size + 1 < ((W2.alloc (.cells #[] 9)).alloc (.cells #[] 9)).heap.size; simp)).trans HLc.out; have hap : g1 ≠ W2.heap.size + 1 := (by have hz : ((W2.alloc (.cells #[] 9)).alloc (.cells #[] 9)).drew.heap.size = W2.heap.size + 2 := (by show ((W2.alloc (.cells #[] 9)).alloc (.cells #[] 9)).heap.size = _; simp); rcases hw1 with h | h <;> omega))
      | (refine step_append_lit rfl (.tmp 3) (.tmp 5) 24 24 rfl W2.heap.size 9 i0 (.string ⟨#[]⟩) 1 16 Tryz.underlying24 hi hz0 hz1 hz2 rfl (by decide) (W2.heap.size + 1) rfl HLc.out (by omega) _ n (scells xs) rfl (HX.out _ HBbd.out).1.src (by unfold maxLen; omega) (by omega) HBbd.out.size ?_; intro g1 c1 y1 hown1 hb1 hw1; have hB1 : Below W2.heap.size W2 y1 := HBbd.out.trans (hb1.mono HBbd.out.size); obtain ⟨e0, e1⟩ := (HQ.out _ hB1).1.cells; have hy1 := hB1.size; have hg1 := (show g1 < y1.heap.size from (OwnSt.lt ⟨hown1, HM0.out⟩ g1 rfl).2); have hl3 : y1.heap[W2.heap.size]? = some (.cells #[] 9) := (hb1.block _ (by show W2.heap.size < ((W2.alloc (.cells #[] 9)).alloc (.cells #[] 9)).heap.size; simp; omega)).trans HLb.out; have hap : g1 ≠ W2.heap.size := (by have hz : ((W2.alloc (.cells #[] 9)).alloc (.cells #[] 9)).drew.heap.size = W2.heap.size + 2 := (by show ((W2.alloc (.cells #[] 9)).alloc (.cells #[] 9)).heap.size = _; simp); rcases hw1 with h | h <;> omega))
      | fail)
    all_goals
      have HF : Hid (Box2R ((y2.setCell ⟨w.heap.size + 1, 0, none⟩ (.slice (some ⟨g1, 0, none⟩) n c1)).setCell ⟨w.heap.size + 1, 1, none⟩ (.slice (some ⟨g2, 0, none⟩) n c2)) (w.heap.size + 1) 26 (.slice (some ⟨g1, 0, none⟩) n c1) (.slice (some ⟨g2, 0, none⟩) n c2) ∧ g1 ≠ g2 ∧ OwnSt ((y2.setCell ⟨w.heap.size + 1, 0, none⟩ (.slice (some ⟨g1, 0, none⟩) n c1)).setCell ⟨w.heap.size + 1, 1, none⟩ (.slice (some ⟨g2, 0, none⟩) n c2)) w.heap.size (.slice (some ⟨g1, 0, none⟩) n c1) n xs ∧ OwnSt ((y2.setCell ⟨w.heap.size + 1, 0, none⟩ (.slice (some ⟨g1, 0, none⟩) n c1)).setCell ⟨w.heap.size + 1, 1, none⟩ (.slice (some ⟨g2, 0, none⟩) n c2)) w.heap.size (.slice (some ⟨g2, 0, none⟩) n c2) n xs ∧ Below w.heap.size w ((y2.setCell ⟨w.heap.size + 1, 0, none⟩ (.slice (some ⟨g1, 0, none⟩) n c1)).setCell ⟨w.heap.size + 1, 1, none⟩ (.slice (some ⟨g2, 0, none⟩) n c2))) := by
        have o1 : OwnSt y2 W2.heap.size (.slice (some ⟨g1, 0, none⟩) n c1) n xs := ⟨hownP, HM0.out⟩
        have o2 : OwnSt y2 W2.heap.size (.slice (some ⟨g2, 0, none⟩) n c2) n xs := ⟨hown2, HM0.out⟩
        have l1 := (o1.lt g1 rfl).1
        have l2 := (o2.lt g2 rfl).1
        have hbw := HB2.out.trans (hB2.mono HB2.out.size)
        exact ⟨((HQ.out _ hB2).2.set0 _).set1 _, hne12, ((o1.setCell (by simp [blkOf]; omega) _).setCell (by simp [blkOf]; omega) _).low (by omega), ((o2.setCell (by simp [blkOf]; omega) _).setCell (by simp [blkOf]; omega) _).low (by omega), (hbw.setCell (by dsimp only; omega) _).setCell (by dsimp only; omega) _⟩
      clear hown1 hown2 hownP hb1 hb2 hB1 hB2 hw1 hw2 e0 e1 m0 m1 r0 r1 f0 f1 hg1 hy1
      go_wp2_with fail
      go_meet
      exact ⟨g1, c1, g2, c2, HF.out⟩
  case rest =>
  obtain ⟨x3, hx3⟩ : ∃ x3, wc = x3 := ⟨_, rfl⟩
  rw [hx3] at hcut ⊢
  obtain ⟨g1, c1, g2, c2, hbx, hne12, o1, o2, hbw⟩ := hcut
  have HO : Hid (OwnSt x3 w.heap.size (.slice (some ⟨g1, 0, none⟩) n c1) n xs ∧ OwnSt x3 w.heap.size (.slice (some ⟨g2, 0, none⟩) n c2) n xs ∧ Below w.heap.size w x3) := ⟨o1, o2, hbw⟩
  clear hx3 o1 o2 hbw HBa HBb HBad HBbd HLa HLb HLc
  obtain ⟨d0, d1⟩ := hbx.cells
  go_wp2_with fail
  refine bodyPost_ret (v := .agg #[.slice (some ⟨g1, 0, none⟩) n c1, .slice (some ⟨g2, 0, none⟩) n c2]) (by simp [results, Tryz.f90, go_sem, d0, d1]) rfl ?_
  have hl := HLn.out
  exact ⟨⟨_, rfl, AnsD.mk' (by omega) (by omega) HO.out.1 HO.out.2.1 (fun q e e2 => hne12 (by simp at e e2; omega))⟩, HO.out.2.2⟩

end Go.Proofs.YtiigdcpjelbdjaaGreatDoor

namespace Go.Proofs.YtiigdcpjelbdjaaGreatDoor
open Go.RowKit
set_option linter.unusedVariables false

set_option maxRecDepth 10000 in
set_option maxHeartbeats 3200000 in
theorem specSync_any (a : Option Addr) (n ca : Nat) (X : List ByteArray) (a' : Option Addr) (n' ca' : Nat) (Y : List ByteArray) (ep nx : Int) (ua : Option Addr) (un uc lo : Nat) (l : List UE) (w : World) (h1 : Strs w a n X) (h2 : Strs w a' n' Y) (hn : n ≤ 1048576) (hn' : n' ≤ 1048576) (hzx : ∀ x ∈ X, x.size ≤ 1048576) (hu : UpRow w lo (.slice ua un uc) l) (hun : un = l.length) (hul : un ≤ 1048576) (hz : ∀ e ∈ l, e.n ≤ 1099511627776) :
    Calls Tryz.prog 65 #[.agg #[.slice a n ca, .slice a' n' ca', .int .i64 ep, .int .i64 nx, .slice ua un uc]] w fun e w' => (∃ v, e = .returned v ∧ AnsS w.heap.size X (syncY X Y ep nx (l.map UE.u)) ep nx (l.map UE.u) v w') ∧ Below w.heap.size w w' := by
  obtain ⟨W2, hW2⟩ : ∃ W2, (w.alloc (.cells #[.slice a n ca, .slice a' n' ca', .int .i64 ep, .int .i64 nx, .slice ua un uc] 29)).alloc (.cells #[.slice none 0 0, .slice none 0 0, .int .i64 0, .int .i64 0, .slice none 0 0] 29) = W2 := ⟨_, rfl⟩
  have HE : Hid ((w.alloc (.cells #[.slice a n ca, .slice a' n' ca', .int .i64 ep, .int .i64 nx, .slice ua un uc] 29)).alloc (.cells #[.slice none 0 0, .slice none 0 0, .int .i64 0, .int .i64 0, .slice none 0 0] 29) = W2) := hW2
  have HB2 : Hid (Below w.heap.size w W2) := by show Below _ _ _; rw [← hW2]; exact ((Below.refl _ _).alloc (Nat.le_refl _) _).alloc (by simp) _
  have q1 : BoxN W2 w.heap.size 29 [.slice a n ca, .slice a' n' ca', .int .i64 ep, .int .i64 nx, .slice ua un uc] := by rw [← hW2]; exact (BoxN.new _ _ _).alloc _
  have q2 : BoxN W2 (w.heap.size + 1) 29 [.slice none 0 0, .slice none 0 0, .int .i64 0, .int .i64 0, .slice none 0 0] := by
    rw [← hW2]
    have := BoxN.new (w.alloc (.cells #[.slice a n ca, .slice a' n' ca', .int .i64 ep, .int .i64 nx, .slice ua un uc] 29)) 29 [.slice none 0 0, .slice none 0 0, .int .i64 0, .int .i64 0, .slice none 0 0]
    rwa [World.size_alloc] at this
  have HQ : Hid (∀ W, Below W2.heap.size W2 W → BoxN W w.heap.size 29 [.slice a n ca, .slice a' n' ca', .int .i64 ep, .int .i64 nx, .slice ua un uc] ∧ BoxN W (w.heap.size + 1) 29 [.slice none 0 0, .slice none 0 0, .int .i64 0, .int .i64 0, .slice none 0 0]) := fun W h => ⟨q1.stays h, q2.stays h⟩
  have HX : Hid (∀ W, Below W2.heap.size W2 W → Strs W a n X ∧ Strs W a' n' Y ∧ UpRow W lo (.slice ua un uc) l) := fun W h => by
    have hw := HB2.out.trans (h.mono HB2.out.size)
    exact ⟨h1.below hw, h2.below hw, hu.stays hw⟩
  have HL : Hid (un = l.length ∧ (∀ e ∈ l, e.n ≤ 1099511627776) ∧ ∀ x ∈ X, x.size ≤ 1048576) := ⟨hun, hz, hzx⟩
  have hs2 : w.heap.size + 1 < W2.heap.size := q2.lt
  clear hW2 q1 q2 h1 h2 hu hun hz hzx
  obtain ⟨c0, c1, c2, c3, c4⟩ := (show _ ∧ _ ∧ _ ∧ _ ∧ _ from ⟨(HQ.out _ (Below.refl _ _)).1.cell 0 rfl, (HQ.out _ (Below.refl _ _)).1.cell 1 rfl, (HQ.out _ (Below.refl _ _)).1.cell 2 rfl, (HQ.out _ (Below.refl _ _)).1.cell 3 rfl, (HQ.out _ (Below.refl _ _)).1.cell 4 rfl⟩)
  go_enter Tryz.func65, Tryz.ntmps65
  go_upto_region 1 with fail
  rw [HE.out]
  clear HE
  go_wp2_with fail
  refine (specScopy_any a n ca X a' n' ca' Y ep nx ua un uc lo l W2 (HX.out _ (Below.refl _ _)).1 (HX.out _ (Below.refl _ _)).2.1 hn hn' (HX.out _ (Below.refl _ _)).2.2 HL.out.1 hul HL.out.2.1).mono ?_
  rintro e y1 ⟨⟨v, rfl, hv⟩, hb1⟩
  obtain ⟨b, cb, b', cb', va, vc, l', rfl, hs1, hm1⟩ := hv.get
  rw [List.length_map, ← HL.out.1] at hs1 ⊢
  have HA1 : Hid (SAt (y1.alloc (.cells #[.slice b X.length cb, .slice b' Y.length cb', .int .i64 ep, .int .i64 nx, .slice va un vc] 29)) W2.heap.size y1.heap.size b X.length cb X b' Y.length cb' Y ep nx va un vc l') := SAt.new hs1 hb1.size
  have HC1 : Hid (Below W2.heap.size W2 (y1.alloc (.cells #[.slice b X.length cb, .slice b' Y.length cb', .int .i64 ep, .int .i64 nx, .slice va un vc] 29))) := hb1.alloc hb1.size _
  have HM : Hid (l'.map UE.u = l.map UE.u) := hm1
  clear hv hs1 hb1 hm1 c0 c1 c2 c3 c4
  obtain ⟨d0, d1, d2, d3, d4⟩ := (show _ ∧ _ ∧ _ ∧ _ ∧ _ from ⟨(HQ.out _ HC1.out).1.cell 0 rfl, (HQ.out _ HC1.out).1.cell 1 rfl, (HQ.out _ HC1.out).1.cell 2 rfl, (HQ.out _ HC1.out).1.cell 3 rfl, (HQ.out _ HC1.out).1.cell 4 rfl⟩)
  go_wp2_with fail
  obtain ⟨w1, hw1⟩ : ∃ w1, y1.alloc (.cells #[.slice b X.length cb, .slice b' Y.length cb', .int .i64 ep, .int .i64 nx, .slice va un vc] 29) = w1 := ⟨_, rfl⟩
  rw [hw1] at HA1 HC1 ⊢
  clear hw1 d0 d1 d2 d3 d4
  generalize y1.heap.size = bo at *
  refine (specSok_any a n ca X a' n' ca' Y ep nx ua un uc lo l w1 (HX.out _ HC1.out).1 (HX.out _ HC1.out).2.1 hn hn' HL.out.2.2 (HX.out _ HC1.out).2.2 HL.out.1 hul).mono ?_
  rintro e y2 ⟨⟨ok, rfl, hok⟩, hb2⟩
  have HA2 : Hid (SAt y2 W2.heap.size bo b X.length cb X b' Y.length cb' Y ep nx va un vc l') := HA1.out.stays hb2
  have HC2 : Hid (Below W2.heap.size W2 y2) := HC1.out.trans (hb2.mono HC1.out.size)
  have hdb : decB (SOk X Y ep nx (l.map UE.u)) = ok := by
    rw [Bool.eq_iff_iff, hok]
    simp [decB]
  have HSy : Hid (syncY X Y ep nx (l.map UE.u) = if ok = true then X else Y) := by show _ = _; rw [syncY, hdb]
  have hlo : W2.heap.size ≤ bo := HA1.out.lob
  clear hb2 hok hdb HA1 HC1
  cases ok with
  | false =>
    obtain ⟨r0, r1, r2, r3, r4⟩ := (show _ ∧ _ ∧ _ ∧ _ ∧ _ from ⟨(HQ.out _ HC2.out).2.cell 0 rfl, (HQ.out _ HC2.out).2.cell 1 rfl, (HQ.out _ HC2.out).2.cell 2 rfl, (HQ.out _ HC2.out).2.cell 3 rfl, (HQ.out _ HC2.out).2.cell 4 rfl⟩)
    obtain ⟨o0, o1, o2, o3, o4⟩ := (show _ ∧ _ ∧ _ ∧ _ ∧ _ from ⟨HA2.out.box.cell 0 rfl, HA2.out.box.cell 1 rfl, HA2.out.box.cell 2 rfl, HA2.out.box.cell 3 rfl, HA2.out.box.cell 4 rfl⟩)
    obtain ⟨f0, f1, f2, f3, f4⟩ := (show _ ∧ _ ∧ _ ∧ _ ∧ _ from ⟨(HQ.out _ HC2.out).2.frozen 0, (HQ.out _ HC2.out).2.frozen 1, (HQ.out _ HC2.out).2.frozen 2, (HQ.out _ HC2.out).2.frozen 3, (HQ.out _ HC2.out).2.frozen 4⟩)
    have HBw : Hid (Below w.heap.size w y2) := HB2.out.trans (HC2.out.mono HB2.out.size)
    clear HQ HX HC2
    go_wp2_with fail
    refine bodyPost_ret (v := .agg #[.slice b X.length cb, .slice b' Y.length cb', .int .i64 ep, .int .i64 nx, .slice va un vc]) (by simp [results, Tryz.f65, go_sem, r0, r1, r2, r3, r4]) rfl ?_
    refine ⟨⟨_, rfl, b, X.length, cb, b', Y.length, cb', va, un, vc, l', rfl, ?_, HM.out⟩, ?_⟩
    · rw [HSy.out]
      exact (((((HA2.out.sto.setLow (by omega) _).setLow (by omega) _).setLow (by omega) _).setLow (by omega) _).setLow (by omega) _).low (by omega)
    · exact ((((HBw.out.setCell (by dsimp only; omega) _).setCell (by dsimp only; omega) _).setCell (by dsimp only; omega) _).setCell (by dsimp only; omega) _).setCell (by dsimp only; omega) _
  | true =>
    obtain ⟨d0, d1, d2, d3, d4⟩ := (show _ ∧ _ ∧ _ ∧ _ ∧ _ from ⟨(HQ.out _ HC2.out).1.cell 0 rfl, (HQ.out _ HC2.out).1.cell 1 rfl, (HQ.out _ HC2.out).1.cell 2 rfl, (HQ.out _ HC2.out).1.cell 3 rfl, (HQ.out _ HC2.out).1.cell 4 rfl⟩)
    go_wp2_with fail
    refine (specFlush_any a n ca X a' n' ca' Y y2 (HX.out _ HC2.out).1 (HX.out _ HC2.out).2.1 (by omega) (by omega)).mono ?_
    rintro e y3 ⟨⟨v3, rfl, A, C, A', C', rfl, ow, ow', hap⟩, hb3⟩
    have HA3 : Hid (SAt y3 W2.heap.size bo b X.length cb X b' Y.length cb' Y ep nx va un vc l') := HA2.out.stays hb3
    have HC3 : Hid (Below W2.heap.size W2 y3) := HC2.out.trans (hb3.mono HC2.out.size)
    have hbo : bo < y2.heap.size := HA2.out.box.lt
    have hlo2 : w.heap.size + 2 ≤ W2.heap.size := by omega
    have ho := HA3.out.box
    obtain ⟨o0, o1, o2, o3, o4⟩ := (show _ ∧ _ ∧ _ ∧ _ ∧ _ from ⟨ho.cell 0 rfl, ho.cell 1 rfl, ho.cell 2 rfl, ho.cell 3 rfl, ho.cell 4 rfl⟩)
    have z0 := ho.frozen 0
    have z1 := ho.frozen 1
    obtain ⟨x4, hx4⟩ : ∃ x4, (y3.setCell ⟨bo, 0, none⟩ (.slice A X.length C)).setCell ⟨bo, 1, none⟩ (.slice A' X.length C') = x4 := ⟨_, rfl⟩
    have HE4 : Hid ((y3.setCell ⟨bo, 0, none⟩ (.slice A X.length C)).setCell ⟨bo, 1, none⟩ (.slice A' X.length C') = x4) := hx4
    have HO4 : Hid (BoxN x4 bo 29 [.slice A X.length C, .slice A' X.length C', .int .i64 ep, .int .i64 nx, .slice va un vc]) := by
      show BoxN _ _ _ _
      rw [← hx4]
      exact (ho.set 0 _).set 1 _
    have HR4 : Hid (BoxN x4 (w.heap.size + 1) 29 [.slice none 0 0, .slice none 0 0, .int .i64 0, .int .i64 0, .slice none 0 0]) := by
      show BoxN _ _ _ _
      rw [← hx4]
      exact ((HQ.out _ HC3.out).2.other (by omega) _).other (by omega) _
    have hba : ∀ q, A.map (·.block) = some q → y2.heap.size ≤ q := fun q e => (ow.lt q (by rw [blk_own]; exact e)).1
    have hba' : ∀ q, A'.map (·.block) = some q → y2.heap.size ≤ q := fun q e => (ow'.lt q (by rw [blk_own]; exact e)).1
    have hn1 : blkOf (.slice A X.length C) ≠ some bo := fun e => by have := hba _ (by rw [← blk_own A X.length C]; exact e); omega
    have hn2 : blkOf (.slice A' X.length C') ≠ some bo := fun e => by have := hba' _ (by rw [← blk_own A' X.length C']; exact e); omega
    have hy2 : W2.heap.size ≤ y2.heap.size := HC2.out.size
    have HS4 : Hid (StoAt x4 (w.heap.size + 2) A X.length C X A' X.length C' X va un vc l') := by
      have hin := HA3.out.inn
      refine ⟨?_, ?_, hap, ?_, HA3.out.sto.len⟩
      · rw [← hx4]; exact ((ow.setCell hn1 _).setCell hn1 _).low (by omega)
      · rw [← hx4]; exact ((ow'.setCell hn2 _).setCell hn2 _).low (by omega)
      · rw [← hx4]
        have g1 : ∀ q, some bo = some q → (Value.slice va un vc).ownBlock ≠ some q := fun q hq hq2 => by injection hq with hq; have := hin.2.2.1 q (by rw [← ownBlock_sU va un vc]; exact hq2); omega
        have g2 : ∀ e ∈ l', ∀ q, some bo = some q → e.a.map (·.block) ≠ some q := fun e he q hq hq2 => by injection hq with hq; have := hin.2.2.2 e he q hq2; omega
        exact (((HA3.out.sto.ups.grown (grownBy_setU _ bo 0 _) g1 g2).grown (grownBy_setU _ bo 1 _) g1 g2)).low (by omega)
    have HB4 : Hid (Below w.heap.size w x4) := by
      show Below _ _ _
      rw [← hx4]
      exact ((HB2.out.trans (HC3.out.mono HB2.out.size)).setCell (by dsimp only; omega) _).setCell (by dsimp only; omega) _
    clear hx4 ow ow' hap hb3 ho hba hba' hn1 hn2 HA2 HA3 HC2 HC3 HQ HX d0 d1 d2 d3 d4
    go_upto_region 4 with fail
    rw [HE4.out]
    clear HE4 z0 z1 o0 o1 o2 o3 o4
    obtain ⟨o0, o1, o2, o3, o4⟩ := (show _ ∧ _ ∧ _ ∧ _ ∧ _ from ⟨HO4.out.cell 0 rfl, HO4.out.cell 1 rfl, HO4.out.cell 2 rfl, HO4.out.cell 3 rfl, HO4.out.cell 4 rfl⟩)
    obtain ⟨r0, r1, r2, r3, r4⟩ := (show _ ∧ _ ∧ _ ∧ _ ∧ _ from ⟨HR4.out.cell 0 rfl, HR4.out.cell 1 rfl, HR4.out.cell 2 rfl, HR4.out.cell 3 rfl, HR4.out.cell 4 rfl⟩)
    obtain ⟨f0, f1, f2, f3, f4⟩ := (show _ ∧ _ ∧ _ ∧ _ ∧ _ from ⟨HR4.out.frozen 0, HR4.out.frozen 1, HR4.out.frozen 2, HR4.out.frozen 3, HR4.out.frozen 4⟩)
    clear HO4 HR4
    go_wp2_with fail
    refine bodyPost_ret (v := .agg #[.slice A X.length C, .slice A' X.length C', .int .i64 ep, .int .i64 nx, .slice va un vc]) (by simp [results, Tryz.f65, go_sem, r0, r1, r2, r3, r4]) rfl ?_
    refine ⟨⟨_, rfl, A, X.length, C, A', X.length, C', va, un, vc, l', rfl, ?_, HM.out⟩, ?_⟩
    · rw [HSy.out]
      exact (((((HS4.out.setLow (by omega) _).setLow (by omega) _).setLow (by omega) _).setLow (by omega) _).setLow (by omega) _).low (by omega)
    · exact ((((HB4.out.setCell (by dsimp only; omega) _).setCell (by dsimp only; omega) _).setCell (by dsimp only; omega) _).setCell (by dsimp only; omega) _).setCell (by dsimp only; omega) _

end Go.Proofs.YtiigdcpjelbdjaaGreatDoor

namespace Go.Proofs.YtiigdcpjelbdjaaGreatDoor
open Go.RowKit
set_option linter.unusedVariables false

set_option maxRecDepth 10000 in
set_option maxHeartbeats 1600000 in
theorem specTop_any (a : Option Addr) (n ca : Nat) (xs : List ByteArray) (a' : Option Addr) (n' ca' : Nat) (w : World) (h1 : Strs w a n xs) (hn : n ≤ 1099511627776) (hz : ∀ x ∈ xs, x.size ≤ 1048576) :
    Calls Tryz.prog 94 #[.agg #[.slice a n ca, .slice a' n' ca']] w fun e w' => e = .returned (.int .i64 (topE xs)) ∧ Below w.heap.size w w' := by
  have HX : Hid (∀ W, Below w.heap.size w W → Strs W a n xs) := fun W h => h1.below h
  have HL : Hid (xs.length = n) := h1.1
  have HZ : Hid (∀ x ∈ xs, x.size ≤ 1048576) := hz
  clear h1 hz
  obtain ⟨w0, hw0⟩ : ∃ w0, w.alloc (.cells #[.slice a n ca, .slice a' n' ca'] 26) = w0 := ⟨_, rfl⟩
  have HE : Hid (w.alloc (.cells #[.slice a n ca, .slice a' n' ca'] 26) = w0) := hw0
  have HA : Hid (Box2R w0 w.heap.size 26 (.slice a n ca) (.slice a' n' ca')) := by show Box2R _ _ _ _ _; rw [← hw0]; exact Box2R.new _ _ _ _
  have HB : Hid (Below w.heap.size w w0) := by show Below _ _ _; rw [← hw0]; exact (Below.refl _ _).alloc (Nat.le_refl _) _
  clear hw0
  go_enter Tryz.func94, Tryz.ntmps94
  go_wp2_with fail
  rw [HE.out]
  clear HE
  go_loopw [3, 4] (fun v i wr => ∃ k : Nat, k ≤ n ∧ i = .int .i64 (k : Int) ∧ v = .int .i64 (topE (xs.take k)) ∧ Hid (Below w0.heap.size w0 wr)) (fun _ i _ => n - (intOf i).toNat)
  case atStart => exact ⟨0, Nat.zero_le _, rfl, rfl, Below.refl _ _⟩
  case round =>
    obtain ⟨k, hk, rfl, rfl, HW⟩ := hrel
    obtain ⟨c0, c1⟩ := (HA.out.stays HW.out).cells
    by_cases hlt : k < n
    · have hb := HB.out.trans (HW.out.mono HB.out.size)
      obtain ⟨p, po, x, rfl, _, hkx, hp⟩ := (HX.out _ hb).at hlt
      have HT : Hid (topE (xs.take (k + 1)) = topStep (topE (xs.take k)) x) := topE_step xs k x hkx
      have hxz : x.size ≤ 1048576 := HZ.out x (List.mem_of_getElem? hkx)
      have hki : (k : Int) < (n : Int) := by omega
      have hk0 : (0 : Int) ≤ (k : Int) := by omega
      clear hkx hb
      generalize topE (xs.take k) = m at *
      go_wp2_with fail
      refine (specGetR_any x wr (by omega)).mono ?_
      rintro _ w1 ⟨⟨v, rfl, hgot⟩, hb1⟩
      have hb01 : Below w0.heap.size w0 w1 := HW.out.trans (hb1.mono HW.out.size)
      rcases hgot with ⟨hr, rfl⟩ | ⟨r, A, C, hr, rfl, ho⟩
      · have HT2 : Hid (topE (xs.take (k + 1)) = m) := HT.out.trans (topStep_none hr)
        have HW2 : Hid (Below w0.heap.size w0 (w1.alloc (.cells #[.int .i64 0, .int .i64 0, .int .i64 0, .string ⟨#[]⟩, .int .i64 0, .slice none 0 0] 54))) := hb01.alloc hb01.size _
        clear hr hb1 hb01 HT HW
        go_wp2_with fail
        go_roundw
        case rel => exact ⟨k + 1, by omega, by go_num, by rw [HT2.out], HW2⟩
        case measure => simp [intOf]; omega
      · have HT2 : Hid (topE (xs.take (k + 1)) = if m < r.e then r.e else m) := HT.out.trans (topStep_some hr)
        have HW2 : Hid (Below w0.heap.size w0 (w1.alloc (.cells #[.int .i64 r.e, .int .i64 r.q, .int .i64 r.k, .string r.id, .int .i64 r.n, .slice A r.zs.length C] 54))) := hb01.alloc hb01.size _
        clear hr hb1 hb01 HT HW ho
        by_cases hm : m < r.e
        · rw [if_pos hm] at HT2
          go_wp2_with fail
          go_roundw
          case rel => exact ⟨k + 1, by omega, by go_num, by rw [HT2.out], HW2⟩
          case measure => simp [intOf]; omega
        · rw [if_neg hm] at HT2
          go_wp2_with fail
          go_roundw
          case rel => exact ⟨k + 1, by omega, by go_num, by rw [HT2.out], HW2⟩
          case measure => simp [intOf]; omega
    · have hkl : k = n := by omega
      have HT : Hid (topE (xs.take k) = topE xs) := by show _ = _; rw [hkl, List.take_of_length_le (by have := HL.out; omega)]
      generalize topE (xs.take k) = m at *
      go_wp2_with fail
      go_ret
      exact ⟨by rw [← HT.out]; rfl, HB.out.trans (HW.out.mono HB.out.size)⟩

end Go.Proofs.YtiigdcpjelbdjaaGreatDoor

namespace Go.Proofs.YtiigdcpjelbdjaaGreatDoor
open Go.RowKit
set_option linter.unusedVariables false

set_option maxRecDepth 10000 in
set_option maxHeartbeats 3200000 in
theorem specOpen_any (a : Option Addr) (n ca : Nat) (X : List ByteArray) (a' : Option Addr) (n' ca' : Nat) (Y : List ByteArray) (w : World) (h1 : Strs w a n X) (h2 : Strs w a' n' Y) (hn : n ≤ 1048576) (hn' : n' ≤ 1048576) (hz : ∀ x ∈ X, x.size ≤ 1048576) :
    Calls Tryz.prog 66 #[.agg #[.slice a n ca, .slice a' n' ca']] w fun e w' => OpenAns w.heap.size X Y e w' ∧ Below w.heap.size w w' := by
  obtain ⟨W2, hW2⟩ : ∃ W2, (w.alloc (.cells #[.slice a n ca, .slice a' n' ca'] 26)).alloc (.cells #[.slice none 0 0, .slice none 0 0, .int .i64 0, .int .i64 0, .slice none 0 0] 29) = W2 := ⟨_, rfl⟩
  have HE : Hid ((w.alloc (.cells #[.slice a n ca, .slice a' n' ca'] 26)).alloc (.cells #[.slice none 0 0, .slice none 0 0, .int .i64 0, .int .i64 0, .slice none 0 0] 29) = W2) := hW2
  have HB2 : Hid (Below w.heap.size w W2) := by show Below _ _ _; rw [← hW2]; exact ((Below.refl _ _).alloc (Nat.le_refl _) _).alloc (by simp) _
  have q1 : BoxN W2 w.heap.size 26 [.slice a n ca, .slice a' n' ca'] := by rw [← hW2]; exact (BoxN.new _ _ _).alloc _
  have q2 : BoxN W2 (w.heap.size + 1) 29 [.slice none 0 0, .slice none 0 0, .int .i64 0, .int .i64 0, .slice none 0 0] := by
    rw [← hW2]
    have := BoxN.new (w.alloc (.cells #[.slice a n ca, .slice a' n' ca'] 26)) 29 [.slice none 0 0, .slice none 0 0, .int .i64 0, .int .i64 0, .slice none 0 0]
    rwa [World.size_alloc] at this
  have HQ : Hid (∀ W, Below W2.heap.size W2 W → BoxN W w.heap.size 26 [.slice a n ca, .slice a' n' ca'] ∧ BoxN W (w.heap.size + 1) 29 [.slice none 0 0, .slice none 0 0, .int .i64 0, .int .i64 0, .slice none 0 0]) := fun W h => ⟨q1.stays h, q2.stays h⟩
  have HX : Hid (∀ W, Below W2.heap.size W2 W → Strs W a n X ∧ Strs W a' n' Y) := fun W h => by
    have hw := HB2.out.trans (h.mono HB2.out.size)
    exact ⟨h1.below hw, h2.below hw⟩
  have HZ : Hid (∀ x ∈ X, x.size ≤ 1048576) := hz
  have hs2 : w.heap.size + 1 < W2.heap.size := q2.lt
  clear hW2 q1 q2 h1 h2 hz
  have HA0 : Hid (Below W2.heap.size W2 W2) := Below.refl _ _
  obtain ⟨c0, c1⟩ := (show _ ∧ _ from ⟨(HQ.out _ HA0.out).1.cell 0 rfl, (HQ.out _ HA0.out).1.cell 1 rfl⟩)
  go_enter Tryz.func66, Tryz.ntmps66
  go_upto_region 1 with fail
  rw [HE.out]
  clear HE
  go_wp2_with fail
  refine (specDok_any a n ca X a' n' ca' Y W2 (HX.out _ HA0.out).1 (HX.out _ HA0.out).2 (by omega) (by omega)).mono ?_
  rintro _ y1 ⟨rfl, hb1⟩
  have HB1 : Hid (Below W2.heap.size W2 y1) := hb1
  clear hb1 c0 c1
  cases hok : okD X Y
  · try dsimp only
    have HN : Hid (openO X Y = none) := by show _ = _; rw [openO, hok]
    have HBw : Hid (Below w.heap.size w y1) := HB2.out.trans (HB1.out.mono HB2.out.size)
    obtain ⟨r0, r1, r2, r3, r4⟩ := (show _ ∧ _ ∧ _ ∧ _ ∧ _ from ⟨(HQ.out _ HB1.out).2.cell 0 rfl, (HQ.out _ HB1.out).2.cell 1 rfl, (HQ.out _ HB1.out).2.cell 2 rfl, (HQ.out _ HB1.out).2.cell 3 rfl, (HQ.out _ HB1.out).2.cell 4 rfl⟩)
    obtain ⟨f0, f1, f2, f3, f4⟩ := (show _ ∧ _ ∧ _ ∧ _ ∧ _ from ⟨(HQ.out _ HB1.out).2.frozen 0, (HQ.out _ HB1.out).2.frozen 1, (HQ.out _ HB1.out).2.frozen 2, (HQ.out _ HB1.out).2.frozen 3, (HQ.out _ HB1.out).2.frozen 4⟩)
    clear HQ HX HB1
    go_wp2_with fail
    refine bodyPost_ret (v := .tuple #[.agg #[.slice none 0 0, .slice none 0 0, .int .i64 0, .int .i64 0, .slice none 0 0], .bool false]) (by simp [results, Tryz.f66, go_sem, r0, r1, r2, r3, r4]) rfl ?_
    refine ⟨?_, ?_⟩
    · rw [OpenAns, HN.out]
      exact ⟨_, rfl, none, 0, 0, none, 0, 0, none, 0, 0, [], rfl, ⟨⟨⟨rfl, .inl ⟨rfl, rfl⟩⟩, by simp⟩, ⟨⟨rfl, .inl ⟨rfl, rfl⟩⟩, by simp⟩, by simp, ⟨⟨rfl, .inl ⟨rfl, rfl⟩⟩, by simp, by simp⟩, rfl⟩, rfl⟩
    · exact ((((HBw.out.setCell (by dsimp only; omega) _).setCell (by dsimp only; omega) _).setCell (by dsimp only; omega) _).setCell (by dsimp only; omega) _).setCell (by dsimp only; omega) _

  have HOk : Hid (okD X Y = true) := hok
  clear hok
  obtain ⟨c0, c1⟩ := (show _ ∧ _ from ⟨(HQ.out _ HB1.out).1.cell 0 rfl, (HQ.out _ HB1.out).1.cell 1 rfl⟩)
  go_wp2_with fail
  refine (specScan_any a n ca X a' n' ca' y1 (HX.out _ HB1.out).1 (by omega) HZ.out).mono ?_
  rintro _ y2 ⟨⟨v2, rs, rfl, hrow, hlm⟩, hb2⟩
  have HC2 : Hid (Below W2.heap.size W2 y2) := HB1.out.trans (hb2.mono HB1.out.size)
  obtain ⟨ra, rc, rfl⟩ := hrow.shape
  obtain ⟨M, hM⟩ : ∃ M, rs.length = M := ⟨_, rfl⟩
  rw [hM] at hrow ⊢
  have HM : Hid (M = rs.length) := hM.symm
  have HLm : Hid (rs.map RE.r = scanR X) := hlm
  have HR2 : Hid (RcRow y2 y1.heap.size (.slice ra M rc) rs) := hrow
  have HSh : Hid (∀ e ∈ rs, e.n ≤ 24) := rows_short hrow hlm (scanFrom_ok X 0 0).2
  have HMl : Hid (M = (scanR X).length) := by show _ = _; rw [← hlm, List.length_map, hM]
  have hMn : M ≤ 1048576 := by
    have h1 := (scanFrom_ok X 0 0).1
    have h2 := (HX.out _ HC2.out).1.1
    have h3 := congrArg List.length hlm
    rw [List.length_map, hM] at h3
    have h4 : (scanR X).length = (scanFrom 0 0 X).length := rfl
    omega
  clear hrow hlm hM hb2 c0 c1
  go_wp2_with fail
  refine (specFold_any ra M rc y1.heap.size rs 24 y2 HR2.out HM.out (by omega) HSh.out (by omega) (by omega)).mono ?_
  rintro _ y3 ⟨⟨x3, l3, rfl, hrow3, hm3, h310⟩, hb3⟩
  rw [HLm.out] at hm3 ⊢
  have HC3 : Hid (Below W2.heap.size W2 y3) := HC2.out.trans (hb3.mono HC2.out.size)
  obtain ⟨xa, xc, rfl⟩ := hrow3.shape
  obtain ⟨K, hK⟩ : ∃ K, l3.length = K := ⟨_, rfl⟩
  rw [hK] at hrow3 ⊢
  have hy2 : W2.heap.size ≤ y2.heap.size := HC2.out.size
  have HR3 : Hid (UpRow y3 y2.heap.size (.slice xa K xc) l3 ∧ K = l3.length) := ⟨hrow3, hK.symm⟩
  clear hb3 hrow3 hK h310 HB1 HC2 HR2
  obtain ⟨c0, c1⟩ := (show _ ∧ _ from ⟨(HQ.out _ HC3.out).1.cell 0 rfl, (HQ.out _ HC3.out).1.cell 1 rfl⟩)
  have HTb : Hid (-1 ≤ topE X ∧ topE X ≤ 10000) := topE_range X
  obtain ⟨T, hT⟩ : ∃ T, topE X = T := ⟨_, rfl⟩
  have HTe : Hid (topE X = T) := hT
  have htb : -1 ≤ T ∧ T ≤ 10000 := by rw [← hT]; exact HTb.out
  clear hT
  have htb1 : -1 ≤ T := htb.1
  have htb2 : T ≤ 10000 := htb.2
  clear htb
  cases hf : foldU (scanR X) with
  | none =>
    rw [hf] at hm3
    dsimp only [Option.isSome]
    go_wp2_with fail
    refine (specTop_any a n ca X a' n' ca' y3 (HX.out _ HC3.out).1 (by omega) HZ.out).mono ?_
    rintro _ y4 ⟨rfl, hb4⟩
    rw [HTe.out]
    have HC4 : Hid (Below W2.heap.size W2 y4) := HC3.out.trans (hb4.mono HC3.out.size)
    clear hb4 c0 c1 HR3 HC3
    have HN : Hid (openO X Y = none) := by show _ = _; rw [openO, HOk.out, hf]
    have HBw : Hid (Below w.heap.size w y4) := HB2.out.trans (HC4.out.mono HB2.out.size)
    obtain ⟨r0, r1, r2, r3, r4⟩ := (show _ ∧ _ ∧ _ ∧ _ ∧ _ from ⟨(HQ.out _ HC4.out).2.cell 0 rfl, (HQ.out _ HC4.out).2.cell 1 rfl, (HQ.out _ HC4.out).2.cell 2 rfl, (HQ.out _ HC4.out).2.cell 3 rfl, (HQ.out _ HC4.out).2.cell 4 rfl⟩)
    obtain ⟨f0, f1, f2, f3, f4⟩ := (show _ ∧ _ ∧ _ ∧ _ ∧ _ from ⟨(HQ.out _ HC4.out).2.frozen 0, (HQ.out _ HC4.out).2.frozen 1, (HQ.out _ HC4.out).2.frozen 2, (HQ.out _ HC4.out).2.frozen 3, (HQ.out _ HC4.out).2.frozen 4⟩)
    clear HQ HX HC4
    go_wp2_with fail
    refine bodyPost_ret (v := .tuple #[.agg #[.slice none 0 0, .slice none 0 0, .int .i64 0, .int .i64 0, .slice none 0 0], .bool false]) (by simp [results, Tryz.f66, go_sem, r0, r1, r2, r3, r4]) rfl ?_
    refine ⟨?_, ?_⟩
    · rw [OpenAns, HN.out]
      exact ⟨_, rfl, none, 0, 0, none, 0, 0, none, 0, 0, [], rfl, ⟨⟨⟨rfl, .inl ⟨rfl, rfl⟩⟩, by simp⟩, ⟨⟨rfl, .inl ⟨rfl, rfl⟩⟩, by simp⟩, by simp, ⟨⟨rfl, .inl ⟨rfl, rfl⟩⟩, by simp, by simp⟩, rfl⟩, rfl⟩
    · exact ((((HBw.out.setCell (by dsimp only; omega) _).setCell (by dsimp only; omega) _).setCell (by dsimp only; omega) _).setCell (by dsimp only; omega) _).setCell (by dsimp only; omega) _

  | some us =>
    rw [hf] at hm3
    dsimp only [Option.isSome]
    have HUs : Hid (l3.map UE.u = us) := hm3
    have HFo : Hid (foldU (scanR X) = some us) := hf
    clear hm3 hf
    go_wp2_with fail
    refine (specTop_any a n ca X a' n' ca' y3 (HX.out _ HC3.out).1 (by omega) HZ.out).mono ?_
    rintro _ y4 ⟨rfl, hb4⟩
    rw [HTe.out]
    have HC4 : Hid (Below W2.heap.size W2 y4) := HC3.out.trans (hb4.mono HC3.out.size)
    have HR4 : Hid (UpRow y4 y2.heap.size (.slice xa K xc) l3 ∧ K = l3.length) := ⟨HR3.out.1.stays hb4, HR3.out.2⟩
    clear hb4 c0 c1 HR3 HC3
    by_cases hbig : 10000 < T + 1
    · clear HR4
      have HN : Hid (openO X Y = none) := by show _ = _; rw [openO, HOk.out, HFo.out, HTe.out]; simp [hbig]
      have HBw : Hid (Below w.heap.size w y4) := HB2.out.trans (HC4.out.mono HB2.out.size)
      obtain ⟨r0, r1, r2, r3, r4⟩ := (show _ ∧ _ ∧ _ ∧ _ ∧ _ from ⟨(HQ.out _ HC4.out).2.cell 0 rfl, (HQ.out _ HC4.out).2.cell 1 rfl, (HQ.out _ HC4.out).2.cell 2 rfl, (HQ.out _ HC4.out).2.cell 3 rfl, (HQ.out _ HC4.out).2.cell 4 rfl⟩)
      obtain ⟨f0, f1, f2, f3, f4⟩ := (show _ ∧ _ ∧ _ ∧ _ ∧ _ from ⟨(HQ.out _ HC4.out).2.frozen 0, (HQ.out _ HC4.out).2.frozen 1, (HQ.out _ HC4.out).2.frozen 2, (HQ.out _ HC4.out).2.frozen 3, (HQ.out _ HC4.out).2.frozen 4⟩)
      clear HQ HX HC4
      go_wp2_with fail
      refine bodyPost_ret (v := .tuple #[.agg #[.slice none 0 0, .slice none 0 0, .int .i64 0, .int .i64 0, .slice none 0 0], .bool false]) (by simp [results, Tryz.f66, go_sem, r0, r1, r2, r3, r4]) rfl ?_
      refine ⟨?_, ?_⟩
      · rw [OpenAns, HN.out]
        exact ⟨_, rfl, none, 0, 0, none, 0, 0, none, 0, 0, [], rfl, ⟨⟨⟨rfl, .inl ⟨rfl, rfl⟩⟩, by simp⟩, ⟨⟨rfl, .inl ⟨rfl, rfl⟩⟩, by simp⟩, by simp, ⟨⟨rfl, .inl ⟨rfl, rfl⟩⟩, by simp, by simp⟩, rfl⟩, rfl⟩
      · exact ((((HBw.out.setCell (by dsimp only; omega) _).setCell (by dsimp only; omega) _).setCell (by dsimp only; omega) _).setCell (by dsimp only; omega) _).setCell (by dsimp only; omega) _

    have HS : Hid (openO X Y = some (T + 1, M, us)) := by show _ = _; rw [openO, HOk.out, HFo.out, HTe.out, HMl.out]; simp [hbig]
    obtain ⟨c0, c1⟩ := (show _ ∧ _ from ⟨(HQ.out _ HC4.out).1.cell 0 rfl, (HQ.out _ HC4.out).1.cell 1 rfl⟩)
    go_wp2_with fail
    refine (specDcopy_any a n ca X a' n' ca' Y y4 (HX.out _ HC4.out).1 (HX.out _ HC4.out).2 (by omega) (by omega)).mono ?_
    rintro _ y5 ⟨⟨v5, rfl, A, C, A', C', rfl, ow, ow', hap⟩, hb5⟩
    have HBw : Hid (Below w.heap.size w y5) := by
      have h1 := HC4.out.trans (hb5.mono HC4.out.size)
      exact HB2.out.trans (h1.mono HB2.out.size)
    have hy4 : W2.heap.size ≤ y4.heap.size := HC4.out.size
    have HS5 : Hid (StoAt y5 (w.heap.size + 2) A X.length C X A' Y.length C' Y xa K xc l3) := ⟨ow.low (by omega), ow'.low (by omega), hap, (HR4.out.1.stays hb5).low (by omega), HR4.out.2⟩
    have hq5 := (HQ.out _ (HC4.out.trans (hb5.mono HC4.out.size))).2
    obtain ⟨r0, r1, r2, r3, r4⟩ := (show _ ∧ _ ∧ _ ∧ _ ∧ _ from ⟨hq5.cell 0 rfl, hq5.cell 1 rfl, hq5.cell 2 rfl, hq5.cell 3 rfl, hq5.cell 4 rfl⟩)
    obtain ⟨f0, f1, f2, f3, f4⟩ := (show _ ∧ _ ∧ _ ∧ _ ∧ _ from ⟨hq5.frozen 0, hq5.frozen 1, hq5.frozen 2, hq5.frozen 3, hq5.frozen 4⟩)
    clear ow ow' hap hb5 hq5 HQ HX HC4 HR4 c0 c1
    go_wp2_with fail
    refine bodyPost_ret (v := .tuple #[.agg #[.slice A X.length C, .slice A' Y.length C', .int .i64 (T + 1), .int .i64 (M : Int), .slice xa K xc], .bool true]) (by simp [results, Tryz.f66, go_sem, r0, r1, r2, r3, r4]) rfl ?_
    refine ⟨?_, ?_⟩
    · rw [OpenAns, HS.out]
      exact ⟨_, rfl, A, X.length, C, A', Y.length, C', xa, K, xc, l3, rfl, (((((HS5.out.setLow (by omega) _).setLow (by omega) _).setLow (by omega) _).setLow (by omega) _).setLow (by omega) _).low (by omega), HUs.out⟩
    · exact ((((HBw.out.setCell (by dsimp only; omega) _).setCell (by dsimp only; omega) _).setCell (by dsimp only; omega) _).setCell (by dsimp only; omega) _).setCell (by dsimp only; omega) _

end Go.Proofs.YtiigdcpjelbdjaaGreatDoor

namespace Go.Proofs.YtiigdcpjelbdjaaGreatDoor
open Go.RowKit
set_option linter.unusedVariables false

def DOut (w W : World) (d d' : Value) (o : Nat) (v v' : Value) (k k' : Nat) (X Y : List ByteArray) : Prop :=
  Box2R W w.heap.size 26 d d' ∧ Box2R W (w.heap.size + 1) 26 (.slice none 0 0) (.slice none 0 0) ∧ Box2R W o 26 v v' ∧
  OwnSt W (w.heap.size + 2) v k X ∧ OwnSt W (w.heap.size + 2) v' k' Y ∧ (∀ q, blkOf v = some q → q < o ∧ blkOf v' ≠ some q) ∧ (∀ q, blkOf v' = some q → q < o) ∧ w.heap.size + 2 ≤ o ∧ Below w.heap.size w W

section
variable {w W W' : World} {d d' v v' : Value} {o k k' : Nat} {X Y : List ByteArray}

theorem DOut.stays (h : DOut w W d d' o v v' k k' X Y) (hb : Below W.heap.size W W') : DOut w W' d d' o v v' k k' X Y := by
  obtain ⟨h1, h2, h3, h4, h5, h6, h7, h8, h9⟩ := h
  exact ⟨h1.stays hb, h2.stays hb, h3.stays hb, h4.below hb, h5.below hb, h6, h7, h8, h9.trans (hb.mono h9.size)⟩

theorem DOut.new {x : World} (h1 : Box2R W w.heap.size 26 d d') (h2 : Box2R W (w.heap.size + 1) 26 (.slice none 0 0) (.slice none 0 0)) (hz : W.heap.size = w.heap.size + 2) (hb : Below w.heap.size w W) (hx : Below W.heap.size W x)
    (o1 : OwnSt x W.heap.size v k X) (o2 : OwnSt x W.heap.size v' k' Y) (hne : ∀ q, blkOf v = some q → blkOf v' ≠ some q) : DOut w (x.alloc (.cells #[v, v'] 26)) d d' x.heap.size v v' k k' X Y := by
  have ha := (Below.refl x.heap.size x).alloc (Nat.le_refl _) (.cells #[v, v'] 26)
  have hxs := hx.size
  refine ⟨(h1.stays hx).alloc _, (h2.stays hx).alloc _, Box2R.new _ _ _ _, (o1.below ha).low (by omega), (o2.below ha).low (by omega), fun q e => ⟨(o1.lt q e).2, hne q e⟩, fun q e => (o2.lt q e).2, by omega, ?_⟩
  have hbx := hb.trans (hx.mono hb.size)
  exact hbx.alloc hbx.size _

/-- One text of the first row is written. -/
theorem DOut.put0 {g c j : Nat} (h : DOut w W d d' o (.slice (some ⟨g, 0, none⟩) k c) v' k k' X Y) (x : ByteArray) (hx : x.size ≤ maxLen) : DOut w (W.setCell ⟨g, j, none⟩ (.string x)) d d' o (.slice (some ⟨g, 0, none⟩) k c) v' k k' (X.set j x) Y := by
  obtain ⟨h1, h2, h3, h4, h5, h6, h7, h8, h9⟩ := h
  have hg := (h4.lt g rfl).1
  have hgo := (h6 g rfl).1
  have hst := (h4.1.stored j (.string x)).1
  rw [scells_set] at hst
  refine ⟨h1.other (by omega) _, h2.other (by omega) _, h3.other (by omega) _, ⟨hst, fun y hy => ?_⟩, h5.setCell (h6 g rfl).2 _, h6, h7, h8, h9.setCell (by dsimp only; omega) _⟩
  rcases List.mem_or_eq_of_mem_set hy with hy | rfl
  · exact h4.2 y hy
  · exact hx

/-- One text of the second row is written. -/
theorem DOut.put1 {g c j : Nat} (h : DOut w W d d' o v (.slice (some ⟨g, 0, none⟩) k' c) k k' X Y) (x : ByteArray) (hx : x.size ≤ maxLen) : DOut w (W.setCell ⟨g, j, none⟩ (.string x)) d d' o v (.slice (some ⟨g, 0, none⟩) k' c) k k' X (Y.set j x) := by
  obtain ⟨h1, h2, h3, h4, h5, h6, h7, h8, h9⟩ := h
  have hg := (h5.lt g rfl).1
  have hgo := h7 g rfl
  have hst := (h5.1.stored j (.string x)).1
  rw [scells_set] at hst
  refine ⟨h1.other (by omega) _, h2.other (by omega) _, h3.other (by omega) _, h4.setCell (fun e => (h6 g e).2 rfl) _, ⟨hst, fun y hy => ?_⟩, h6, h7, h8, h9.setCell (by dsimp only; omega) _⟩
  rcases List.mem_or_eq_of_mem_set hy with hy | rfl
  · exact h5.2 y hy
  · exact hx

/-- The copy is the answer. -/
theorem DOut.done {A A' : Option Addr} {c c' : Nat} (h : DOut w W d d' o (.slice A k c) (.slice A' k' c') k k' X Y) : AnsD w.heap.size X Y (.agg #[.slice A k c, .slice A' k' c']) ((W.setCell ⟨w.heap.size + 1, 0, none⟩ (.slice A k c)).setCell ⟨w.heap.size + 1, 1, none⟩ (.slice A' k' c')) ∧ Below w.heap.size w ((W.setCell ⟨w.heap.size + 1, 0, none⟩ (.slice A k c)).setCell ⟨w.heap.size + 1, 1, none⟩ (.slice A' k' c')) := by
  obtain ⟨h1, h2, h3, h4, h5, h6, h7, h8, h9⟩ := h
  have n0 : blkOf (.slice A k c) ≠ some (w.heap.size + 1) := fun e => by have := (h4.lt _ e).1; omega
  have n1 : blkOf (.slice A' k' c') ≠ some (w.heap.size + 1) := fun e => by have := (h5.lt _ e).1; omega
  refine ⟨AnsD.mk' h4.len h5.len (((h4.setCell n0 _).setCell n0 _).low (by omega)) (((h5.setCell n1 _).setCell n1 _).low (by omega)) (fun q e e2 => ?_), (h9.setCell (by dsimp only; omega) _).setCell (by dsimp only; omega) _⟩
  refine (h6 q ?_).2 ?_
  · cases A <;> simp_all [blkOf]
  · cases A' <;> simp_all [blkOf]
end

end Go.Proofs.YtiigdcpjelbdjaaGreatDoor

namespace Go.Proofs.YtiigdcpjelbdjaaGreatDoor
open Go.RowKit
set_option linter.unusedVariables false

theorem blkOf_sF (a : Option Addr) (n c : Nat) : blkOf (.slice a n c) = a.map (·.block) := by cases a <;> rfl

set_option maxRecDepth 10000 in
set_option maxHeartbeats 3200000 in
theorem specFall_any (a : Option Addr) (n ca : Nat) (xs : List ByteArray) (a' : Option Addr) (n' ca' : Nat) (ys : List ByteArray) (ka : Option Addr) (m kc : Nat) (ks : List Bool) (w : World) (h1 : Strs w a n xs) (h2 : Strs w a' n' ys) (h3 : Bools w ka m ks) (hn : n ≤ 2097152) (hn' : n' ≤ 2097152) (hm : m ≤ 1099511627776) :
    Calls Tryz.prog 67 #[.agg #[.slice a n ca, .slice a' n' ca'], .slice ka m kc] w fun e w' => (∃ v, e = .returned v ∧ AnsD w.heap.size (fallX xs ys ks) (fallY xs ys ks) v w') ∧ Below w.heap.size w w' := by
  have HK : Hid (∀ W, Below w.heap.size w W → Bools W ka m ks) := fun W h => h3.below h
  have HKl : Hid (ks.length = m) := h3.1
  clear h3
  have HX : Hid (∀ W, Below w.heap.size w W → Strs W a n xs ∧ Strs W a' n' ys) := fun W h => ⟨h1.below h, h2.below h⟩
  have HLn : Hid (xs.length = n ∧ ys.length = n') := ⟨h1.1, h2.1⟩
  obtain ⟨W2, hW2⟩ : ∃ W2, (w.alloc (.cells #[.slice a n ca, .slice a' n' ca'] 26)).alloc (.cells #[.slice none 0 0, .slice none 0 0] 26) = W2 := ⟨_, rfl⟩
  have HE : Hid ((w.alloc (.cells #[.slice a n ca, .slice a' n' ca'] 26)).alloc (.cells #[.slice none 0 0, .slice none 0 0] 26) = W2) := hW2
  have HB2 : Hid (Below w.heap.size w W2) := by show Below _ _ _; rw [← hW2]; exact ((Below.refl _ _).alloc (Nat.le_refl _) _).alloc (by simp) _
  have HZ2 : Hid (W2.heap.size = w.heap.size + 2) := by show _ = _; rw [← hW2]; simp
  have HQ1 : Hid (Box2R W2 w.heap.size 26 (.slice a n ca) (.slice a' n' ca')) := by show Box2R _ _ _ _ _; rw [← hW2]; exact (Box2R.new _ _ _ _).alloc _
  have HQ2 : Hid (Box2R W2 (w.heap.size + 1) 26 (.slice none 0 0) (.slice none 0 0)) := by
    show Box2R _ _ _ _ _
    rw [← hW2]
    have := Box2R.new (w.alloc (.cells #[.slice a n ca, .slice a' n' ca'] 26)) 26 (.slice none 0 0) (.slice none 0 0)
    rwa [World.size_alloc] at this
  clear hW2 h1 h2
  go_enter Tryz.func67, Tryz.ntmps67
  go_upto_region 1 with fail
  rw [HE.out]
  clear HE
  obtain ⟨c0, c1⟩ := HQ1.out.cells
  go_wp2_with fail
  refine (specDcopy_any a n ca xs a' n' ca' ys _ (HX.out _ HB2.out).1 (HX.out _ HB2.out).2 hn hn').mono ?_
  rintro e x3 ⟨⟨v, rfl, A, C, A', C', rfl, o1, o2, hap⟩, hb3⟩
  rw [HLn.out.1] at o1 ⊢
  rw [HLn.out.2] at o2 ⊢
  have HD : Hid (DOut w (x3.alloc (.cells #[.slice A n C, .slice A' n' C'] 26)) (.slice a n ca) (.slice a' n' ca') x3.heap.size (.slice A n C) (.slice A' n' C') n n' xs ys) := DOut.new HQ1.out HQ2.out HZ2.out HB2.out hb3 o1 o2 (fun q e e2 => by rw [blkOf_sF] at e e2; exact hap q e e2)
  clear o1 o2 hap hb3 HQ1 HQ2 HB2 HZ2 c0 c1
  go_upto_region 2 with fail
  obtain ⟨W3, hW3⟩ : ∃ W3, x3.alloc (.cells #[.slice A n C, .slice A' n' C'] 26) = W3 := ⟨_, rfl⟩
  rw [hW3] at HD ⊢
  clear hW3
  generalize x3.heap.size = o at *
  obtain ⟨c0, c1⟩ := HD.out.1.cells
  go_wp2_with fail
  refine (specDok_any a n ca xs a' n' ca' ys _ (HX.out _ HD.out.2.2.2.2.2.2.2.2).1 (HX.out _ HD.out.2.2.2.2.2.2.2.2).2 (by omega) (by omega)).mono ?_
  rintro e x4 ⟨rfl, hb4⟩
  have HDx : Hid (DOut w x4 (.slice a n ca) (.slice a' n' ca') o (.slice A n C) (.slice A' n' C') n n' xs ys) := HD.out.stays hb4
  clear hb4 HD c0 c1
  cases hok : okD xs ys
  · have HPX : Hid (fallX xs ys ks = xs) := by show _ = _; rw [fallX, hok]; rfl
    have HPY : Hid (fallY xs ys ks = ys) := by show _ = _; rw [fallY, hok]; rfl
    clear hok
    obtain ⟨c0, c1⟩ := HDx.out.2.2.1.cells
    obtain ⟨r0, r1⟩ := HDx.out.2.1.cells
    have f0 := HDx.out.2.1.frozen 0
    have f1 := HDx.out.2.1.frozen 1
    have HR := (show Hid _ from HDx.out.done)
    clear HDx
    go_wp2_with fail
    refine bodyPost_ret (v := .agg #[.slice A n C, .slice A' n' C']) (by simp [results, Tryz.f67, go_sem, r0, r1]) rfl ?_
    exact ⟨⟨_, rfl, by rw [HPX.out, HPY.out]; exact HR.out.1⟩, HR.out.2⟩
  obtain rfl : n = n' := by
    have h := (okD_iff.1 hok).1
    have := HLn.out
    omega
  have HPX : Hid (fallX xs ys ks = fallL xs ys ks) := by show _ = _; rw [fallX, hok]; rfl
  have HPY : Hid (fallY xs ys ks = fallL xs ys ks) := by show _ = _; rw [fallY, hok]; rfl
  have HFl : Hid ((fallL xs ys ks).length = xs.length ∧ (fallL xs ys ks).length = ys.length) := ⟨fallL_len _ _ _, (fallL_len _ _ _).trans (okD_iff.1 hok).1⟩
  have HFa : Hid (∀ (k : Nat) (x y : ByteArray), xs[k]? = some x → ys[k]? = some y → (fallL xs ys ks)[k]? = some (if ks.getD k false then x else y)) := fun k x y h1 h2 => fallL_at h1 h2
  clear hok
  generalize fallL xs ys ks = F at *
  obtain ⟨c0, c1⟩ := HDx.out.2.2.1.cells
  go_wp2_with fail
  clear c0 c1
  go_loopw [6] (fun i wr => ∃ k : Nat, k ≤ n ∧ i = .int .i64 (k : Int) ∧ Hid (DOut w wr (.slice a n ca) (.slice a' n ca') o (.slice A n C) (.slice A' n C') n n (fallTo F xs k) (fallTo F ys k))) (fun i _ => n - (intOf i).toNat)
  case atStart => exact ⟨0, Nat.zero_le _, rfl, by rw [fallTo_zero, fallTo_zero]; exact HDx⟩
  case round =>
    clear HDx
    obtain ⟨k, hk, rfl, HDk⟩ := hrel
    obtain ⟨c0, c1⟩ := HDk.out.2.2.1.cells
    by_cases hlt : k < n
    · obtain ⟨g, rfl⟩ : ∃ g, A = some ⟨g, 0, none⟩ := by
        rcases HDk.out.2.2.2.1.1.2 with ⟨_, h0⟩ | ⟨g, cap', cur, he, _⟩
        · omega
        · injection he with e1 _ _
          exact ⟨g, e1⟩
      obtain ⟨g', rfl⟩ : ∃ g, A' = some ⟨g, 0, none⟩ := by
        rcases HDk.out.2.2.2.2.1.1.2 with ⟨_, h0⟩ | ⟨g, cap', cur, he, _⟩
        · omega
        · injection he with e1 _ _
          exact ⟨g, e1⟩
      obtain ⟨x, hx⟩ : ∃ x, xs[k]? = some x := ⟨_, List.getElem?_eq_getElem (by have := HLn.out; omega)⟩
      obtain ⟨y, hy⟩ : ∃ y, ys[k]? = some y := ⟨_, List.getElem?_eq_getElem (by have := HLn.out; omega)⟩
      have HXY : Hid (xs[k]? = some x ∧ ys[k]? = some y) := ⟨hx, hy⟩
      have hxm : x.size ≤ maxLen := (HX.out w (Below.refl _ _)).1.2.1 x (List.mem_of_getElem? hx)
      have hym : y.size ≤ maxLen := (HX.out w (Below.refl _ _)).2.2.1 y (List.mem_of_getElem? hy)
      have hgx : wr.cell? ⟨g, k, none⟩ = some (.string x) := by
        rw [HDk.out.2.2.2.1.1.cellAt _ (by omega)]
        have h := fallTo_at F xs k HFl.out.1 (by have := HLn.out; omega)
        rw [hx] at h
        simp [scells, h]
      have hgy : wr.cell? ⟨g', k, none⟩ = some (.string y) := by
        rw [HDk.out.2.2.2.2.1.1.cellAt _ (by omega)]
        have h := fallTo_at F ys k HFl.out.2 (by have := HLn.out; omega)
        rw [hy] at h
        simp [scells, h]
      have HFk0 := (show Hid _ from HFa.out k x y hx hy)
      clear hx hy
      have hki : (k : Int) < (n : Int) := by omega
      have hk0 : (0 : Int) ≤ (k : Int) := by omega
      have hbel := HDk.out.2.2.2.2.2.2.2.2
      by_cases hkm : k < m
      case neg =>
        have HFk : Hid (F[k]? = some y) := by
          have h := HFk0.out
          have e : ks[k]? = none := List.getElem?_eq_none (by have := HKl.out; omega)
          rw [List.getD_eq_getElem?_getD, e] at h
          exact h
        have hkmi : ¬ (k : Int) < (m : Int) := by omega
        clear HFk0 hbel
        have HD2 : Hid (DOut w (wr.setCell ⟨g, k, none⟩ (.string y)) (.slice a n ca) (.slice a' n ca') o (.slice (some ⟨g, 0, none⟩) n C) (.slice (some ⟨g', 0, none⟩) n C') n n (fallTo F xs (k + 1)) (fallTo F ys (k + 1))) := by
          have h := HDk.out.put0 (j := k) y hym
          rw [fallTo_set F xs k y HFl.out.1 (by have := HLn.out; omega) HFk.out, fallTo_same F ys k y HFl.out.2 HXY.out.2 HFk.out] at h
          exact h
        have fz : wr.frozen? ⟨g, k, none⟩ = false := HDk.out.2.2.2.1.1.frozenAt _
        have ne1 : o ≠ g := (by have := (HDk.out.2.2.2.2.2.1 g rfl).1; omega)
        have ne2 : g' ≠ g := fun e => (HDk.out.2.2.2.2.2.1 g rfl).2 (by rw [← e]; rfl)
        clear HDk HXY HFk
        go_wp2_with fail
        go_region_held3 (fun W => W.cell? ⟨o, 0, none⟩ = some (.slice (some ⟨g, 0, none⟩) n C) ∧ W.cell? ⟨o, 1, none⟩ = some (.slice (some ⟨g', 0, none⟩) n C') ∧ W.cell? ⟨g', k, none⟩ = some (.string y)) (first | (refine ⟨?_, ?_, ?_⟩ <;> assumption) | (exact ⟨cellD_kept ne1 (by assumption), cellD_kept ne1 (by assumption), cellD_kept ne2 (by assumption)⟩) | go_keep) (fail)
        go_wp2_with fail
        go_roundw
        case rel => exact ⟨k + 1, by omega, by go_num, HD2.out.stays (Below.refl _ _).drew⟩
        case measure => simp [intOf]; omega
      obtain ⟨kb, ko, b, rfl, _, hkb, hcb⟩ := (HK.out _ hbel).at hkm
      have hkmi : (k : Int) < (m : Int) := by omega
      have HFk1 : Hid (F[k]? = some (if b then x else y)) := by
        have h := HFk0.out
        rw [List.getD_eq_getElem?_getD, hkb] at h
        exact h
      clear HFk0 hkb hbel
      cases b
      · have HFk : Hid (F[k]? = some y) := HFk1.out
        clear HFk1
        have HD2 : Hid (DOut w (wr.setCell ⟨g, k, none⟩ (.string y)) (.slice a n ca) (.slice a' n ca') o (.slice (some ⟨g, 0, none⟩) n C) (.slice (some ⟨g', 0, none⟩) n C') n n (fallTo F xs (k + 1)) (fallTo F ys (k + 1))) := by
          have h := HDk.out.put0 (j := k) y hym
          rw [fallTo_set F xs k y HFl.out.1 (by have := HLn.out; omega) HFk.out, fallTo_same F ys k y HFl.out.2 HXY.out.2 HFk.out] at h
          exact h
        have fz : wr.frozen? ⟨g, k, none⟩ = false := HDk.out.2.2.2.1.1.frozenAt _
        have ne1 : o ≠ g := (by have := (HDk.out.2.2.2.2.2.1 g rfl).1; omega)
        have ne2 : g' ≠ g := fun e => (HDk.out.2.2.2.2.2.1 g rfl).2 (by rw [← e]; rfl)
        clear HDk HXY HFk
        go_wp2_with fail
        go_region_held3 (fun W => W.cell? ⟨o, 0, none⟩ = some (.slice (some ⟨g, 0, none⟩) n C) ∧ W.cell? ⟨o, 1, none⟩ = some (.slice (some ⟨g', 0, none⟩) n C') ∧ W.cell? ⟨g', k, none⟩ = some (.string y)) (first | (refine ⟨?_, ?_, ?_⟩ <;> assumption) | (exact ⟨cellD_kept ne1 (by assumption), cellD_kept ne1 (by assumption), cellD_kept ne2 (by assumption)⟩) | go_keep) (fail)
        go_wp2_with fail
        go_roundw
        case rel => exact ⟨k + 1, by omega, by go_num, HD2.out.stays (Below.refl _ _).drew⟩
        case measure => simp [intOf]; omega
      · have HFk : Hid (F[k]? = some x) := HFk1.out
        clear HFk1
        have HD2 : Hid (DOut w (wr.setCell ⟨g', k, none⟩ (.string x)) (.slice a n ca) (.slice a' n ca') o (.slice (some ⟨g, 0, none⟩) n C) (.slice (some ⟨g', 0, none⟩) n C') n n (fallTo F xs (k + 1)) (fallTo F ys (k + 1))) := by
          have h := HDk.out.put1 (j := k) x hxm
          rw [fallTo_set F ys k x HFl.out.2 (by have := HLn.out; omega) HFk.out, fallTo_same F xs k x HFl.out.1 HXY.out.1 HFk.out] at h
          exact h
        have fz : wr.frozen? ⟨g', k, none⟩ = false := HDk.out.2.2.2.2.1.1.frozenAt _
        have ne1 : o ≠ g' := (by have := HDk.out.2.2.2.2.2.2.1 g' rfl; omega)
        have ne2 : g ≠ g' := fun e => (HDk.out.2.2.2.2.2.1 g rfl).2 (by rw [e]; rfl)
        clear HDk HXY HFk
        go_wp2_with fail
        go_region_held3 (fun W => W.cell? ⟨o, 0, none⟩ = some (.slice (some ⟨g, 0, none⟩) n C) ∧ W.cell? ⟨o, 1, none⟩ = some (.slice (some ⟨g', 0, none⟩) n C') ∧ W.cell? ⟨g, k, none⟩ = some (.string x)) (first | (refine ⟨?_, ?_, ?_⟩ <;> assumption) | (exact ⟨cellD_kept ne1 (by assumption), cellD_kept ne1 (by assumption), cellD_kept ne2 (by assumption)⟩) | go_keep) (fail)
        go_wp2_with fail
        go_roundw
        case rel => exact ⟨k + 1, by omega, by go_num, HD2.out.stays (Below.refl _ _).drew⟩
        case measure => simp [intOf]; omega
    · obtain rfl : k = n := by omega
      have HDx : Hid (DOut w wr (.slice a k ca) (.slice a' k ca') o (.slice A k C) (.slice A' k C') k k F F) := by
        have h := HDk.out
        have hl := HLn.out
        rw [show fallTo F xs k = F from by rw [← hl.1]; exact fallTo_all F xs HFl.out.1, show fallTo F ys k = F from by rw [← hl.2]; exact fallTo_all F ys HFl.out.2] at h
        exact h
      clear HDk c0 c1
      obtain ⟨c0, c1⟩ := HDx.out.2.2.1.cells
      obtain ⟨r0, r1⟩ := HDx.out.2.1.cells
      have f0 := HDx.out.2.1.frozen 0
      have f1 := HDx.out.2.1.frozen 1
      have HR := (show Hid _ from HDx.out.done)
      clear HDx
      go_wp2_with fail
      refine bodyPost_ret (v := .agg #[.slice A k C, .slice A' k C']) (by simp [results, Tryz.f67, go_sem, r0, r1]) rfl ?_
      exact ⟨⟨_, rfl, by rw [HPX.out, HPY.out]; exact HR.out.1⟩, HR.out.2⟩

end Go.Proofs.YtiigdcpjelbdjaaGreatDoor

namespace Go.Proofs.YtiigdcpjelbdjaaGreatDoor
open Go.RowKit
set_option linter.unusedVariables false

/-- The upload with a name; one of noughts, where there is none. -/
def gotU (us : List U) (id : ByteArray) : U := match atU us id with
  | some k => us.getD k ⟨⟨#[]⟩, 0, [], false⟩
  | none => ⟨⟨#[]⟩, 0, [], false⟩

theorem gotU_none {us : List U} {id : ByteArray} (h : atU us id = none) : gotU us id = ⟨⟨#[]⟩, 0, [], false⟩ := by rw [gotU, h]
theorem gotU_some {l : List UE} {id : ByteArray} {k : Nat} (h : atU (l.map UE.u) id = some k) (hk : k < l.length) : gotU (l.map UE.u) id = (l[k]).u := by
  rw [gotU, h]
  simp [List.getD_eq_getElem?_getD, hk]

/-- What is answered: the upload, in memory of its own, and whether there is one. -/
def AnsU (base : Nat) (us : List U) (id : ByteArray) (e : Ending) (w' : World) : Prop :=
  ∃ (A : Option Addr) (C : Nat), e = .returned (.tuple #[.agg #[.string (gotU us id).id, .int .i64 (gotU us id).want, .slice A (gotU us id).zs.length C, .bool (gotU us id).done], .bool (atU us id).isSome]) ∧ Owns w' base A (gotU us id).zs.length C (gotU us id).zs

end Go.Proofs.YtiigdcpjelbdjaaGreatDoor
