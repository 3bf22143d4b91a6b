/- What the specification's MakeUp answers. From what the row lists of the program's table of kinds to its cells: no statement of the program but its table of types. From what the row lists of the program's error to the cell that holds it. How great the uploads of a store that was handed in are. How great what a function of the store answers may be; no program in it. -/
import Derived.Test.YtenkpgnkkkgdmatGreatDoorM34
import Derived.Test.YtenkpgnkkkgdmatGreatDoorM44
import Derived.Test.YtenkpgnkkkgdmatGreatDoorM08
import Derived.Test.YtenkpgnkkkgdmatGreatDoorM45
import Derived.Test.YtenkpgnkkkgdmatGreatDoorM45
import Derived.Test.YtenkpgnkkkgdmatGreatDoorM28
import Derived.Test.YtenkpgnkkkgdmatGreatDoorM32
import Derived.Test.YtenkpgnkkkgdmatGreatDoorM22
import Derived.LaidLaws
import Derived.LaidHandle
import Derived.Lib.LaidTab
import Derived.Lib.SmallJoins
import Derived.OpenShut
import Derived.ChangeOld
import Derived.Test.YtenkpgnkkkgdmatGreatDoorM11
import Derived.FnData
import Derived.Test.YtenkpgnkkkgdmatGreatDoorM07
import Derived.Test.YtenkpgnkkkgdmatGreatDoorM18
namespace Go.Proofs.YtenkpgnkkkgdmatGreatDoor
open Go.RowKit
set_option linter.unusedVariables false

set_option maxRecDepth 10000 in
set_option maxHeartbeats 3200000 in
theorem specMake_any (a : Option Addr) (n ca : Nat) (X : List ByteArray) (a' : Option Addr) (n' ca' : Nat) (Y : List ByteArray) (ep nx : Int) (ua : Option Addr) (un uc lo : Nat) (l : List UE) (id : ByteArray) (want : Int) (w : World) (h1 : Strs w a n X) (h2 : Strs w a' n' Y) (hn : n ≤ 1048576) (hn' : n' ≤ 1048576) (hzx : ∀ x ∈ X, x.size ≤ 1048576) (hu : UpRow w lo (.slice ua un uc) l) (hun : un = l.length) (hul : un ≤ 1048576) (hz : ∀ e ∈ l, e.n ≤ 1099511627776) (hid : id.size ≤ maxLen) (hwb : -9223372036854775808 ≤ want ∧ want ≤ 9223372036854775807) :
    Calls Tryz.prog 6 #[.agg #[.slice a n ca, .slice a' n' ca', .int .i64 ep, .int .i64 nx, .slice ua un uc], .string id, .int .i64 want] w fun e w' => WAns w.heap.size Y ep (makeA X Y ep nx (l.map UE.u) id want) e w' ∧ Below w.heap.size w w' := by
  have hmm : maxLen < 9223372036854775808 := by decide
  obtain ⟨W2, hW2⟩ : ∃ W2, (w.alloc (.cells #[.slice a n ca, .slice a' n' ca', .int .i64 ep, .int .i64 nx, .slice ua un uc] 32)).alloc (.cells #[.slice none 0 0, .slice none 0 0, .int .i64 0, .int .i64 0, .slice none 0 0] 32) = W2 := ⟨_, rfl⟩
  have HE : Hid ((w.alloc (.cells #[.slice a n ca, .slice a' n' ca', .int .i64 ep, .int .i64 nx, .slice ua un uc] 32)).alloc (.cells #[.slice none 0 0, .slice none 0 0, .int .i64 0, .int .i64 0, .slice none 0 0] 32) = W2) := hW2
  have HB2 : Hid (Below w.heap.size w W2) := by show Below _ _ _; rw [← hW2]; exact ((Below.refl _ _).alloc (Nat.le_refl _) _).alloc (by simp) _
  have q1 : BoxN W2 w.heap.size 32 [.slice a n ca, .slice a' n' ca', .int .i64 ep, .int .i64 nx, .slice ua un uc] := by rw [← hW2]; exact (BoxN.new _ _ _).alloc _
  have q2 : BoxN W2 (w.heap.size + 1) 32 [.slice none 0 0, .slice none 0 0, .int .i64 0, .int .i64 0, .slice none 0 0] := by
    rw [← hW2]
    have := BoxN.new (w.alloc (.cells #[.slice a n ca, .slice a' n' ca', .int .i64 ep, .int .i64 nx, .slice ua un uc] 32)) 32 [.slice none 0 0, .slice none 0 0, .int .i64 0, .int .i64 0, .slice none 0 0]
    rwa [World.size_alloc] at this
  have HQ : Hid (∀ W, Below W2.heap.size W2 W → BoxN W w.heap.size 32 [.slice a n ca, .slice a' n' ca', .int .i64 ep, .int .i64 nx, .slice ua un uc] ∧ BoxN W (w.heap.size + 1) 32 [.slice none 0 0, .slice none 0 0, .int .i64 0, .int .i64 0, .slice none 0 0]) := fun W h => ⟨q1.stays h, q2.stays h⟩
  have HX : Hid (∀ W, Below W2.heap.size W2 W → Strs W a n X ∧ Strs W a' n' Y ∧ UpRow W lo (.slice ua un uc) l) := fun W h => by
    have hw := HB2.out.trans (h.mono HB2.out.size)
    exact ⟨h1.below hw, h2.below hw, hu.stays hw⟩
  have HL : Hid (un = l.length ∧ (∀ e ∈ l, e.n ≤ 1099511627776) ∧ (∀ x ∈ X, x.size ≤ 1048576) ∧ X.length = n) := ⟨hun, hz, hzx, h1.1⟩
  have hs2 : w.heap.size + 1 < W2.heap.size := q2.lt
  clear hW2 q1 q2 h1 h2 hu hun hz hzx
  obtain ⟨c0, c1, c2, c3, c4⟩ := (show _ ∧ _ ∧ _ ∧ _ ∧ _ from ⟨(HQ.out _ (Below.refl _ _)).1.cell 0 rfl, (HQ.out _ (Below.refl _ _)).1.cell 1 rfl, (HQ.out _ (Below.refl _ _)).1.cell 2 rfl, (HQ.out _ (Below.refl _ _)).1.cell 3 rfl, (HQ.out _ (Below.refl _ _)).1.cell 4 rfl⟩)
  go_enter Tryz.func6, Tryz.ntmps6
  go_upto_region 1 with fail
  rw [HE.out]
  clear HE
  go_wp2_with fail
  refine (specScopy_any a n ca X a' n' ca' Y ep nx ua un uc lo l W2 (HX.out _ (Below.refl _ _)).1 (HX.out _ (Below.refl _ _)).2.1 hn hn' (HX.out _ (Below.refl _ _)).2.2 HL.out.1 hul HL.out.2.1).mono ?_
  rintro e y1 ⟨⟨v, rfl, hv⟩, hb1⟩
  obtain ⟨b, cb, b', cb', va, vc, l', rfl, hs1, hm1⟩ := hv.get
  rw [List.length_map, ← HL.out.1] at hs1 ⊢
  have HA1 : Hid (SAt (y1.alloc (.cells #[.slice b X.length cb, .slice b' Y.length cb', .int .i64 ep, .int .i64 nx, .slice va un vc] 32)) W2.heap.size y1.heap.size b X.length cb X b' Y.length cb' Y ep nx va un vc l') := SAt.new hs1 hb1.size
  have HC1 : Hid (Below W2.heap.size W2 (y1.alloc (.cells #[.slice b X.length cb, .slice b' Y.length cb', .int .i64 ep, .int .i64 nx, .slice va un vc] 32))) := hb1.alloc hb1.size _
  have HM : Hid (l'.map UE.u = l.map UE.u) := hm1
  have HZ' : Hid (∀ e ∈ l', e.n ≤ 1099511627776) := sizes_same hm1 hs1.ups (HX.out _ (Below.refl _ _)).2.2 HL.out.2.1
  clear hv hs1 hb1 hm1 c0 c1 c2 c3 c4
  obtain ⟨d0, d1, d2, d3, d4⟩ := (show _ ∧ _ ∧ _ ∧ _ ∧ _ from ⟨(HQ.out _ HC1.out).1.cell 0 rfl, (HQ.out _ HC1.out).1.cell 1 rfl, (HQ.out _ HC1.out).1.cell 2 rfl, (HQ.out _ HC1.out).1.cell 3 rfl, (HQ.out _ HC1.out).1.cell 4 rfl⟩)
  go_wp2_with fail
  obtain ⟨w1, hw1⟩ : ∃ w1, y1.alloc (.cells #[.slice b X.length cb, .slice b' Y.length cb', .int .i64 ep, .int .i64 nx, .slice va un vc] 32) = w1 := ⟨_, rfl⟩
  rw [hw1] at HA1 HC1 ⊢
  clear hw1 d0 d1 d2 d3 d4
  have hlo : W2.heap.size ≤ y1.heap.size := HA1.out.lob
  generalize y1.heap.size = bo at *
  refine (specSok_any a n ca X a' n' ca' Y ep nx ua un uc lo l w1 (HX.out _ HC1.out).1 (HX.out _ HC1.out).2.1 hn hn' HL.out.2.2.1 (HX.out _ HC1.out).2.2 HL.out.1 hul).mono ?_
  rintro e y2 ⟨⟨ok, rfl, hok⟩, hb2⟩
  have hdb : ok = decB (SOk X Y ep nx (l.map UE.u)) := decB_iff hok
  have HA2 : Hid (SAt y2 W2.heap.size bo b X.length cb X b' Y.length cb' Y ep nx va un vc l') := HA1.out.stays hb2
  have HC2 : Hid (Below W2.heap.size W2 y2) := HC1.out.trans (hb2.mono HC1.out.size)
  clear hb2 HA1 HC1
  cases ok with
  | false =>
    have hno : ¬ decB (SOk X Y ep nx (l.map UE.u)) = true := by rw [← hdb]; simp
    clear hok hdb
    have HRs : Hid (makeA X Y ep nx (l.map UE.u) id want = ⟨X, nx, l.map UE.u, 1⟩) := if_neg (fun h => hno h.1)
    have HBw : Hid (Below w.heap.size w y2) := HB2.out.trans (HC2.out.mono HB2.out.size)
    obtain ⟨r0, r1, r2, r3, r4⟩ := (show _ ∧ _ ∧ _ ∧ _ ∧ _ from ⟨(HQ.out _ HC2.out).2.cell 0 rfl, (HQ.out _ HC2.out).2.cell 1 rfl, (HQ.out _ HC2.out).2.cell 2 rfl, (HQ.out _ HC2.out).2.cell 3 rfl, (HQ.out _ HC2.out).2.cell 4 rfl⟩)
    obtain ⟨f0, f1, f2, f3, f4⟩ := (show _ ∧ _ ∧ _ ∧ _ ∧ _ from ⟨(HQ.out _ HC2.out).2.frozen 0, (HQ.out _ HC2.out).2.frozen 1, (HQ.out _ HC2.out).2.frozen 2, (HQ.out _ HC2.out).2.frozen 3, (HQ.out _ HC2.out).2.frozen 4⟩)
    obtain ⟨o0, o1, o2, o3, o4⟩ := (show _ ∧ _ ∧ _ ∧ _ ∧ _ from ⟨HA2.out.box.cell 0 rfl, HA2.out.box.cell 1 rfl, HA2.out.box.cell 2 rfl, HA2.out.box.cell 3 rfl, HA2.out.box.cell 4 rfl⟩)
    have HSt : Hid (StoAt y2 W2.heap.size b X.length cb X b' Y.length cb' Y va un vc l') := HA2.out.sto
    clear HQ HX HC2 HA2
    go_wp2_with fail
    refine bodyPost_ret (v := .tuple #[.agg #[.slice b X.length cb, .slice b' Y.length cb', .int .i64 ep, .int .i64 nx, .slice va un vc], .int .i64 1]) (by simp [results, Tryz.f6, go_sem, r0, r1, r2, r3, r4]) rfl ?_
    refine ⟨?_, ?_⟩
    · rw [WAns, HRs.out]
      exact ⟨_, rfl, b, X.length, cb, b', Y.length, cb', va, un, vc, l', rfl, (((((HSt.out.setLow (by omega) _).setLow (by omega) _).setLow (by omega) _).setLow (by omega) _).setLow (by omega) _).low (by omega), HM.out⟩
    · exact ((((HBw.out.setCell (by dsimp only; omega) _).setCell (by dsimp only; omega) _).setCell (by dsimp only; omega) _).setCell (by dsimp only; omega) _).setCell (by dsimp only; omega) _
  | true =>
  have HSo : Hid (SOk X Y ep nx (l.map UE.u)) := hok.1 rfl
  have HDb : Hid (decB (SOk X Y ep nx (l.map UE.u)) = true) := hdb.symm
  clear hok hdb
  go_wp2_with fail
  refine (specId_any id y2 (by omega)).mono ?_
  rintro _ y2 ⟨rfl, rfl⟩
  cases hidB : idB id.data.toList with
  | false =>
    have hno : ¬ idB id.data.toList = true := by rw [hidB]; simp
    clear hidB
    have HRs : Hid (makeA X Y ep nx (l.map UE.u) id want = ⟨X, nx, l.map UE.u, 1⟩) := if_neg (fun h => hno h.2.1)
    have HBw : Hid (Below w.heap.size w y2) := HB2.out.trans (HC2.out.mono HB2.out.size)
    obtain ⟨r0, r1, r2, r3, r4⟩ := (show _ ∧ _ ∧ _ ∧ _ ∧ _ from ⟨(HQ.out _ HC2.out).2.cell 0 rfl, (HQ.out _ HC2.out).2.cell 1 rfl, (HQ.out _ HC2.out).2.cell 2 rfl, (HQ.out _ HC2.out).2.cell 3 rfl, (HQ.out _ HC2.out).2.cell 4 rfl⟩)
    obtain ⟨f0, f1, f2, f3, f4⟩ := (show _ ∧ _ ∧ _ ∧ _ ∧ _ from ⟨(HQ.out _ HC2.out).2.frozen 0, (HQ.out _ HC2.out).2.frozen 1, (HQ.out _ HC2.out).2.frozen 2, (HQ.out _ HC2.out).2.frozen 3, (HQ.out _ HC2.out).2.frozen 4⟩)
    obtain ⟨o0, o1, o2, o3, o4⟩ := (show _ ∧ _ ∧ _ ∧ _ ∧ _ from ⟨HA2.out.box.cell 0 rfl, HA2.out.box.cell 1 rfl, HA2.out.box.cell 2 rfl, HA2.out.box.cell 3 rfl, HA2.out.box.cell 4 rfl⟩)
    have HSt : Hid (StoAt y2 W2.heap.size b X.length cb X b' Y.length cb' Y va un vc l') := HA2.out.sto
    clear HQ HX HC2 HA2
    go_wp2_with fail
    refine bodyPost_ret (v := .tuple #[.agg #[.slice b X.length cb, .slice b' Y.length cb', .int .i64 ep, .int .i64 nx, .slice va un vc], .int .i64 1]) (by simp [results, Tryz.f6, go_sem, r0, r1, r2, r3, r4]) rfl ?_
    refine ⟨?_, ?_⟩
    · rw [WAns, HRs.out]
      exact ⟨_, rfl, b, X.length, cb, b', Y.length, cb', va, un, vc, l', rfl, (((((HSt.out.setLow (by omega) _).setLow (by omega) _).setLow (by omega) _).setLow (by omega) _).setLow (by omega) _).low (by omega), HM.out⟩
    · exact ((((HBw.out.setCell (by dsimp only; omega) _).setCell (by dsimp only; omega) _).setCell (by dsimp only; omega) _).setCell (by dsimp only; omega) _).setCell (by dsimp only; omega) _
  | true =>
  have HId : Hid (idB id.data.toList = true) := hidB
  clear hidB
  go_wp2_with fail
  refine (l1In_any want 0 1000000 y2).mono ?_
  rintro _ y2 ⟨rfl, rfl⟩
  by_cases hwant : 0 ≤ want ∧ want ≤ 1000000
  case neg =>
    rw [decide_eq_false hwant]
    have HRs : Hid (makeA X Y ep nx (l.map UE.u) id want = ⟨X, nx, l.map UE.u, 1⟩) := if_neg (fun h => hwant h.2.2)
    have HBw : Hid (Below w.heap.size w y2) := HB2.out.trans (HC2.out.mono HB2.out.size)
    obtain ⟨r0, r1, r2, r3, r4⟩ := (show _ ∧ _ ∧ _ ∧ _ ∧ _ from ⟨(HQ.out _ HC2.out).2.cell 0 rfl, (HQ.out _ HC2.out).2.cell 1 rfl, (HQ.out _ HC2.out).2.cell 2 rfl, (HQ.out _ HC2.out).2.cell 3 rfl, (HQ.out _ HC2.out).2.cell 4 rfl⟩)
    obtain ⟨f0, f1, f2, f3, f4⟩ := (show _ ∧ _ ∧ _ ∧ _ ∧ _ from ⟨(HQ.out _ HC2.out).2.frozen 0, (HQ.out _ HC2.out).2.frozen 1, (HQ.out _ HC2.out).2.frozen 2, (HQ.out _ HC2.out).2.frozen 3, (HQ.out _ HC2.out).2.frozen 4⟩)
    obtain ⟨o0, o1, o2, o3, o4⟩ := (show _ ∧ _ ∧ _ ∧ _ ∧ _ from ⟨HA2.out.box.cell 0 rfl, HA2.out.box.cell 1 rfl, HA2.out.box.cell 2 rfl, HA2.out.box.cell 3 rfl, HA2.out.box.cell 4 rfl⟩)
    have HSt : Hid (StoAt y2 W2.heap.size b X.length cb X b' Y.length cb' Y va un vc l') := HA2.out.sto
    clear HQ HX HC2 HA2
    go_wp2_with fail
    refine bodyPost_ret (v := .tuple #[.agg #[.slice b X.length cb, .slice b' Y.length cb', .int .i64 ep, .int .i64 nx, .slice va un vc], .int .i64 1]) (by simp [results, Tryz.f6, go_sem, r0, r1, r2, r3, r4]) rfl ?_
    refine ⟨?_, ?_⟩
    · rw [WAns, HRs.out]
      exact ⟨_, rfl, b, X.length, cb, b', Y.length, cb', va, un, vc, l', rfl, (((((HSt.out.setLow (by omega) _).setLow (by omega) _).setLow (by omega) _).setLow (by omega) _).setLow (by omega) _).low (by omega), HM.out⟩
    · exact ((((HBw.out.setCell (by dsimp only; omega) _).setCell (by dsimp only; omega) _).setCell (by dsimp only; omega) _).setCell (by dsimp only; omega) _).setCell (by dsimp only; omega) _
  rw [decide_eq_true hwant]
  have hsn := HSo.out.nums
  obtain ⟨hen, hn0, hnX, hX200⟩ := hsn
  have hfew : un ≤ 10 := by have := HSo.out.few; rw [List.length_map, ← HL.out.1] at this; exact this
  obtain ⟨d0, d1, d2, d3, d4⟩ := (show _ ∧ _ ∧ _ ∧ _ ∧ _ from ⟨(HQ.out _ HC2.out).1.cell 0 rfl, (HQ.out _ HC2.out).1.cell 1 rfl, (HQ.out _ HC2.out).1.cell 2 rfl, (HQ.out _ HC2.out).1.cell 3 rfl, (HQ.out _ HC2.out).1.cell 4 rfl⟩)
  go_wp2_with fail
  refine (specAtU_any ua un uc lo id l y2 (HX.out _ HC2.out).2.2 HL.out.1 (by omega)).mono ?_
  rintro _ y2 ⟨rfl, rfl⟩
  clear d0 d1 d2 d3 d4
  cases hat : atU (l.map UE.u) id with
  | some k =>
    have hki : atI (l.map UE.u) id = (k : Int) := by rw [atI, hat]
    have hk0 : (0 : Int) ≤ (k : Int) := by omega
    rw [hki]
    have HRs : Hid (makeA X Y ep nx (l.map UE.u) id want = ⟨X, nx, l.map UE.u, 3⟩) := by show _ = _; rw [makeA, if_pos ⟨HDb.out, HId.out, hwant⟩, hat, if_neg (by simp)]
    have HBw : Hid (Below w.heap.size w y2) := HB2.out.trans (HC2.out.mono HB2.out.size)
    obtain ⟨r0, r1, r2, r3, r4⟩ := (show _ ∧ _ ∧ _ ∧ _ ∧ _ from ⟨(HQ.out _ HC2.out).2.cell 0 rfl, (HQ.out _ HC2.out).2.cell 1 rfl, (HQ.out _ HC2.out).2.cell 2 rfl, (HQ.out _ HC2.out).2.cell 3 rfl, (HQ.out _ HC2.out).2.cell 4 rfl⟩)
    obtain ⟨f0, f1, f2, f3, f4⟩ := (show _ ∧ _ ∧ _ ∧ _ ∧ _ from ⟨(HQ.out _ HC2.out).2.frozen 0, (HQ.out _ HC2.out).2.frozen 1, (HQ.out _ HC2.out).2.frozen 2, (HQ.out _ HC2.out).2.frozen 3, (HQ.out _ HC2.out).2.frozen 4⟩)
    obtain ⟨o0, o1, o2, o3, o4⟩ := (show _ ∧ _ ∧ _ ∧ _ ∧ _ from ⟨HA2.out.box.cell 0 rfl, HA2.out.box.cell 1 rfl, HA2.out.box.cell 2 rfl, HA2.out.box.cell 3 rfl, HA2.out.box.cell 4 rfl⟩)
    have HSt : Hid (StoAt y2 W2.heap.size b X.length cb X b' Y.length cb' Y va un vc l') := HA2.out.sto
    clear HQ HX HC2 HA2
    go_wp2_with fail
    refine bodyPost_ret (v := .tuple #[.agg #[.slice b X.length cb, .slice b' Y.length cb', .int .i64 ep, .int .i64 nx, .slice va un vc], .int .i64 3]) (by simp [results, Tryz.f6, go_sem, r0, r1, r2, r3, r4]) rfl ?_
    refine ⟨?_, ?_⟩
    · rw [WAns, HRs.out]
      exact ⟨_, rfl, b, X.length, cb, b', Y.length, cb', va, un, vc, l', rfl, (((((HSt.out.setLow (by omega) _).setLow (by omega) _).setLow (by omega) _).setLow (by omega) _).setLow (by omega) _).low (by omega), HM.out⟩
    · exact ((((HBw.out.setCell (by dsimp only; omega) _).setCell (by dsimp only; omega) _).setCell (by dsimp only; omega) _).setCell (by dsimp only; omega) _).setCell (by dsimp only; omega) _
  | none =>
  have hki : atI (l.map UE.u) id = -1 := by rw [atI, hat]
  rw [hki]
  obtain ⟨d0, d1, d2, d3, d4⟩ := (show _ ∧ _ ∧ _ ∧ _ ∧ _ from ⟨(HQ.out _ HC2.out).1.cell 0 rfl, (HQ.out _ HC2.out).1.cell 1 rfl, (HQ.out _ HC2.out).1.cell 2 rfl, (HQ.out _ HC2.out).1.cell 3 rfl, (HQ.out _ HC2.out).1.cell 4 rfl⟩)
  go_wp2_with fail
  refine (specLeft_any a n ca a' n' ca' ep nx ua un uc y2 (by omega) (by omega)).mono ?_
  rintro _ y3 ⟨rfl, hb3⟩
  clear d0 d1 d2 d3 d4
  have HA3 : Hid (SAt y3 W2.heap.size bo b X.length cb X b' Y.length cb' Y ep nx va un vc l') := HA2.out.stays hb3
  have HC3 : Hid (Below W2.heap.size W2 y3) := HC2.out.trans (hb3.mono HC2.out.size)
  clear hb3 HA2 HC2
  by_cases hroom : (n : Int) - nx < 1
  · have hrn : ¬ nx < (X.length : Int) := by have := HL.out.2.2.2; omega
    have HRs : Hid (makeA X Y ep nx (l.map UE.u) id want = ⟨X, nx, l.map UE.u, 5⟩) := by show _ = _; rw [makeA, if_pos ⟨HDb.out, HId.out, hwant⟩, hat, if_pos rfl, if_neg (fun h => hrn h.1)]
    have HBw : Hid (Below w.heap.size w y3) := HB2.out.trans (HC3.out.mono HB2.out.size)
    obtain ⟨r0, r1, r2, r3, r4⟩ := (show _ ∧ _ ∧ _ ∧ _ ∧ _ from ⟨(HQ.out _ HC3.out).2.cell 0 rfl, (HQ.out _ HC3.out).2.cell 1 rfl, (HQ.out _ HC3.out).2.cell 2 rfl, (HQ.out _ HC3.out).2.cell 3 rfl, (HQ.out _ HC3.out).2.cell 4 rfl⟩)
    obtain ⟨f0, f1, f2, f3, f4⟩ := (show _ ∧ _ ∧ _ ∧ _ ∧ _ from ⟨(HQ.out _ HC3.out).2.frozen 0, (HQ.out _ HC3.out).2.frozen 1, (HQ.out _ HC3.out).2.frozen 2, (HQ.out _ HC3.out).2.frozen 3, (HQ.out _ HC3.out).2.frozen 4⟩)
    obtain ⟨o0, o1, o2, o3, o4⟩ := (show _ ∧ _ ∧ _ ∧ _ ∧ _ from ⟨HA3.out.box.cell 0 rfl, HA3.out.box.cell 1 rfl, HA3.out.box.cell 2 rfl, HA3.out.box.cell 3 rfl, HA3.out.box.cell 4 rfl⟩)
    have HSt : Hid (StoAt y3 W2.heap.size b X.length cb X b' Y.length cb' Y va un vc l') := HA3.out.sto
    clear HQ HX HC3 HA3
    go_wp2_with fail
    refine bodyPost_ret (v := .tuple #[.agg #[.slice b X.length cb, .slice b' Y.length cb', .int .i64 ep, .int .i64 nx, .slice va un vc], .int .i64 5]) (by simp [results, Tryz.f6, go_sem, r0, r1, r2, r3, r4]) rfl ?_
    refine ⟨?_, ?_⟩
    · rw [WAns, HRs.out]
      exact ⟨_, rfl, b, X.length, cb, b', Y.length, cb', va, un, vc, l', rfl, (((((HSt.out.setLow (by omega) _).setLow (by omega) _).setLow (by omega) _).setLow (by omega) _).setLow (by omega) _).low (by omega), HM.out⟩
    · exact ((((HBw.out.setCell (by dsimp only; omega) _).setCell (by dsimp only; omega) _).setCell (by dsimp only; omega) _).setCell (by dsimp only; omega) _).setCell (by dsimp only; omega) _
  obtain ⟨d0, d1, d2, d3, d4⟩ := (show _ ∧ _ ∧ _ ∧ _ ∧ _ from ⟨(HQ.out _ HC3.out).1.cell 0 rfl, (HQ.out _ HC3.out).1.cell 1 rfl, (HQ.out _ HC3.out).1.cell 2 rfl, (HQ.out _ HC3.out).1.cell 3 rfl, (HQ.out _ HC3.out).1.cell 4 rfl⟩)
  by_cases hten : un = 10
  · have htn : (l.map UE.u).length = 10 := by rw [List.length_map, ← HL.out.1]; exact hten
    have hti : ((un : Int) == 10) = true := by rw [hten]; rfl
    clear hten
    have HRs : Hid (makeA X Y ep nx (l.map UE.u) id want = ⟨X, nx, l.map UE.u, 5⟩) := by show _ = _; rw [makeA, if_pos ⟨HDb.out, HId.out, hwant⟩, hat, if_pos rfl, if_neg (fun h => h.2 htn)]
    have HBw : Hid (Below w.heap.size w y3) := HB2.out.trans (HC3.out.mono HB2.out.size)
    obtain ⟨r0, r1, r2, r3, r4⟩ := (show _ ∧ _ ∧ _ ∧ _ ∧ _ from ⟨(HQ.out _ HC3.out).2.cell 0 rfl, (HQ.out _ HC3.out).2.cell 1 rfl, (HQ.out _ HC3.out).2.cell 2 rfl, (HQ.out _ HC3.out).2.cell 3 rfl, (HQ.out _ HC3.out).2.cell 4 rfl⟩)
    obtain ⟨f0, f1, f2, f3, f4⟩ := (show _ ∧ _ ∧ _ ∧ _ ∧ _ from ⟨(HQ.out _ HC3.out).2.frozen 0, (HQ.out _ HC3.out).2.frozen 1, (HQ.out _ HC3.out).2.frozen 2, (HQ.out _ HC3.out).2.frozen 3, (HQ.out _ HC3.out).2.frozen 4⟩)
    obtain ⟨o0, o1, o2, o3, o4⟩ := (show _ ∧ _ ∧ _ ∧ _ ∧ _ from ⟨HA3.out.box.cell 0 rfl, HA3.out.box.cell 1 rfl, HA3.out.box.cell 2 rfl, HA3.out.box.cell 3 rfl, HA3.out.box.cell 4 rfl⟩)
    have HSt : Hid (StoAt y3 W2.heap.size b X.length cb X b' Y.length cb' Y va un vc l') := HA3.out.sto
    clear HQ HX HC3 HA3
    go_wp2_with fail
    refine bodyPost_ret (v := .tuple #[.agg #[.slice b X.length cb, .slice b' Y.length cb', .int .i64 ep, .int .i64 nx, .slice va un vc], .int .i64 5]) (by simp [results, Tryz.f6, go_sem, r0, r1, r2, r3, r4]) rfl ?_
    refine ⟨?_, ?_⟩
    · rw [WAns, HRs.out]
      exact ⟨_, rfl, b, X.length, cb, b', Y.length, cb', va, un, vc, l', rfl, (((((HSt.out.setLow (by omega) _).setLow (by omega) _).setLow (by omega) _).setLow (by omega) _).setLow (by omega) _).low (by omega), HM.out⟩
    · exact ((((HBw.out.setCell (by dsimp only; omega) _).setCell (by dsimp only; omega) _).setCell (by dsimp only; omega) _).setCell (by dsimp only; omega) _).setCell (by dsimp only; omega) _
  have hti : ((un : Int) == 10) = false := by simpa using (show ¬ (un : Int) = 10 by omega)
  have htn : (l.map UE.u).length ≠ 10 := by rw [List.length_map, ← HL.out.1]; exact hten
  have ho1 := make_fits (want := want) hat HSo.out.few htn
  obtain ⟨M, hM⟩ := Int.eq_ofNat_of_zero_le hn0
  obtain ⟨E, hE⟩ := Int.eq_ofNat_of_zero_le hen.1
  subst hM hE
  have hMl : M < X.length := by have := HL.out.2.2.2; omega
  obtain ⟨V, hV⟩ := Int.eq_ofNat_of_zero_le hwant.1
  subst hV
  have HRs : Hid (makeA X Y (E : Int) (M : Int) (l.map UE.u) id (V : Int) = ⟨X.set M (txU (sumB (recB E M 1 id V []))), (M : Int) + 1, (makeU (l.map UE.u) ⟨id, (V : Int), [], false⟩), 0⟩) := by
    show _ = _
    rw [makeA, if_pos ⟨HDb.out, HId.out, hwant⟩, hat, if_pos rfl, if_pos ⟨by omega, htn⟩]
    show wroteA X (E : Int) (M : Int) (l.map UE.u) [makeR id (V : Int)] = _
    have hf : [makeR id (V : Int)].foldlM oneU (l.map UE.u) = some (makeU (l.map UE.u) ⟨id, (V : Int), [], false⟩) := by rw [List.foldlM_cons, ho1]; rfl
    rw [wroteA, hf]
    rfl
  have hsq : HA3.out.box = HA3.out.box := rfl
  have hi8 : id.size ≤ 255 := by
    have h := HId.out
    simp only [idB, Bool.and_eq_true, decide_eq_true_eq, Array.length_toList] at h
    have h8 : id.data.size = id.size := rfl
    omega
  have HWr : Hid (Calls Tryz.prog 25 #[.pointer (some ⟨bo, 0, none⟩), .agg #[.int .i64 0, .int .i64 0, .int .i64 1, .string id, .int .i64 (V : Int), .slice none 0 0]] y3 fun e w' => e = .returned (.tuple #[]) ∧ (∃ ua' un' uc' l2, BoxN w' bo 32 [.slice b X.length cb, .slice b' Y.length cb', .int .i64 (E : Int), .int .i64 ((M : Int) + 1), .slice ua' un' uc'] ∧ StoAt w' W2.heap.size b X.length cb (X.set M (txU (sumB (recB E M 1 id V [])))) b' Y.length cb' Y ua' un' uc' l2 ∧ l2.map UE.u = (makeU (l.map UE.u) ⟨id, (V : Int), [], false⟩)) ∧ Below W2.heap.size y3 w') :=
    specWrite_any W2.heap.size bo b cb X b' Y.length cb' Y E M va un vc l' 0 0 1 id V none 0 0 [] (makeU (l.map UE.u) ⟨id, (V : Int), [], false⟩) y3 HA3.out.box HA3.out.sto hlo 0 (owns_nil _ _) hMl (by omega) (by omega) HZ'.out hi8 (by omega) (by omega) (by omega) (by omega) (by rw [HM.out]; exact ho1)
  go_wp2_with fail
  refine HWr.out.mono ?_
  rintro _ y4 ⟨rfl, ⟨ua', un', uc', l2, hq4, hs4, hm4⟩, hb4⟩
  have HC4 : Hid (Below W2.heap.size W2 y4) := HC3.out.trans hb4
  have HBw : Hid (Below w.heap.size w y4) := HB2.out.trans (HC4.out.mono HB2.out.size)
  obtain ⟨r0, r1, r2, r3, r4⟩ := (show _ ∧ _ ∧ _ ∧ _ ∧ _ from ⟨(HQ.out _ HC4.out).2.cell 0 rfl, (HQ.out _ HC4.out).2.cell 1 rfl, (HQ.out _ HC4.out).2.cell 2 rfl, (HQ.out _ HC4.out).2.cell 3 rfl, (HQ.out _ HC4.out).2.cell 4 rfl⟩)
  obtain ⟨f0, f1, f2, f3, f4⟩ := (show _ ∧ _ ∧ _ ∧ _ ∧ _ from ⟨(HQ.out _ HC4.out).2.frozen 0, (HQ.out _ HC4.out).2.frozen 1, (HQ.out _ HC4.out).2.frozen 2, (HQ.out _ HC4.out).2.frozen 3, (HQ.out _ HC4.out).2.frozen 4⟩)
  obtain ⟨o0, o1, o2, o3, o4⟩ := (show _ ∧ _ ∧ _ ∧ _ ∧ _ from ⟨hq4.cell 0 rfl, hq4.cell 1 rfl, hq4.cell 2 rfl, hq4.cell 3 rfl, hq4.cell 4 rfl⟩)
  have HSt : Hid (StoAt y4 W2.heap.size b X.length cb (X.set M (txU (sumB (recB E M 1 id V [])))) b' Y.length cb' Y ua' un' uc' l2 ∧ l2.map UE.u = (makeU (l.map UE.u) ⟨id, (V : Int), [], false⟩)) := ⟨hs4, hm4⟩
  clear HQ HX HC3 HA3 HC4 hq4 hs4 hm4 hb4 HWr
  go_wp2_with fail
  refine bodyPost_ret (v := .tuple #[.agg #[.slice b X.length cb, .slice b' Y.length cb', .int .i64 (E : Int), .int .i64 ((M : Int) + 1), .slice ua' un' uc'], .int .i64 0]) (by simp [results, Tryz.f6, go_sem, r0, r1, r2, r3, r4]) rfl ?_
  refine ⟨?_, ?_⟩
  · rw [WAns, HRs.out]
    exact ⟨_, rfl, b, X.length, cb, b', Y.length, cb', ua', un', uc', l2, rfl, (((((HSt.out.1.setLow (by omega) _).setLow (by omega) _).setLow (by omega) _).setLow (by omega) _).setLow (by omega) _).low (by omega), HSt.out.2⟩
  · exact ((((HBw.out.setCell (by dsimp only; omega) _).setCell (by dsimp only; omega) _).setCell (by dsimp only; omega) _).setCell (by dsimp only; omega) _).setCell (by dsimp only; omega) _

end Go.Proofs.YtenkpgnkkkgdmatGreatDoor

namespace Go.Proofs.YtenkpgnkkkgdmatGreatDoor
open Go.RowKit Go.ChangeShapes Go.WideShapes
set_option linter.unusedVariables false

/-- A row of the table, as it is read. -/
def rcD {H : Type} (k : Nat) : DataW H := .agg [.lit (.int .i64 (rMost k)), .lit (.int .i64 (rLo k)), .lit (.int .i64 (rHi k))]

/-- The table, as it is read. -/
def rcTabD {H : Type} : DataW H := .agg ((List.range 5).map rcD)

theorem rcInt_of {H : Type} {enc : TypeId × Value → H} {w : World} {base fuel : Nat} {sp : Nat → Bool} {held : Bool} {x : Value} {n : Int} {p : List MemPlace}
    (h : DataW.trod enc Tryz.prog w base sp held fuel 3 [x] = some (.lit (.int .i64 n), p)) : x = .int .i64 n := by
  obtain ⟨z, e1, e2, _⟩ := DataW.trod_int Tryz.underlying3 h
  simp only [Prod.mk.injEq, DataW.lit.injEq, Lit.int.injEq] at e2
  rw [e2.1.2]
  simpa using e1

theorem rcCellsE : Tryz.prog.cellsOf 120 = 3 := by kernel_rfl
theorem rcCellsI : Tryz.prog.cellsOf 3 = 1 := by kernel_rfl
theorem rcCellsT : Tryz.prog.cellsOf 121 = 15 := by kernel_rfl

theorem rcThree {l : List Value} (h : l.length = 3) : ∃ a b c, l = [a, b, c] := by
  rcases l with _ | ⟨a, _ | ⟨b, _ | ⟨c, _ | ⟨d, r⟩⟩⟩⟩
  · cases h
  · cases h
  · cases h
  · exact ⟨a, b, c, rfl⟩
  · exact absurd h (by simp)

theorem rcRow_of {H : Type} {enc : TypeId × Value → H} {w : World} {base fuel : Nat} {sp : Nat → Bool} {held : Bool} {cs : List Value} {k : Nat} {p : List MemPlace}
    (h : DataW.trod enc Tryz.prog w base sp held fuel 120 cs = some (rcD k, p)) : cs = [.int .i64 (rMost k), .int .i64 (rLo k), .int .i64 (rHi k)] := by
  cases fuel with
  | zero => simp [DataW.trod] at h
  | succ fuel =>
    simp only [DataW.trod, Tryz.underlying120, rcCellsE] at h
    split at h
    · rename_i hl
      obtain ⟨a, b, c, rfl⟩ := rcThree hl
      simp [rcCellsI, rcD, Option.bind_eq_some_iff] at h
      obtain ⟨r1, p1, h1, l, ⟨r2, p2, h2, l2, ⟨r3, p3, h3, rfl⟩, rfl⟩, ⟨e1, e2⟩, _⟩ := h
      simp at e2
      obtain ⟨e2, e3⟩ := e2
      subst e1 e2 e3
      rw [rcInt_of h1, rcInt_of h2, rcInt_of h3]
    · cases h

theorem rcG : Tryz.prog.globalNamed "loop.example/g00199/impl.recForms" = some 0 := by kernel_rfl
theorem rcGT : (Tryz.prog.globals[0]?).map (·.type) = some 121 := by kernel_rfl

theorem recT_of_laid {W : World} {rest : List (String × DataW Unit)} (h : laidMet Tryz.prog (("loop.example/g00199/impl.recForms", rcTabD) :: rest) W) : RecT W := by
  obtain ⟨ps, ⟨g', t', cs, fuel, p, q, hg', ht', hvar, hd, _, _⟩, _⟩ := h
  obtain rfl := Option.some.inj (rcG.symm.trans hg')
  obtain rfl := Option.some.inj (rcGT.symm.trans ht')
  have hcell := fun i => World.var?_cell rcG hvar i
  have hrow : ∀ k, k < 5 → (cs.toList.drop (k * 3)).take 3 = [.int .i64 (rMost k), .int .i64 (rLo k), .int .i64 (rHi k)] := by
    intro k hk
    cases fuel with
    | zero => simp [DataW.trod] at hd
    | succ fuel =>
      simp only [DataW.trod, Tryz.underlying121, rcCellsE, rcCellsT] at hd
      split at hd
      · obtain ⟨xs, hm, hx⟩ := Option.map_eq_some_iff.1 hd
        have hxs : xs.map (·.1) = (List.range 5).map rcD := by
          have := congrArg Prod.fst hx
          simpa [rcTabD] using this
        obtain ⟨b, hb, hf⟩ := Lib.mapM_at hm k k (by simp [hk])
        have h2 : (xs.map (·.1))[k]? = some b.1 := by simp [hb]
        rw [hxs, List.getElem?_map, List.getElem?_range hk] at h2
        simp only [Option.map_some, Option.some.injEq] at h2
        obtain ⟨b1, b2⟩ := b
        dsimp only at h2
        subst h2
        exact rcRow_of hf
      · cases hd
  refine ⟨?_, fun k hk => ?_⟩
  · have h0 := hrow 0 (by omega)
    have := hcell 0
    have h1 : cs[0]? = some (.int .i64 (rMost 0)) := by
      have := congrArg (·[0]?) h0
      simpa using this
    rw [h1] at this
    exact lt_of_cell this
  · have h0 := hrow k (by omega)
    rw [hcell, hcell, hcell]
    have h1 := congrArg (·[0]?) h0
    have h2 := congrArg (·[1]?) h0
    have h3 := congrArg (·[2]?) h0
    simp only [List.getElem?_take, List.getElem?_drop] at h1 h2 h3
    simp at h1 h2 h3
    exact ⟨h1, h2, h3⟩

end Go.Proofs.YtenkpgnkkkgdmatGreatDoor

namespace Go.Proofs.YtenkpgnkkkgdmatGreatDoor
open Go.RowKit
set_option linter.unusedVariables false

theorem errG : Tryz.prog.globalNamed "loop.example/g00199/impl.errNoFit" = some 1 := by kernel_rfl

theorem errN_of_var {W : World} (h : ∃ t p, W.var? Tryz.prog "loop.example/g00199/impl.errNoFit" = some #[.iface t p]) : ErrN W := by
  obtain ⟨t, p, h⟩ := h
  have c := World.var?_cell errG h 0
  have c' : W.cell? ⟨1, 0, none⟩ = some (.iface t p) := by rw [c]; rfl
  refine ⟨?_, t, p, c'⟩
  rw [World.var?, errG] at h
  cases hg : W.heap[(1 : Nat)]? with
  | none => simp [hg] at h
  | some o => exact (Array.getElem?_eq_some_iff.1 hg).1

end Go.Proofs.YtenkpgnkkkgdmatGreatDoor

namespace Go.Proofs.YtenkpgnkkkgdmatGreatDoor
open Go.RowKit

theorem sz_us {n n' un : Nat} {X Y : List ByteArray} {l : List UE} {w : World} {ua : Option Addr} (h : SzS n X n' Y un l) (hu : UpsI w ua un l) : ∀ u ∈ l.map UE.u, u.zs.length ≤ 1048576 := by
  intro u hm
  obtain ⟨e, he, rfl⟩ := List.mem_map.1 hm
  have h1 := (h.2.2.2.2.2 e he).2
  have h2 := (hu.2.1 e he).2.2.1
  omega

end Go.Proofs.YtenkpgnkkkgdmatGreatDoor

namespace Go.Proofs.YtenkpgnkkkgdmatGreatDoor
open Go.RowKit
set_option linter.unusedVariables false

/-- An answer is no greater than this. -/
def WA.small (a : WA) : Prop := a.X.length ≤ 1048576 ∧ a.us.length ≤ 1048576 ∧ ∀ u ∈ a.us, u.zs.length ≤ 1048576

theorem makeA_sz {X Y : List ByteArray} {ep nx : Int} {us : List U} {id : ByteArray} {want : Int} (h1 : X.length ≤ 1048576) (h2 : us.length ≤ 1048576) (h3 : ∀ u ∈ us, u.zs.length ≤ 1048576) : (makeA X Y ep nx us id want).small := by
  by_cases h : (makeA X Y ep nx us id want).c = 0
  · obtain ⟨hso, _, _, us', hf, hm⟩ := makeA_yes h
    rw [hm]
    refine ⟨by show (wroteX _ _ _ _).length ≤ _; rw [wroteX_len]; exact h1, ?_, ?_⟩
    · have := foldlM_len hso.few hf
      show us'.length ≤ _
      omega
    · rw [List.foldlM_cons] at hf
      cases ho : oneU us (makeR id want) with
      | none => rw [ho] at hf; cases hf
      | some u1 =>
        rw [ho] at hf
        obtain rfl : u1 = us' := by simpa using hf
        intro u hu
        have := oneU_zs ho h3 u hu
        simpa [makeR] using this
  · rw [makeA_no h]
    exact ⟨h1, h2, h3⟩

theorem dropA_sz {X Y : List ByteArray} {ep nx : Int} {us : List U} {id : ByteArray} (h1 : X.length ≤ 1048576) (h2 : us.length ≤ 1048576) (h3 : ∀ u ∈ us, u.zs.length ≤ 1048576) : (dropA X Y ep nx us id).small := by
  by_cases h : (dropA X Y ep nx us id).c = 0
  · obtain ⟨hso, _, _, us', hf, hm⟩ := dropA_yes h
    rw [hm]
    refine ⟨by show (wroteX _ _ _ _).length ≤ _; rw [wroteX_len]; exact h1, ?_, ?_⟩
    · have := foldlM_len hso.few hf
      show us'.length ≤ _
      omega
    · rw [List.foldlM_cons] at hf
      cases ho : oneU us (dropR id) with
      | none => rw [ho] at hf; cases hf
      | some u1 =>
        rw [ho] at hf
        obtain rfl : u1 = us' := by simpa using hf
        intro u hu
        have := oneU_zs ho h3 u hu
        simpa [dropR] using this
  · rw [dropA_no h]
    exact ⟨h1, h2, h3⟩

end Go.Proofs.YtenkpgnkkkgdmatGreatDoor
