/- What the program's MakeUp answers. What the program's upFor answers. Uploads of a right store fit: no program in it but where UFit is said. A loop over an iterator of one's own, also one that keeps a variable of its own between two rounds: what holds where the loop begins (Ib), ahead of a round (I0), behind it (I1), where it was left (Ix), and where the iterator ended by itself (Ie), all over a state that I choose. No program in it. The library's iterator Chunk over bytes: piece by piece. -/
import Derived.Test.YtogopmngbjkcjaaGreatDoorM41
import Derived.Test.YtogopmngbjkcjaaGreatDoorM43
import Derived.Test.YtogopmngbjkcjaaGreatDoorM24
import Derived.Test.YtogopmngbjkcjaaGreatDoorM40
import Derived.Test.YtogopmngbjkcjaaGreatDoorM36
import Derived.Test.YtogopmngbjkcjaaGreatDoorM09
import Derived.Test.YtogopmngbjkcjaaGreatDoorM11
import Derived.Test.YtogopmngbjkcjaaGreatDoorM34
import Derived.Test.YtogopmngbjkcjaaGreatDoorM10
import Derived.RangeFuncBox
import Derived.RangeFuncLeaves
import Derived.RangeFuncNested
import Derived.RangeFuncBound
import Derived.RangeFuncCalls
import Derived.Shelf.Abstract
import Derived.Shelf.RegionOpen
import Derived.OwnWalkIn
import Derived.TacticsInMore
import Derived.LoopNIn
import Derived.LoopIn
import Derived.Test.YtogopmngbjkcjaaGreatDoorM01
namespace Go.Proofs.YtogopmngbjkcjaaGreatDoor
open Go.RowKit
set_option linter.unusedVariables false

set_option maxRecDepth 10000 in
set_option maxHeartbeats 3200000 in
theorem implMake_any (a : Option Addr) (n ca : Nat) (X : List ByteArray) (a' : Option Addr) (n' ca' : Nat) (Y : List ByteArray) (ep nx : Int) (ua : Option Addr) (un uc lo : Nat) (l : List UE) (id : ByteArray) (want : Int) (w : World) (h1 : Strs w a n X) (h2 : Strs w a' n' Y) (hn : n ≤ 1048576) (hn' : n' ≤ 1048576) (hzx : ∀ x ∈ X, x.size ≤ 1048576) (hu : UpRow w lo (.slice ua un uc) l) (hun : un = l.length) (hul : un ≤ 1048576) (hz : ∀ e ∈ l, e.n ≤ 1099511627776) (hid : id.size ≤ maxLen) (hsl : SlOk a n ca) (ht : RecT w) (he : ErrN w) :
    Calls Tryz.prog 7 #[.agg #[.slice a n ca, .slice a' n' ca', .int .i64 ep, .int .i64 nx, .slice ua un uc], .string id, .int .i64 want] w fun e w' => WAns w.heap.size Y ep (makeA X Y ep nx (l.map UE.u) id want) e w' ∧ Below w.heap.size w w' := by
  have hmm : maxLen < 9223372036854775808 := by decide
  obtain ⟨W2, hW2⟩ : ∃ W2, (w.alloc (.cells #[.slice a n ca, .slice a' n' ca', .int .i64 ep, .int .i64 nx, .slice ua un uc] 29)).alloc (.cells #[.slice none 0 0, .slice none 0 0, .int .i64 0, .int .i64 0, .slice none 0 0] 29) = W2 := ⟨_, rfl⟩
  have HE : Hid ((w.alloc (.cells #[.slice a n ca, .slice a' n' ca', .int .i64 ep, .int .i64 nx, .slice ua un uc] 29)).alloc (.cells #[.slice none 0 0, .slice none 0 0, .int .i64 0, .int .i64 0, .slice none 0 0] 29) = W2) := hW2
  have HB2 : Hid (Below w.heap.size w W2) := by show Below _ _ _; rw [← hW2]; exact ((Below.refl _ _).alloc (Nat.le_refl _) _).alloc (by simp) _
  have q1 : BoxN W2 w.heap.size 29 [.slice a n ca, .slice a' n' ca', .int .i64 ep, .int .i64 nx, .slice ua un uc] := by rw [← hW2]; exact (BoxN.new _ _ _).alloc _
  have q2 : BoxN W2 (w.heap.size + 1) 29 [.slice none 0 0, .slice none 0 0, .int .i64 0, .int .i64 0, .slice none 0 0] := by
    rw [← hW2]
    have := BoxN.new (w.alloc (.cells #[.slice a n ca, .slice a' n' ca', .int .i64 ep, .int .i64 nx, .slice ua un uc] 29)) 29 [.slice none 0 0, .slice none 0 0, .int .i64 0, .int .i64 0, .slice none 0 0]
    rwa [World.size_alloc] at this
  have HQ : Hid (∀ W, Below W2.heap.size W2 W → BoxN W w.heap.size 29 [.slice a n ca, .slice a' n' ca', .int .i64 ep, .int .i64 nx, .slice ua un uc] ∧ BoxN W (w.heap.size + 1) 29 [.slice none 0 0, .slice none 0 0, .int .i64 0, .int .i64 0, .slice none 0 0]) := fun W h => ⟨q1.stays h, q2.stays h⟩
  have HX : Hid (∀ W, Below W2.heap.size W2 W → Strs W a n X ∧ Strs W a' n' Y ∧ UpRow W lo (.slice ua un uc) l ∧ RecT W ∧ ErrN W) := fun W h => by
    have hw := HB2.out.trans (h.mono HB2.out.size)
    exact ⟨h1.below hw, h2.below hw, hu.stays hw, ht.below hw, he.below hw⟩
  have HL : Hid (un = l.length ∧ (∀ e ∈ l, e.n ≤ 1099511627776) ∧ (∀ x ∈ X, x.size ≤ 1048576) ∧ X.length = n) := ⟨hun, hz, hzx, h1.1⟩
  have hs2 : w.heap.size + 1 < W2.heap.size := q2.lt
  clear hW2 q1 q2 h1 h2 hu hun hz hzx ht he
  have HA0 : Hid (Below W2.heap.size W2 W2) := Below.refl _ _
  obtain ⟨c0, c1, c2, c3, c4⟩ := (show _ ∧ _ ∧ _ ∧ _ ∧ _ from ⟨(HQ.out _ HA0.out).1.cell 0 rfl, (HQ.out _ HA0.out).1.cell 1 rfl, (HQ.out _ HA0.out).1.cell 2 rfl, (HQ.out _ HA0.out).1.cell 3 rfl, (HQ.out _ HA0.out).1.cell 4 rfl⟩)
  go_enter Tryz.func7, Tryz.ntmps7
  go_upto_region 1 with fail
  rw [HE.out]
  clear HE
  go_wp2_with fail
  refine (implMakeC_any a n ca X a' n' ca' Y ep nx ua un uc lo l id want W2 (HX.out _ HA0.out).1 (HX.out _ HA0.out).2.1 hn hn' HL.out.2.2.1 (HX.out _ HA0.out).2.2.1 HL.out.1 hul hid hsl (HX.out _ HA0.out).2.2.2.1 (HX.out _ HA0.out).2.2.2.2).mono ?_
  rintro _ y1 ⟨rfl, hb1⟩
  have HC1 : Hid (Below W2.heap.size W2 y1) := hb1
  clear hb1 c0 c1 c2 c3 c4
  obtain ⟨cc, hcc⟩ : ∃ cc, (makeA X Y ep nx (l.map UE.u) id want).c = cc := ⟨_, rfl⟩
  rw [hcc]
  obtain ⟨c0, c1, c2, c3, c4⟩ := (show _ ∧ _ ∧ _ ∧ _ ∧ _ from ⟨(HQ.out _ HC1.out).1.cell 0 rfl, (HQ.out _ HC1.out).1.cell 1 rfl, (HQ.out _ HC1.out).1.cell 2 rfl, (HQ.out _ HC1.out).1.cell 3 rfl, (HQ.out _ HC1.out).1.cell 4 rfl⟩)
  by_cases h0 : cc = 0
  case neg =>
    have HRs : Hid (makeA X Y ep nx (l.map UE.u) id want = ⟨X, nx, l.map UE.u, cc⟩) := by
      show _ = _
      have h9 : (makeA X Y ep nx (l.map UE.u) id want).c ≠ 0 := by rw [hcc]; exact h0
      rw [← hcc]
      exact makeA_no h9
    have hd0 : (cc != 0) = true := by simpa using h0
    clear hcc h0
    go_wp2_with fail
    refine (implScopy_any a n ca X a' n' ca' Y ep nx ua un uc lo l y1 (HX.out _ HC1.out).1 (HX.out _ HC1.out).2.1 hn hn' (HX.out _ HC1.out).2.2.1 HL.out.1 hul HL.out.2.1).mono ?_
    rintro _ y2 ⟨⟨v, rfl, hv⟩, hb2⟩
    obtain ⟨b, cb, b', cb', va, vc, l', rfl, hs2', hm2⟩ := hv.get
    have HC2 : Hid (Below W2.heap.size W2 y2) := HC1.out.trans (hb2.mono HC1.out.size)
    have HSt : Hid (StoAt y2 W2.heap.size b X.length cb X b' Y.length cb' Y va (l.map UE.u).length vc l' ∧ l'.map UE.u = l.map UE.u) := ⟨hs2'.low HC1.out.size, hm2⟩
    have HBw : Hid (Below w.heap.size w y2) := HB2.out.trans (HC2.out.mono HB2.out.size)
    obtain ⟨K, hK⟩ : ∃ K, (l.map UE.u).length = K := ⟨_, rfl⟩
    rw [hK] at HSt ⊢
    obtain ⟨r0, r1, r2, r3, r4⟩ := (show _ ∧ _ ∧ _ ∧ _ ∧ _ from ⟨(HQ.out _ HC2.out).2.cell 0 rfl, (HQ.out _ HC2.out).2.cell 1 rfl, (HQ.out _ HC2.out).2.cell 2 rfl, (HQ.out _ HC2.out).2.cell 3 rfl, (HQ.out _ HC2.out).2.cell 4 rfl⟩)
    obtain ⟨f0, f1, f2, f3, f4⟩ := (show _ ∧ _ ∧ _ ∧ _ ∧ _ from ⟨(HQ.out _ HC2.out).2.frozen 0, (HQ.out _ HC2.out).2.frozen 1, (HQ.out _ HC2.out).2.frozen 2, (HQ.out _ HC2.out).2.frozen 3, (HQ.out _ HC2.out).2.frozen 4⟩)
    clear hv hs2' hm2 hb2 HQ HX HC1 HC2 hK c0 c1 c2 c3 c4
    go_wp2_with fail
    refine bodyPost_ret (v := .tuple #[.agg #[.slice b X.length cb, .slice b' Y.length cb', .int .i64 ep, .int .i64 nx, .slice va K vc], .int .i64 cc]) (by simp [results, Tryz.f7, go_sem, r0, r1, r2, r3, r4]) rfl ?_
    refine ⟨?_, ?_⟩
    · rw [WAns, HRs.out]
      exact ⟨_, rfl, b, X.length, cb, b', Y.length, cb', va, K, vc, l', rfl, (((((HSt.out.1.setLow (by omega) _).setLow (by omega) _).setLow (by omega) _).setLow (by omega) _).setLow (by omega) _).low (by omega), HSt.out.2⟩
    · exact ((((HBw.out.setCell (by dsimp only; omega) _).setCell (by dsimp only; omega) _).setCell (by dsimp only; omega) _).setCell (by dsimp only; omega) _).setCell (by dsimp only; omega) _
  subst h0
  obtain ⟨hso, hkk, hroom, us', hfo, hmod⟩ := makeA_yes hcc
  have HRs : Hid (makeA X Y ep nx (l.map UE.u) id want = ⟨wroteX X ep nx.toNat [makeR id want], nx + 1, us', 0⟩) := hmod
  have HSo : Hid (SOk X Y ep nx (l.map UE.u)) := hso
  have HKk : Hid (idB id.data.toList = true ∧ kindB 1 want 0 = true ∧ [makeR id want].foldlM oneU (l.map UE.u) = some us' ∧ nx + 1 ≤ (X.length : Int)) := ⟨hkk.1, hkk.2, hfo, hroom⟩
  clear hcc hso hkk hroom hfo hmod
  obtain ⟨y2, hy2⟩ : ∃ y2, y1.alloc (.cells #[.int .i64 0, .int .i64 0, .int .i64 1, .string id, .int .i64 want, .slice none 0 0] 54) = y2 := ⟨_, rfl⟩
  have HE2 : Hid (y1.alloc (.cells #[.int .i64 0, .int .i64 0, .int .i64 1, .string id, .int .i64 want, .slice none 0 0] 54) = y2) := hy2
  have hb2 : Below y1.heap.size y1 y2 := by rw [← hy2]; exact (Below.refl _ _).alloc (Nat.le_refl _) _
  have hbx : BoxN y2 y1.heap.size 54 [.int .i64 0, .int .i64 0, .int .i64 1, .string id, .int .i64 want, .slice none 0 0] := by rw [← hy2]; exact BoxN.new _ _ _
  have HC2 : Hid (Below W2.heap.size W2 y2) := HC1.out.trans (hb2.mono HC1.out.size)
  have HRow : Hid (RcsI y2 (some ⟨y1.heap.size, 0, none⟩) 1 [⟨makeR id want, none, 0, 0⟩]) := by
    refine ⟨rfl, fun e he => ?_, .inr ⟨y1.heap.size, 0, rfl, hbx.lt, fun i hi => ?_⟩⟩
    · obtain rfl : e = ⟨makeR id want, none, 0, 0⟩ := by simpa using he
      exact ⟨rfl, by simp [makeR], .inl rfl⟩
    · obtain rfl : i = 0 := by simpa using hi
      exact ⟨hbx.cell 0 rfl, hbx.cell 1 rfl, hbx.cell 2 rfl, hbx.cell 3 rfl, hbx.cell 4 rfl, hbx.cell 5 rfl⟩
  have HKs : Hid (∀ r ∈ ([⟨makeR id want, none, 0, 0⟩] : List RE).map RE.r, idB r.id.data.toList = true ∧ kindB r.k r.n r.zs.length = true ∧ ∀ x ∈ r.zs, 0 ≤ x ∧ x ≤ 255) := fun r hr => by
    obtain rfl : r = makeR id want := by simpa using hr
    exact ⟨HKk.out.1, HKk.out.2.1, by simp [makeR]⟩
  have HWr : Hid (Calls Tryz.prog 21 #[.agg #[.slice a n ca, .slice a' n' ca', .int .i64 ep, .int .i64 nx, .slice ua un uc], .slice (some ⟨y1.heap.size, 0, none⟩) 1 1] y2 fun e w' => (∃ v, e = .returned v ∧ AnsS y2.heap.size (wroteX X ep nx.toNat [makeR id want]) Y ep (nx + 1) us' v w') ∧ Below y2.heap.size y2 w') :=
    implWritten_any a n ca X a' n' ca' Y ep nx ua un uc lo l (some ⟨y1.heap.size, 0, none⟩) 1 1 [⟨makeR id want, none, 0, 0⟩] us' y2 (HX.out _ HC2.out).1 (HX.out _ HC2.out).2.1 hn hn' HL.out.2.2.1 (HX.out _ HC2.out).2.2.1 HL.out.1 hul HL.out.2.1 (HX.out _ HC2.out).2.2.2.1 (HX.out _ HC2.out).2.2.2.2 HRow.out HSo.out HKs.out HKk.out.2.2.2 HKk.out.2.2.1
  clear hy2 hb2 hbx
  go_wp2_with fail
  rw [HE2.out]
  refine HWr.out.mono ?_
  rintro _ y3 ⟨⟨v, rfl, hv⟩, hb3⟩
  obtain ⟨b, cb, b', cb', va, vc, l', rfl, hs3, hm3⟩ := hv.get
  have HC3 : Hid (Below W2.heap.size W2 y3) := HC2.out.trans (hb3.mono HC2.out.size)
  obtain ⟨NN, hNN⟩ : ∃ NN, (wroteX X ep nx.toNat [makeR id want]).length = NN := ⟨_, rfl⟩
  obtain ⟨K, hK⟩ : ∃ K, us'.length = K := ⟨_, rfl⟩
  rw [hNN, hK] at hs3
  rw [hNN, hK]
  have HSt : Hid (StoAt y3 W2.heap.size b NN cb (wroteX X ep nx.toNat [makeR id want]) b' Y.length cb' Y va K vc l' ∧ l'.map UE.u = us') := ⟨hs3.low HC2.out.size, hm3⟩
  have HBw : Hid (Below w.heap.size w y3) := HB2.out.trans (HC3.out.mono HB2.out.size)
  obtain ⟨r0, r1, r2, r3, r4⟩ := (show _ ∧ _ ∧ _ ∧ _ ∧ _ from ⟨(HQ.out _ HC3.out).2.cell 0 rfl, (HQ.out _ HC3.out).2.cell 1 rfl, (HQ.out _ HC3.out).2.cell 2 rfl, (HQ.out _ HC3.out).2.cell 3 rfl, (HQ.out _ HC3.out).2.cell 4 rfl⟩)
  obtain ⟨f0, f1, f2, f3, f4⟩ := (show _ ∧ _ ∧ _ ∧ _ ∧ _ from ⟨(HQ.out _ HC3.out).2.frozen 0, (HQ.out _ HC3.out).2.frozen 1, (HQ.out _ HC3.out).2.frozen 2, (HQ.out _ HC3.out).2.frozen 3, (HQ.out _ HC3.out).2.frozen 4⟩)
  clear hv hs3 hm3 hb3 HQ HX HC1 HC2 HC3 hK hNN HWr HRow HE2 c0 c1 c2 c3 c4
  go_wp2_with fail
  refine bodyPost_ret (v := .tuple #[.agg #[.slice b NN cb, .slice b' Y.length cb', .int .i64 ep, .int .i64 (nx + 1), .slice va K vc], .int .i64 0]) (by simp [results, Tryz.f7, go_sem, r0, r1, r2, r3, r4]) rfl ?_
  refine ⟨?_, ?_⟩
  · rw [WAns, HRs.out]
    exact ⟨_, rfl, b, NN, cb, b', Y.length, cb', va, K, vc, l', rfl, (((((HSt.out.1.setLow (by omega) _).setLow (by omega) _).setLow (by omega) _).setLow (by omega) _).setLow (by omega) _).low (by omega), HSt.out.2⟩
  · exact ((((HBw.out.setCell (by dsimp only; omega) _).setCell (by dsimp only; omega) _).setCell (by dsimp only; omega) _).setCell (by dsimp only; omega) _).setCell (by dsimp only; omega) _

end Go.Proofs.YtogopmngbjkcjaaGreatDoor

namespace Go.Proofs.YtogopmngbjkcjaaGreatDoor
open Go.RowKit
set_option linter.unusedVariables false

set_option maxRecDepth 10000 in
set_option maxHeartbeats 3200000 in
theorem implUpFor_any (a : Option Addr) (n ca : Nat) (X : List ByteArray) (a' : Option Addr) (n' ca' : Nat) (Y : List ByteArray) (ep nx : Int) (ua : Option Addr) (un uc lo : Nat) (l : List UE) (id : ByteArray) (w : World) (h1 : Strs w a n X) (h2 : Strs w a' n' Y) (hn : n ≤ 1048576) (hn' : n' ≤ 1048576) (hzx : ∀ x ∈ X, x.size ≤ 1048576) (hu : UpRow w lo (.slice ua un uc) l) (hun : un = l.length) (hul : un ≤ 1048576) (hid : id.size ≤ maxLen) (hsl : SlOk a n ca) (ht : RecT w) (he : ErrN w) :
    Calls Tryz.prog 42 #[.agg #[.slice a n ca, .slice a' n' ca', .int .i64 ep, .int .i64 nx, .slice ua un uc], .string id] w fun e w' => e = .returned (.tuple #[.pointer (forP X Y ep nx (l.map UE.u) id ua), .int .i64 (forC X Y ep nx (l.map UE.u) id)]) ∧ Below w.heap.size w w' := by
  have hmm : maxLen < 9223372036854775808 := by decide
  obtain ⟨w0, hw0⟩ : ∃ w0, w.alloc (.cells #[.slice a n ca, .slice a' n' ca', .int .i64 ep, .int .i64 nx, .slice ua un uc] 29) = w0 := ⟨_, rfl⟩
  have HE : Hid (w.alloc (.cells #[.slice a n ca, .slice a' n' ca', .int .i64 ep, .int .i64 nx, .slice ua un uc] 29) = w0) := hw0
  have hB : Below w.heap.size w w0 := by rw [← hw0]; exact (Below.refl _ _).alloc (Nat.le_refl _) _
  have hQ : BoxN w0 w.heap.size 29 [.slice a n ca, .slice a' n' ca', .int .i64 ep, .int .i64 nx, .slice ua un uc] := by rw [← hw0]; exact BoxN.new _ _ _
  have HX : Hid (∀ W, Below w0.heap.size w0 W → BoxN W w.heap.size 29 [.slice a n ca, .slice a' n' ca', .int .i64 ep, .int .i64 nx, .slice ua un uc] ∧ Strs W a n X ∧ Strs W a' n' Y ∧ UpRow W lo (.slice ua un uc) l ∧ Below w.heap.size w W ∧ RecT W ∧ ErrN W) := fun W hb => by
    have hw : Below w.heap.size w W := hB.trans (hb.mono hB.size)
    exact ⟨hQ.stays hb, h1.below hw, h2.below hw, hu.stays hw, hw, ht.below hw, he.below hw⟩
  have HL : Hid (un = l.length ∧ (∀ x ∈ X, x.size ≤ 1048576) ∧ X.length = n) := ⟨hun, hzx, h1.1⟩
  have HA0 : Hid (Below w0.heap.size w0 w0) := Below.refl _ _
  clear hw0 h1 h2 hu hun hzx ht he hB hQ
  obtain ⟨c0, c1, c2, c3, c4⟩ := (show _ ∧ _ ∧ _ ∧ _ ∧ _ from ⟨(HX.out _ HA0.out).1.cell 0 rfl, (HX.out _ HA0.out).1.cell 1 rfl, (HX.out _ HA0.out).1.cell 2 rfl, (HX.out _ HA0.out).1.cell 3 rfl, (HX.out _ HA0.out).1.cell 4 rfl⟩)
  go_enter Tryz.func42, Tryz.ntmps42
  go_upto_region 1 with fail
  rw [HE.out]
  clear HE
  go_wp2_with fail
  refine (implSok_any a n ca X a' n' ca' Y ep nx ua un uc lo l w0 (HX.out _ HA0.out).2.1 (HX.out _ HA0.out).2.2.1 hn hn' HL.out.2.1 (HX.out _ HA0.out).2.2.2.1 HL.out.1 hul hsl (HX.out _ HA0.out).2.2.2.2.2.1 (HX.out _ HA0.out).2.2.2.2.2.2).mono ?_
  rintro _ y1 ⟨rfl, hb1⟩
  have HC1 : Hid (Below w0.heap.size w0 y1) := hb1
  obtain ⟨ok, hok⟩ : ∃ ok, decB (SOk X Y ep nx (l.map UE.u)) = ok := ⟨_, rfl⟩
  rw [hok]
  clear hb1 c0 c1 c2 c3 c4
  cases ok with
  | false =>
    have hno : ¬ (decB (SOk X Y ep nx (l.map UE.u)) = true ∧ idB id.data.toList = true) := fun h => by rw [hok] at h; simp at h
    clear hok
    have HRs : Hid (forP X Y ep nx (l.map UE.u) id ua = none ∧ forC X Y ep nx (l.map UE.u) id = 1) := for_form hno
    have HBw : Hid (Below w.heap.size w y1) := (HX.out _ HC1.out).2.2.2.2.1
    clear HX HC1
    go_wp2_with fail
    refine bodyPost_ret (v := .tuple #[.pointer (none), .int .i64 1]) (by simp [results, Tryz.f42, go_sem]) rfl ?_
    exact ⟨by rw [HRs.out.1, HRs.out.2], HBw.out⟩
  | true =>
  have HDb : Hid (decB (SOk X Y ep nx (l.map UE.u)) = true) := hok
  clear hok
  go_wp2_with fail
  refine (implId_any id y1 (by omega)).mono ?_
  rintro _ y2 ⟨rfl, hb2⟩
  have HC2 : Hid (Below w0.heap.size w0 y2) := HC1.out.trans (hb2.mono HC1.out.size)
  clear hb2 HC1
  cases hidB : idB id.data.toList with
  | false =>
    have hno : ¬ (decB (SOk X Y ep nx (l.map UE.u)) = true ∧ idB id.data.toList = true) := fun h => by rw [hidB] at h; simp at h
    clear hidB
    have HRs : Hid (forP X Y ep nx (l.map UE.u) id ua = none ∧ forC X Y ep nx (l.map UE.u) id = 1) := for_form hno
    have HBw : Hid (Below w.heap.size w y2) := (HX.out _ HC2.out).2.2.2.2.1
    clear HX HC2
    go_wp2_with fail
    refine bodyPost_ret (v := .tuple #[.pointer (none), .int .i64 1]) (by simp [results, Tryz.f42, go_sem]) rfl ?_
    exact ⟨by rw [HRs.out.1, HRs.out.2], HBw.out⟩
  | true =>
  have HId : Hid (idB id.data.toList = true) := hidB
  clear hidB
  obtain ⟨c0, c1, c2, c3, c4⟩ := (show _ ∧ _ ∧ _ ∧ _ ∧ _ from ⟨(HX.out _ HC2.out).1.cell 0 rfl, (HX.out _ HC2.out).1.cell 1 rfl, (HX.out _ HC2.out).1.cell 2 rfl, (HX.out _ HC2.out).1.cell 3 rfl, (HX.out _ HC2.out).1.cell 4 rfl⟩)
  go_wp2_with fail
  refine (implUpIn_any a n ca a' n' ca' ep nx ua un uc lo l id y2 (HX.out _ HC2.out).2.2.2.1 HL.out.1 (by omega)).mono ?_
  rintro _ y3 ⟨rfl, hb3⟩
  have HC3 : Hid (Below w0.heap.size w0 y3) := HC2.out.trans (hb3.mono HC2.out.size)
  clear hb3 HC2 c0 c1 c2 c3 c4
  cases hat : atU (l.map UE.u) id with
  | none =>
    rw [reachUO_none]
    have HRs : Hid (forP X Y ep nx (l.map UE.u) id ua = none ∧ forC X Y ep nx (l.map UE.u) id = 2) := for_none HDb.out HId.out hat
    have HBw : Hid (Below w.heap.size w y3) := (HX.out _ HC3.out).2.2.2.2.1
    clear HX HC3
    go_wp2_with fail
    refine bodyPost_ret (v := .tuple #[.pointer (none), .int .i64 2]) (by simp [results, Tryz.f42, go_sem]) rfl ?_
    exact ⟨by rw [HRs.out.1, HRs.out.2], HBw.out⟩
  | some k =>
  have hkl : k < l.length := by simpa using (atU_is hat).1
  obtain ⟨g, hg, _⟩ := (HX.out _ HC3.out).2.2.2.1.at HL.out.1 hkl
  have hre : reachUO ua (some k) = some ⟨g, k * 4, none⟩ := by rw [hg]; rfl
  have hfp := for_some (ua := ua) HDb.out HId.out hat
  rw [hre] at hfp ⊢
  clear hg hre
  have HRs : Hid (forP X Y ep nx (l.map UE.u) id ua = some ⟨g, k * 4, none⟩ ∧ forC X Y ep nx (l.map UE.u) id = 0) := hfp
  have HBw : Hid (Below w.heap.size w y3) := (HX.out _ HC3.out).2.2.2.2.1
  clear HX HC3
  go_wp2_with fail
  refine bodyPost_ret (v := .tuple #[.pointer (some ⟨g, k * 4, none⟩), .int .i64 0]) (by simp [results, Tryz.f42, go_sem]) rfl ?_
  exact ⟨by rw [HRs.out.1, HRs.out.2], HBw.out⟩

end Go.Proofs.YtogopmngbjkcjaaGreatDoor

namespace Go.Proofs.YtogopmngbjkcjaaGreatDoor
open Go.RowKit
set_option linter.unusedVariables false

theorem fold_fit {rs : List R} : ∀ {us us' : List U}, (∀ u ∈ us, UFit u) → (∀ r ∈ rs, r.ok = true) → rs.foldlM oneU us = some us' → ∀ u ∈ us', UFit u := by
  induction rs with
  | nil =>
    intro us us' h1 _ h
    obtain rfl : us = us' := by simpa using h
    exact h1
  | cons r rs ih =>
    intro us us' h1 hr h
    rw [List.foldlM_cons] at h
    cases ho : oneU us r with
    | none => rw [ho] at h; cases h
    | some u1 =>
      rw [ho] at h
      have hrn := okRec_iff (hr r (List.mem_cons_self ..))
      exact ih (oneU_fit (by omega) ho h1) (fun x hx => hr x (List.mem_cons_of_mem _ hx)) h

theorem SOk.fitsU {X Y : List ByteArray} {ep nx : Int} {us : List U} (h : SOk X Y ep nx us) : ∀ u ∈ us, UFit u :=
  fold_fit (us := []) (by simp) (fun r hr => scan_allok X r hr) h.2.2.1

theorem fit_no {u : U} {off : Int} {d : Nat} (h : fitB u off d = false) (hw : 0 ≤ u.want ∧ u.want ≤ 1000000000) : u.done = true ∨ off ≠ (u.zs.length : Int) ∨ u.want < off + (d : Int) := by
  by_cases h1 : u.done = true
  · exact .inl h1
  by_cases h2 : off = (u.zs.length : Int)
  case neg => exact .inr (.inl h2)
  refine .inr (.inr ?_)
  have h3 : u.done = false := by simpa using h1
  rw [fitB, h3] at h
  simp at h
  omega

theorem fit_yes {u : U} {off : Int} {d : Nat} (h : fitB u off d = true) : ¬ (u.done = true ∨ off ≠ (u.zs.length : Int) ∨ u.want < off + (d : Int)) := by
  rw [fitB] at h
  simp at h
  rintro (h1 | h1 | h1)
  · rw [h1] at h; simp at h
  · exact h1 (by omega)
  · omega

end Go.Proofs.YtogopmngbjkcjaaGreatDoor

namespace Go.Proofs.YtogopmngbjkcjaaGreatDoor
open Go.RowKit
set_option linter.unusedVariables false

variable {F : Fence} {n : Nat} {P : Program}

/-- The two blocks of a loop: its record at l; at D the list of calls put off, which is empty. -/
def TwoL (l D : Nat) (r : Loop) (W : World) : Prop := W.heap[l]? = some (.loop r) ∧ W.heap[D]? = some (.deferred (some []))

theorem TwoL.keep {B l D : Nat} {r : Loop} {W V : World} (h : TwoL l D r W) (hl : B ≤ l) (hD : B ≤ D) (k : KeepsFrom B W V) : TwoL l D r V := ⟨k.same _ _ hl h.1 rfl, k.same _ _ hD h.2 rfl⟩

theorem TwoL.turn {l D : Nat} {r : Loop} {W : World} (h : TwoL l D r W) (hne : l ≠ D) (q : Loop) : TwoL l D q (W.putObj l (.loop q)) :=
  ⟨World.putObj_heap_same (Array.getElem?_eq_some_iff.1 h.1).1, (World.putObj_heap_other (by omega)).trans h.2⟩

/-- How a round's body is left: it goes on with G, or it jumps by c with X c. -/
def leaves (B : Nat) (W : World) (G : World → Prop) (X : Code → World → Prop) : Exit → Act → World → Prop
  | .normal, _, V => KeepsFrom B W V ∧ G V
  | .ret, _, V => KeepsFrom B W V ∧ X .ret V
  | .exit i, _, V => KeepsFrom B W V ∧ X (.exit i) V
  | .goto t, _, V => KeepsFrom B W V ∧ X (.goto t) V
  | .panic _, _, _ => False
  | .outgrown, _, _ => False

/-- One round, from its body's walk. -/
theorem round_turn {m l D B : Nat} {r : Loop} {args : Array Value} {W : World} {G : World → Prop} {X : Code → World → Prop} {a1 : Act} (hF : F.fn r.fn) (hst : r.state = .ready) (hpe : r.pending = none) (h : TwoL l D r W) (hne : l ≠ D) (hl : B ≤ l) (hD : B ≤ D) (hs : args.size = r.params.size)
    (hassign : ∀ K : Act → World → Prop, K a1 W → r.assign.wpIn (F.inRound l) m P (Exit.then K (fun _ _ _ => False)) { tmps := (r.params.zip args).foldl (fun t (p, v) => t.setIfInBounds p v) r.tmps, defers := [] } W)
    (hbody : r.body.wpIn (F.inRound l) m P (leaves B (W.putObj l (.loop { r with state := .busy })) G X) a1 (W.putObj l (.loop { r with state := .busy }))) :
    YieldAt F m P l args W fun e W' => (e = .returned (.bool true) ∧ ∃ V, G V ∧ TwoL l D { r with state := .busy } V ∧ W' = V.putObj l (.loop r)) ∨
      (e = .returned (.bool false) ∧ ∃ c V, X c V ∧ TwoL l D { r with state := .busy } V ∧ W' = V.putObj l (.loop { r with state := .done, pending := some c })) := by
  have hb := h.turn hne { r with state := .busy }
  have er : ({ r with state := .ready, pending := none } : Loop) = r := by cases r; simp only at hst hpe; subst hst hpe; rfl
  have out : ∀ (c : Code) (V : World), KeepsFrom B (W.putObj l (.loop { r with state := .busy })) V → X c V → ∃ v W', (Instr.endRound l (some c)).run P V = .ok v W' ∧
      ((Ending.returned v = .returned (.bool true) ∧ ∃ V, G V ∧ TwoL l D { r with state := .busy } V ∧ W' = V.putObj l (.loop r)) ∨
       (Ending.returned v = .returned (.bool false) ∧ ∃ c V, X c V ∧ TwoL l D { r with state := .busy } V ∧ W' = V.putObj l (.loop { r with state := .done, pending := some c }))) := fun c V k x =>
    ⟨_, _, run_endRound (some c) (hb.keep hl hD k).1, .inr ⟨rfl, c, V, x, hb.keep hl hD k, rfl⟩⟩
  refine ⟨r.fn, _, r.assign, r.body, run_yield h.1 hs, roundIn_of_wpIn hF (hassign _ ⟨_, run_beginRound h.1 hst, wpIn_mono hbody ?_⟩)⟩
  intro e a3 V hV
  cases e with
  | normal => exact ⟨_, _, run_endRound none (hb.keep hl hD hV.1).1, .inl ⟨rfl, V, hV.2, hb.keep hl hD hV.1, congrArg (fun q => V.putObj l (.loop q)) er⟩⟩
  | ret => exact out _ V hV.1 hV.2
  | exit i => exact out _ V hV.1 hV.2
  | goto t => exact out _ V hV.1 hV.2
  | panic c => exact hV.elim
  | outgrown => exact hV.elim

/-- What the iterator owes: begun with Ib, handed rounds that may be entered from I0 s and leave I1 s (go on) or Ix c s (stop), it returns; it ended by itself with Ie s, or a round was left. L0, L1: the loop's own blocks, which abide whatever keeps what is no cells. -/
def Iter {σ : Type} (F : Fence) (n : Nat) (P : Program) (B gf : Nat) (lb : Array Value) (enc : σ → Array Value) (I0 I1 : σ → World → Prop) (Ix : Code → σ → World → Prop) (Ie : σ → World → Prop) (Ib : World → Prop) : Prop :=
  ∀ (l : Nat) (L0 : World → Prop) (L1 : Code → World → Prop), (∀ V V', L0 V → KeepsFrom B V V' → L0 V') → (∀ c V V', L1 c V → KeepsFrom B V V' → L1 c V') →
    (∀ s W, I0 s W → L0 W → YieldAt F (n - 1) P l (enc s) W fun e W' => (e = .returned (.bool true) ∧ I1 s W' ∧ L0 W') ∨ (e = .returned (.bool false) ∧ ∃ c, Ix c s W' ∧ L1 c W')) →
    ∀ W, Ib W → L0 W → CallsIn F n P gf (#[.func (.yield l) #[] #[]] ++ lb) W fun e W' => (∃ v, e = .returned v) ∧ ((∃ s, Ie s W' ∧ L0 W') ∨ ∃ c s, Ix c s W' ∧ L1 c W')

theorem loop_turns {σ : Type} {g : Operand} {ps : Array Tmp} {assign body : Code} {Q : Exit → Act → World → Prop} {a : Act} {w : World}
    (hro : F.round = none) (h1 : 1 ≤ n) {gf : Nat} {lb : Array Value} (hg : a.eval g = .func (.func gf) #[] lb) (hFg : F.fn gf) (eg : ∀ args w, (callFunc gf args).run P w = .ok (.enter gf args) w)
    (enc : σ → Array Value) (hps : ∀ s, (enc s).size = ps.size) (I0 I1 : σ → World → Prop) (Ix : Code → σ → World → Prop) (Ie : σ → World → Prop) (Ib : World → Prop)
    (hiter : Iter F (n - 1) P w.heap.size gf lb enc I0 I1 Ix Ie Ib)
    (o0 : OwnFrom w.heap.size I0) (o1 : OwnFrom w.heap.size I1) (ox : ∀ c, OwnFrom w.heap.size (Ix c)) (oe : OwnFrom w.heap.size Ie) (ob : OwnFrom w.heap.size (fun (_ : Unit) W => Ib W)) (hs0 : Ib w) (a₁ : σ → Act)
    (hassign : ∀ (l : Nat) (s : σ) (W : World) (K : Act → World → Prop), K (a₁ s) W → assign.wpIn (F.inRound l) (n - 1 - 1) P (Exit.then K (fun _ _ _ => False)) { tmps := (ps.zip (enc s)).foldl (fun t (p, v) => t.setIfInBounds p v) a.tmps, defers := [] } W)
    (hbody : ∀ (l : Nat) (s : σ) (W : World), I0 s W → body.wpIn (F.inRound l) (n - 1 - 1) P (leaves w.heap.size W (I1 s) (fun c => Ix c s)) (a₁ s) W)
    (hdone : ∀ (D : Nat) (s : σ) (W : World), w.heap.size ≤ D → Ie s W → W.heap[D]? = some (.deferred (some [])) → Q .normal { a with defers := { target := .collected D, args := #[] } :: a.defers } W)
    (hstop : ∀ (D : Nat) (c : Code) (s : σ) (W : World), w.heap.size ≤ D → Ix c s W → W.heap[D]? = some (.deferred (some [])) → c.wpIn F n P Q { a with defers := { target := .collected D, args := #[] } :: a.defers } W) :
    (Code.rangeFunc g ps assign body).wpIn F n P Q a w := by
  refine wpIn_rangeFunc fun fn hfn => ?_
  rw [hro]
  obtain ⟨r, hr⟩ : ∃ r : Loop, ({ state := .ready, pending := none, fn, tmps := a.tmps, params := ps, assign, body, defers := w.heap.size } : Loop) = r := ⟨_, rfl⟩
  have hen := run_enterLoop_outer (P := P) (w := w) fn a.tmps ps assign body
  rw [hr] at hen
  have t1 : TwoL (w.heap.size + 1) w.heap.size r ((w.alloc (.deferred (some []))).alloc (.loop r)) := by
    refine ⟨?_, (Below.heap_alloc _ _ _ (by simp)).trans (World.alloc_heap_new w _)⟩
    have := World.alloc_heap_new (w.alloc (.deferred (some []))) (.loop r)
    rwa [World.size_alloc] at this
  obtain ⟨W1, hW⟩ : ∃ W1, (w.alloc (.deferred (some []))).alloc (.loop r) = W1 := ⟨_, rfl⟩
  have hs1 : Ib W1 := by rw [← hW]; exact ob.alloc (s := ()) _ (ob.alloc (s := ()) _ hs0)
  rw [hW] at hen t1
  refine ⟨w.heap.size + 1, [{ target := .collected w.heap.size, args := #[] }], W1, { target := .fn (.func gf) lb, args := #[.func (.yield (w.heap.size + 1)) #[] #[]] }, W1, gf, #[.func (.yield (w.heap.size + 1)) #[] #[]] ++ lb, W1, hen, ?_, ?_, ?_, fun _ => h1, ?_⟩
  · simp only [resolve, hg]
    simp [go_sem]
  · intro f' hf'
    simp [Target.leads] at hf'
    exact hf' ▸ hFg
  · simp [invoke, go_sem, eg]
  · refine (hiter (w.heap.size + 1) (TwoL (w.heap.size + 1) w.heap.size r) (fun c => TwoL (w.heap.size + 1) w.heap.size { r with state := .done, pending := some c })
      (fun V V' h k => h.keep (by omega) (Nat.le_refl _) k) (fun c V V' h k => h.keep (by omega) (Nat.le_refl _) k) ?_ W1 hs1 t1).mono ?_
    · intro s W hi ht
      have hb : I0 s (W.putObj (w.heap.size + 1) (.loop { r with state := .busy })) := o0.putObj _ hi (by omega) ht.1 rfl
      obtain ⟨fn', tm, asg, bo, hy, hR⟩ := round_turn (P := P) (m := n - 1 - 1) (B := w.heap.size) (a1 := a₁ s) (args := enc s) (G := I1 s) (X := fun c => Ix c s) (by rw [← hr]; exact hfn) (by rw [← hr]) (by rw [← hr]) ht (by omega) (by omega) (Nat.le_refl _) (by rw [← hr]; exact hps s)
        (by rw [← hr]; exact fun K hK => hassign _ s W K hK) (by have := hbody (w.heap.size + 1) s _ hb; rw [← hr]; rw [← hr] at this; exact this)
      refine ⟨fn', tm, asg, bo, hy, hR.mono ?_⟩
      rintro e W' (⟨rfl, V, hG, hT, rfl⟩ | ⟨rfl, c, V, hX, hT, rfl⟩)
      · exact .inl ⟨rfl, o1.putObj _ hG (by omega) hT.1 rfl, hT.turn (by omega) _⟩
      · exact .inr ⟨rfl, c, (ox c).putObj _ hX (by omega) hT.1 rfl, hT.turn (by omega) _⟩
    · rintro e W' ⟨⟨v, rfl⟩, ⟨s, hi, ht⟩ | ⟨c, s, hi, ht⟩⟩
      · refine ⟨_, _, run_endLoop ht.1 (by rw [← hr]; simp), ?_⟩
        have := hdone w.heap.size s _ (Nat.le_refl _) (oe.putObj (.loop { r with state := .exhausted }) hi (by omega) ht.1 rfl) ((World.putObj_heap_other (by omega)).trans ht.2)
        rw [← hr] at this ⊢
        exact this
      · refine ⟨_, _, run_endLoop ht.1 (by simp), ?_⟩
        exact hstop w.heap.size c s _ (Nat.le_refl _) ((ox c).putObj _ hi (by omega) ht.1 rfl) ((World.putObj_heap_other (by omega)).trans ht.2)

end Go.Proofs.YtogopmngbjkcjaaGreatDoor

namespace Go.Proofs.YtogopmngbjkcjaaGreatDoor
open Go.RowKit Go.Shelf
set_option linter.unusedVariables false
attribute [local go_sem] Oper.semAt_some

/-- Where the piece k begins. -/
def pcAt (o m k : Nat) : Nat := o + k * m

/-- How long the piece k is. -/
def pcLen (m L k : Nat) : Nat := min m (L - k * m)

/-- What a round is handed: the piece k. -/
abbrev encC (b o m L k : Nat) : Array Value := #[.slice (some ⟨b, pcAt o m k, none⟩) (pcLen m L k) (pcLen m L k)]

set_option maxRecDepth 100000 in
set_option maxHeartbeats 1000000 in
theorem chunk_iter (n B Bs Bn b o L C m : Nat) (hn : 1 ≤ n) (hL : L ≤ 1048576) (hLC : L ≤ C) (hm1 : 1 ≤ m) (hm2 : m ≤ 1000) (I0 I1 : Nat → World → Prop) (Ix : Code → Nat → World → Prop) (Ie : Nat → World → Prop) (Ib : World → Prop)
    (hb : ∀ W, Ib W → Boxed W Bs 22 (.slice (some ⟨b, o, none⟩) L C) ∧ Boxed W Bn 3 (.int .i64 m) ∧ (0 < L → I0 0 W) ∧ (¬ 0 < L → Ie 0 W))
    (hd : ∀ k W, I0 k W → I0 k W.drew)
    (h0 : ∀ k W, I0 k W → Boxed W Bs 22 (.slice (some ⟨b, o, none⟩) L C) ∧ Boxed W Bn 3 (.int .i64 m))
    (h1 : ∀ k W, I1 k W → Boxed W Bs 22 (.slice (some ⟨b, o, none⟩) L C) ∧ Boxed W Bn 3 (.int .i64 m) ∧ ((k + 1) * m < L → I0 (k + 1) W) ∧ (¬ (k + 1) * m < L → Ie 0 W)) :
    Iter Fence.wide n Tryz.prog B 72 #[.pointer (some ⟨Bs, 0, none⟩), .pointer (some ⟨Bn, 0, none⟩)] (encC b o m L) I0 I1 Ix Ie Ib := by
  intro l L0 L1 k0 k1 hY W hi hl0
  obtain ⟨hbs, hbn, hi0, hi1⟩ := hb W hi
  clear hb hi
  refine callsIn_of_wp Tryz.func72 rfl trivial ?_ rfl
  simp only [Tryz.ntmps72, List.size_toArray, List.length_cons, List.length_nil, Nat.reduceAdd, Nat.reduceSub, Array.replicate_succ, Array.replicate_zero, List.push_toArray, List.append_toArray, List.nil_append, List.cons_append]
  gi_wp2
  gi_loopw [4] (fun i wr => ∃ k F : Nat, i = .int .i64 (F : Int) ∧ F ≤ L + 1000 ∧ Hid (F = k * m) ∧ Hid (Boxed wr Bs 22 (.slice (some ⟨b, o, none⟩) L C) ∧ Boxed wr Bn 3 (.int .i64 m)) ∧ Hid ((F < L → I0 k wr) ∧ (¬ F < L → Ie 0 wr) ∧ L0 wr)) (fun i _ => L + 1000 - (intOf i).toNat)
  case atStart => exact ⟨0, 0, rfl, by omega, by show _ = _; omega, ⟨hbs, hbn⟩, hi0, hi1, hl0⟩
  case round =>
    clear hi0 hi1 hl0 hbs hbn
    obtain ⟨k, F, rfl, hFb, HF, HBx, HI⟩ := hrel
    have hFi : (F : Int) ≤ 1049576 := by omega
    have c1 := HBx.out.1.cell
    have c2 := HBx.out.2.cell
    by_cases hlt : F < L
    · have hs := HI.out.1 hlt
      have hlL := HI.out.2.2
      obtain ⟨fn, tmps, assign, body, hy, hR⟩ := hY _ wr.drew (hd _ _ hs) (k0 _ _ hlL ⟨Nat.le_refl _, fun _ _ _ h _ => h⟩)
      obtain ⟨e, he⟩ : ∃ e : Nat, min m (L - F) = e := ⟨_, rfl⟩
      have he1 : 1 ≤ e ∧ e ≤ 1000 ∧ F + e ≤ L := by omega
      have hx1 : pcAt o m k = o + F := by rw [pcAt, HF.out]
      have hx2 : pcLen m L k = e := by rw [pcLen, ← HF.out, he]
      simp only [encC, hx1, hx2] at hy
      have HS := (show Hid _ from hs)
      have HLL := (show Hid _ from hlL)
      have HY1 : Hid ((k + 1) * m = F + m) := by show _ = _; rw [HF.out, Nat.add_mul, Nat.one_mul]
      have qn : ∀ w : World, (Builtin.min_ #[3, 3] 3 #[.int .i64 m, .int .i64 ((L - F : Nat) : Int)]).run Tryz.prog w = .ok (.int .i64 e) w := fun w => by
        rw [run_min_int2]
        congr 2
        rw [← he]
        split <;> omega
      have hFL : (F : Int) < (L : Int) := by omega
      have hFC : (F : Int) ≤ (C : Int) := by omega
      have hCF : ¬ C = F := by omega
      have hei : (F : Int) + (e : Int) ≤ (C : Int) := by omega
      have hen : ((F + e : Nat) : Int) = (F : Int) + (e : Int) := by omega
      have hFe : F + e - F = e := by omega
      have hmx : Tryz.prog.follows .mixedOrders = true := by kernel_rfl
      clear hs hlL hx1 hx2 he
      gi_wp2
      gi_region_with_o fail
      all_goals
        gi_wp2
        refine hR.mono ?_
        clear hR hy qn c1 c2 hCF
        rintro e3 W3 (⟨rfl, h3, l3⟩ | ⟨rfl, c, h3, l3⟩)
        · obtain ⟨j1, j2, j3, j4⟩ := h1 _ _ h3
          rw [HY1.out] at j3 j4
          have c1 := j1.cell
          have c2 := j2.cell
          have HJ : Hid ((F + m < L → I0 (k + 1) W3) ∧ (¬ F + m < L → Ie 0 W3) ∧ L0 W3) := ⟨j3, j4, l3⟩
          have HX : Hid (Boxed W3 Bs 22 (.slice (some ⟨b, o, none⟩) L C) ∧ Boxed W3 Bn 3 (.int .i64 m)) := ⟨j1, j2⟩
          clear j1 j2 j3 j4 h3 l3
          gi_wp2
          go_roundw
          case rel => exact ⟨k + 1, F + m, by go_num, by omega, HY1.out.symm, HX, HJ⟩
          case measure => simp [intOf]; omega
        · gi_wp2
          refine bodyPost_ret (results_none rfl _ _ _) rfl ?_
          exact ⟨⟨_, rfl⟩, .inr ⟨c, _, h3, l3⟩⟩
    · have hnl : ¬ (F : Int) < (L : Int) := by omega
      have he := HI.out.2.1 hlt
      have hlL := HI.out.2.2
      gi_wp2
      go_end0
      exact ⟨⟨_, rfl⟩, .inl ⟨⟨_, he⟩, hlL⟩⟩

set_option maxHeartbeats 400000 in
theorem chunk_any (a : Option Addr) (len cap m : Nat) (w : World) (n : Nat) (hm : 1 ≤ m) :
    CallsIn Fence.wide n Tryz.prog 44 #[.slice a len cap, .int .i64 m] w fun e w' => e = .returned (.func (.func 72) #[] #[.pointer (some ⟨w.heap.size, 0, none⟩), .pointer (some ⟨w.heap.size + 1, 0, none⟩)]) ∧ w' = (w.alloc (.cells #[.slice a len cap] 22)).alloc (.cells #[.int .i64 m] 3) := by
  have hmi : ¬ (m : Int) < 1 := by omega
  refine callsIn_of_wp Tryz.func44 rfl trivial ?_ rfl
  simp only [Tryz.ntmps44, List.size_toArray, List.length_cons, List.length_nil, Nat.reduceAdd, Nat.reduceSub, Array.replicate_succ, Array.replicate_zero, List.push_toArray, List.append_toArray, List.nil_append, List.cons_append]
  gi_wp2
  go_ret
  exact ⟨rfl, rfl⟩

end Go.Proofs.YtogopmngbjkcjaaGreatDoor
