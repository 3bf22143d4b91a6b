/- What the program's DoneUp answers. The law that what is put into a drawn store is behind what there was; with its sum, once it is whole, it is done; all else is as it was; under its table and its error. -/
import Derived.Test.YtjaihnmhojabfaaGreatDoorK04
import Derived.Test.YtjaihnmhojabfaaGreatDoorM42
import Derived.Test.YtjaihnmhojabfaaGreatDoorM44
import Derived.Test.YtjaihnmhojabfaaGreatDoorM22
import Derived.Test.YtjaihnmhojabfaaGreatDoorK01
import Derived.Test.YtjaihnmhojabfaaGreatDoorK01
import Derived.Test.YtjaihnmhojabfaaGreatDoorM41
import Derived.Test.YtjaihnmhojabfaaGreatDoorM45
import Derived.Test.YtjaihnmhojabfaaGreatDoorM24
import Derived.Test.YtjaihnmhojabfaaGreatDoorM10
import Derived.Test.YtjaihnmhojabfaaGreatDoorM45
import Derived.BigQuiet
import Derived.Deep.RegionHeld3
namespace Go.Proofs.YtjaihnmhojabfaaGreatDoor
open Go.RowKit
set_option linter.unusedVariables false

set_option maxRecDepth 10000 in
set_option maxHeartbeats 3200000 in
theorem implDoneUp_any (a : Option Addr) (n ca : Nat) (X : List ByteArray) (a' : Option Addr) (n' ca' : Nat) (Y : List ByteArray) (ep nx : Int) (ua : Option Addr) (un uc lo : Nat) (l : List UE) (id : ByteArray) (sum : Int) (w : World) (h1 : Strs w a n X) (h2 : Strs w a' n' Y) (hn : n ≤ 1048576) (hn' : n' ≤ 1048576) (hzx : ∀ x ∈ X, x.size ≤ 1048576) (hu : UpRow w lo (.slice ua un uc) l) (hun : un = l.length) (hul : un ≤ 1048576) (hz : ∀ e ∈ l, e.n ≤ 1099511627776) (hid : id.size ≤ maxLen) (hsl : SlOk a n ca) (ht : RecT w) (he : ErrN w) :
    Calls Tryz.prog 18 #[.agg #[.slice a n ca, .slice a' n' ca', .int .i64 ep, .int .i64 nx, .slice ua un uc], .string id, .int .i64 sum] w fun e w' => WAns w.heap.size Y ep (doneI X Y ep nx (l.map UE.u) id sum) e w' ∧ Below w.heap.size w w' := by
  have hmm : maxLen < 9223372036854775808 := by decide
  obtain ⟨W2, hW2⟩ : ∃ W2, (w.alloc (.cells #[.slice a n ca, .slice a' n' ca', .int .i64 ep, .int .i64 nx, .slice ua un uc] 29)).alloc (.cells #[.slice none 0 0, .slice none 0 0, .int .i64 0, .int .i64 0, .slice none 0 0] 29) = W2 := ⟨_, rfl⟩
  have HE : Hid ((w.alloc (.cells #[.slice a n ca, .slice a' n' ca', .int .i64 ep, .int .i64 nx, .slice ua un uc] 29)).alloc (.cells #[.slice none 0 0, .slice none 0 0, .int .i64 0, .int .i64 0, .slice none 0 0] 29) = W2) := hW2
  have HB2 : Hid (Below w.heap.size w W2) := by show Below _ _ _; rw [← hW2]; exact ((Below.refl _ _).alloc (Nat.le_refl _) _).alloc (by simp) _
  have q1 : BoxN W2 w.heap.size 29 [.slice a n ca, .slice a' n' ca', .int .i64 ep, .int .i64 nx, .slice ua un uc] := by rw [← hW2]; exact (BoxN.new _ _ _).alloc _
  have q2 : BoxN W2 (w.heap.size + 1) 29 [.slice none 0 0, .slice none 0 0, .int .i64 0, .int .i64 0, .slice none 0 0] := by
    rw [← hW2]
    have := BoxN.new (w.alloc (.cells #[.slice a n ca, .slice a' n' ca', .int .i64 ep, .int .i64 nx, .slice ua un uc] 29)) 29 [.slice none 0 0, .slice none 0 0, .int .i64 0, .int .i64 0, .slice none 0 0]
    rwa [World.size_alloc] at this
  have HQ : Hid (∀ W, Below W2.heap.size W2 W → BoxN W w.heap.size 29 [.slice a n ca, .slice a' n' ca', .int .i64 ep, .int .i64 nx, .slice ua un uc] ∧ BoxN W (w.heap.size + 1) 29 [.slice none 0 0, .slice none 0 0, .int .i64 0, .int .i64 0, .slice none 0 0]) := fun W h => ⟨q1.stays h, q2.stays h⟩
  have HX : Hid (∀ W, Below W2.heap.size W2 W → Strs W a n X ∧ Strs W a' n' Y ∧ UpRow W lo (.slice ua un uc) l ∧ RecT W ∧ ErrN W) := fun W h => by
    have hw := HB2.out.trans (h.mono HB2.out.size)
    exact ⟨h1.below hw, h2.below hw, hu.stays hw, ht.below hw, he.below hw⟩
  have HL : Hid (un = l.length ∧ (∀ e ∈ l, e.n ≤ 1099511627776) ∧ (∀ x ∈ X, x.size ≤ 1048576) ∧ X.length = n) := ⟨hun, hz, hzx, h1.1⟩
  have hs2 : w.heap.size + 1 < W2.heap.size := q2.lt
  clear hW2 q1 q2 h1 h2 hu hun hz hzx ht he
  have HA0 : Hid (Below W2.heap.size W2 W2) := Below.refl _ _
  obtain ⟨c0, c1, c2, c3, c4⟩ := (show _ ∧ _ ∧ _ ∧ _ ∧ _ from ⟨(HQ.out _ HA0.out).1.cell 0 rfl, (HQ.out _ HA0.out).1.cell 1 rfl, (HQ.out _ HA0.out).1.cell 2 rfl, (HQ.out _ HA0.out).1.cell 3 rfl, (HQ.out _ HA0.out).1.cell 4 rfl⟩)
  go_enter Tryz.func18, Tryz.ntmps18
  go_upto_region 1 with fail
  rw [HE.out]
  clear HE
  go_wp2_with fail
  refine (implDoneC_any a n ca X a' n' ca' Y ep nx ua un uc lo l id sum W2 (HX.out _ HA0.out).1 (HX.out _ HA0.out).2.1 hn hn' HL.out.2.2.1 (HX.out _ HA0.out).2.2.1 HL.out.1 hul hid hsl (HX.out _ HA0.out).2.2.2.1 (HX.out _ HA0.out).2.2.2.2).mono ?_
  rintro _ y1 ⟨rfl, hb1⟩
  have HC1 : Hid (Below W2.heap.size W2 y1) := hb1
  clear hb1 c0 c1 c2 c3 c4
  obtain ⟨cc, hcc⟩ : ∃ cc, (doneI X Y ep nx (l.map UE.u) id sum).c = cc := ⟨_, rfl⟩
  rw [hcc]
  obtain ⟨c0, c1, c2, c3, c4⟩ := (show _ ∧ _ ∧ _ ∧ _ ∧ _ from ⟨(HQ.out _ HC1.out).1.cell 0 rfl, (HQ.out _ HC1.out).1.cell 1 rfl, (HQ.out _ HC1.out).1.cell 2 rfl, (HQ.out _ HC1.out).1.cell 3 rfl, (HQ.out _ HC1.out).1.cell 4 rfl⟩)
  by_cases h0 : cc = 0
  case neg =>
    have HRs : Hid (doneI X Y ep nx (l.map UE.u) id sum = ⟨X, nx, l.map UE.u, cc⟩) := by
      show _ = _
      have h9 : (doneI X Y ep nx (l.map UE.u) id sum).c ≠ 0 := by rw [hcc]; exact h0
      rw [← hcc]
      exact doneI_no h9
    have hd0 : (cc != 0) = true := by simpa using h0
    clear hcc h0
    go_wp2_with fail
    refine (implScopy_any a n ca X a' n' ca' Y ep nx ua un uc lo l y1 (HX.out _ HC1.out).1 (HX.out _ HC1.out).2.1 hn hn' (HX.out _ HC1.out).2.2.1 HL.out.1 hul HL.out.2.1).mono ?_
    rintro _ y2 ⟨⟨v, rfl, hv⟩, hb2⟩
    obtain ⟨b, cb, b', cb', va, vc, l', rfl, hs2', hm2⟩ := hv.get
    have HC2 : Hid (Below W2.heap.size W2 y2) := HC1.out.trans (hb2.mono HC1.out.size)
    have HSt : Hid (StoAt y2 W2.heap.size b X.length cb X b' Y.length cb' Y va (l.map UE.u).length vc l' ∧ l'.map UE.u = l.map UE.u) := ⟨hs2'.low HC1.out.size, hm2⟩
    have HBw : Hid (Below w.heap.size w y2) := HB2.out.trans (HC2.out.mono HB2.out.size)
    obtain ⟨K, hK⟩ : ∃ K, (l.map UE.u).length = K := ⟨_, rfl⟩
    rw [hK] at HSt ⊢
    obtain ⟨r0, r1, r2, r3, r4⟩ := (show _ ∧ _ ∧ _ ∧ _ ∧ _ from ⟨(HQ.out _ HC2.out).2.cell 0 rfl, (HQ.out _ HC2.out).2.cell 1 rfl, (HQ.out _ HC2.out).2.cell 2 rfl, (HQ.out _ HC2.out).2.cell 3 rfl, (HQ.out _ HC2.out).2.cell 4 rfl⟩)
    obtain ⟨f0, f1, f2, f3, f4⟩ := (show _ ∧ _ ∧ _ ∧ _ ∧ _ from ⟨(HQ.out _ HC2.out).2.frozen 0, (HQ.out _ HC2.out).2.frozen 1, (HQ.out _ HC2.out).2.frozen 2, (HQ.out _ HC2.out).2.frozen 3, (HQ.out _ HC2.out).2.frozen 4⟩)
    clear hv hs2' hm2 hb2 HQ HX HC1 HC2 hK c0 c1 c2 c3 c4
    go_wp2_with fail
    refine bodyPost_ret (v := .tuple #[.agg #[.slice b X.length cb, .slice b' Y.length cb', .int .i64 ep, .int .i64 nx, .slice va K vc], .int .i64 cc]) (by simp [results, Tryz.f18, go_sem, r0, r1, r2, r3, r4]) rfl ?_
    refine ⟨?_, ?_⟩
    · rw [WAns, HRs.out]
      exact ⟨_, rfl, b, X.length, cb, b', Y.length, cb', va, K, vc, l', rfl, (((((HSt.out.1.setLow (by omega) _).setLow (by omega) _).setLow (by omega) _).setLow (by omega) _).setLow (by omega) _).low (by omega), HSt.out.2⟩
    · exact ((((HBw.out.setCell (by dsimp only; omega) _).setCell (by dsimp only; omega) _).setCell (by dsimp only; omega) _).setCell (by dsimp only; omega) _).setCell (by dsimp only; omega) _
  subst h0
  obtain ⟨hso, hid', k, u, hat, hget, hdn⟩ := doneI_yes hcc
  have hkl : k < l.length := by simpa using (atU_is hat).1
  obtain ⟨g, hg, -⟩ := (HX.out _ HC1.out).2.2.1.at HL.out.1 hkl
  have hre : reachUO ua (some k) = some ⟨g, k * 4, none⟩ := by rw [hg]; rfl
  have huk : (l[k]).u = u := by
    rw [List.getElem?_map, List.getElem?_eq_getElem hkl] at hget
    simpa using hget
  have HDn : Hid (∀ W, Below W2.heap.size W2 W → W.cell? ⟨g, k * 4 + 3, none⟩ = some (.bool u.done)) := fun W h => by
    obtain ⟨g', hg', q0, q1, q2, q3, -⟩ := (HX.out _ h).2.2.1.at HL.out.1 hkl
    rw [hg] at hg'
    injection hg' with hg'
    injection hg' with hg'
    subst hg'
    rw [← huk]
    exact q3
  clear hg huk hkl hcc hget
  go_wp2_with fail
  refine (implUpIn_any a n ca a' n' ca' ep nx ua un uc lo l id y1 (HX.out _ HC1.out).2.2.1 HL.out.1 (by omega)).mono ?_
  rintro _ y1b ⟨rfl, hb1⟩
  rw [hat, hre]
  have HC1b : Hid (Below W2.heap.size W2 y1b) := HC1.out.trans (hb1.mono HC1.out.size)
  have c5 := HDn.out _ HC1b.out
  clear hb1 HC1 hat hre c0 c1 c2 c3 c4 HDn
  obtain ⟨c0, c1, c2, c3, c4⟩ := (show _ ∧ _ ∧ _ ∧ _ ∧ _ from ⟨(HQ.out _ HC1b.out).1.cell 0 rfl, (HQ.out _ HC1b.out).1.cell 1 rfl, (HQ.out _ HC1b.out).1.cell 2 rfl, (HQ.out _ HC1b.out).1.cell 3 rfl, (HQ.out _ HC1b.out).1.cell 4 rfl⟩)
  rcases hdn with ⟨hd, hmod⟩ | ⟨hd, hroom, hfo, hmod⟩
  · rw [hd] at c5
    have HRs : Hid (doneI X Y ep nx (l.map UE.u) id sum = ⟨X, nx, l.map UE.u, 0⟩) := hmod
    clear hmod hso hid'
    go_wp2_with fail
    refine (implScopy_any a n ca X a' n' ca' Y ep nx ua un uc lo l y1b (HX.out _ HC1b.out).1 (HX.out _ HC1b.out).2.1 hn hn' (HX.out _ HC1b.out).2.2.1 HL.out.1 hul HL.out.2.1).mono ?_
    rintro _ y2 ⟨⟨v, rfl, hv⟩, hb2⟩
    obtain ⟨b, cb, b', cb', va, vc, l', rfl, hs2', hm2⟩ := hv.get
    have HC2 : Hid (Below W2.heap.size W2 y2) := HC1b.out.trans (hb2.mono HC1b.out.size)
    have HSt : Hid (StoAt y2 W2.heap.size b X.length cb X b' Y.length cb' Y va (l.map UE.u).length vc l' ∧ l'.map UE.u = l.map UE.u) := ⟨hs2'.low HC1b.out.size, hm2⟩
    have HBw : Hid (Below w.heap.size w y2) := HB2.out.trans (HC2.out.mono HB2.out.size)
    obtain ⟨K, hK⟩ : ∃ K, (l.map UE.u).length = K := ⟨_, rfl⟩
    rw [hK] at HSt ⊢
    obtain ⟨r0, r1, r2, r3, r4⟩ := (show _ ∧ _ ∧ _ ∧ _ ∧ _ from ⟨(HQ.out _ HC2.out).2.cell 0 rfl, (HQ.out _ HC2.out).2.cell 1 rfl, (HQ.out _ HC2.out).2.cell 2 rfl, (HQ.out _ HC2.out).2.cell 3 rfl, (HQ.out _ HC2.out).2.cell 4 rfl⟩)
    obtain ⟨f0, f1, f2, f3, f4⟩ := (show _ ∧ _ ∧ _ ∧ _ ∧ _ from ⟨(HQ.out _ HC2.out).2.frozen 0, (HQ.out _ HC2.out).2.frozen 1, (HQ.out _ HC2.out).2.frozen 2, (HQ.out _ HC2.out).2.frozen 3, (HQ.out _ HC2.out).2.frozen 4⟩)
    clear hv hs2' hm2 hb2 HQ HX HC1b HC2 hK c0 c1 c2 c3 c4
    go_wp2_with fail
    refine bodyPost_ret (v := .tuple #[.agg #[.slice b X.length cb, .slice b' Y.length cb', .int .i64 ep, .int .i64 nx, .slice va K vc], .int .i64 0]) (by simp [results, Tryz.f18, go_sem, r0, r1, r2, r3, r4]) rfl ?_
    refine ⟨?_, ?_⟩
    · rw [WAns, HRs.out]
      exact ⟨_, rfl, b, X.length, cb, b', Y.length, cb', va, K, vc, l', rfl, (((((HSt.out.1.setLow (by omega) _).setLow (by omega) _).setLow (by omega) _).setLow (by omega) _).setLow (by omega) _).low (by omega), HSt.out.2⟩
    · exact ((((HBw.out.setCell (by dsimp only; omega) _).setCell (by dsimp only; omega) _).setCell (by dsimp only; omega) _).setCell (by dsimp only; omega) _).setCell (by dsimp only; omega) _
  rw [hd] at c5
  obtain ⟨us', hus⟩ : ∃ us', (l.map UE.u).set k { u with done := true } = us' := ⟨_, rfl⟩
  rw [hus] at hfo hmod
  clear hus
  have HRs : Hid (doneI X Y ep nx (l.map UE.u) id sum = ⟨wroteX X ep nx.toNat [doneR id], nx + 1, us', 0⟩) := hmod
  have HSo : Hid (SOk X Y ep nx (l.map UE.u)) := hso
  have HKk : Hid (idB id.data.toList = true ∧ kindB 3 0 0 = true ∧ [doneR id].foldlM oneU (l.map UE.u) = some us' ∧ nx + 1 ≤ (X.length : Int)) := ⟨hid', rfl, hfo, hroom⟩
  clear hso hid' hroom hfo hmod
  obtain ⟨y2, hy2⟩ : ∃ y2, y1b.alloc (.cells #[.int .i64 0, .int .i64 0, .int .i64 3, .string id, .int .i64 0, .slice none 0 0] 69) = y2 := ⟨_, rfl⟩
  have HE2 : Hid (y1b.alloc (.cells #[.int .i64 0, .int .i64 0, .int .i64 3, .string id, .int .i64 0, .slice none 0 0] 69) = y2) := hy2
  have hb2 : Below y1b.heap.size y1b y2 := by rw [← hy2]; exact (Below.refl _ _).alloc (Nat.le_refl _) _
  have hbx : BoxN y2 y1b.heap.size 69 [.int .i64 0, .int .i64 0, .int .i64 3, .string id, .int .i64 0, .slice none 0 0] := by rw [← hy2]; exact BoxN.new _ _ _
  have HC2 : Hid (Below W2.heap.size W2 y2) := HC1b.out.trans (hb2.mono HC1b.out.size)
  have HRow : Hid (RcsI y2 (some ⟨y1b.heap.size, 0, none⟩) 1 [⟨doneR id, none, 0, 0⟩]) := by
    refine ⟨rfl, fun e he => ?_, .inr ⟨y1b.heap.size, 0, rfl, hbx.lt, fun i hi => ?_⟩⟩
    · obtain rfl : e = ⟨doneR id, none, 0, 0⟩ := by simpa using he
      exact ⟨rfl, by simp [doneR], .inl rfl⟩
    · obtain rfl : i = 0 := by simpa using hi
      exact ⟨hbx.cell 0 rfl, hbx.cell 1 rfl, hbx.cell 2 rfl, hbx.cell 3 rfl, hbx.cell 4 rfl, hbx.cell 5 rfl⟩
  have HKs : Hid (∀ r ∈ ([⟨doneR id, none, 0, 0⟩] : List RE).map RE.r, idB r.id.data.toList = true ∧ kindB r.k r.n r.zs.length = true ∧ ∀ x ∈ r.zs, 0 ≤ x ∧ x ≤ 255) := fun r hr => by
    obtain rfl : r = doneR id := by simpa using hr
    exact ⟨HKk.out.1, HKk.out.2.1, by simp [doneR]⟩
  have HWr : Hid (Calls Tryz.prog 38 #[.agg #[.slice a n ca, .slice a' n' ca', .int .i64 ep, .int .i64 nx, .slice ua un uc], .slice (some ⟨y1b.heap.size, 0, none⟩) 1 1] y2 fun e w' => (∃ v, e = .returned v ∧ AnsS y2.heap.size (wroteX X ep nx.toNat [doneR id]) Y ep (nx + 1) us' v w') ∧ Below y2.heap.size y2 w') :=
    implWritten_any a n ca X a' n' ca' Y ep nx ua un uc lo l (some ⟨y1b.heap.size, 0, none⟩) 1 1 [⟨doneR id, none, 0, 0⟩] us' y2 (HX.out _ HC2.out).1 (HX.out _ HC2.out).2.1 hn hn' HL.out.2.2.1 (HX.out _ HC2.out).2.2.1 HL.out.1 hul HL.out.2.1 (HX.out _ HC2.out).2.2.2.1 (HX.out _ HC2.out).2.2.2.2 HRow.out HSo.out HKs.out HKk.out.2.2.2 HKk.out.2.2.1
  clear hy2 hb2 hbx
  go_wp2_with fail
  rw [HE2.out]
  refine HWr.out.mono ?_
  rintro _ y3 ⟨⟨v, rfl, hv⟩, hb3⟩
  obtain ⟨b, cb, b', cb', va, vc, l', rfl, hs3, hm3⟩ := hv.get
  have HC3 : Hid (Below W2.heap.size W2 y3) := HC2.out.trans (hb3.mono HC2.out.size)
  obtain ⟨NN, hNN⟩ : ∃ NN, (wroteX X ep nx.toNat [doneR id]).length = NN := ⟨_, rfl⟩
  obtain ⟨K, hK⟩ : ∃ K, us'.length = K := ⟨_, rfl⟩
  rw [hNN, hK] at hs3
  rw [hNN, hK]
  have HSt : Hid (StoAt y3 W2.heap.size b NN cb (wroteX X ep nx.toNat [doneR id]) b' Y.length cb' Y va K vc l' ∧ l'.map UE.u = us') := ⟨hs3.low HC2.out.size, hm3⟩
  have HBw : Hid (Below w.heap.size w y3) := HB2.out.trans (HC3.out.mono HB2.out.size)
  obtain ⟨r0, r1, r2, r3, r4⟩ := (show _ ∧ _ ∧ _ ∧ _ ∧ _ from ⟨(HQ.out _ HC3.out).2.cell 0 rfl, (HQ.out _ HC3.out).2.cell 1 rfl, (HQ.out _ HC3.out).2.cell 2 rfl, (HQ.out _ HC3.out).2.cell 3 rfl, (HQ.out _ HC3.out).2.cell 4 rfl⟩)
  obtain ⟨f0, f1, f2, f3, f4⟩ := (show _ ∧ _ ∧ _ ∧ _ ∧ _ from ⟨(HQ.out _ HC3.out).2.frozen 0, (HQ.out _ HC3.out).2.frozen 1, (HQ.out _ HC3.out).2.frozen 2, (HQ.out _ HC3.out).2.frozen 3, (HQ.out _ HC3.out).2.frozen 4⟩)
  clear hv hs3 hm3 hb3 HQ HX HC1b HC2 HC3 hK hNN HWr HRow HE2 c0 c1 c2 c3 c4
  go_wp2_with fail
  refine bodyPost_ret (v := .tuple #[.agg #[.slice b NN cb, .slice b' Y.length cb', .int .i64 ep, .int .i64 (nx + 1), .slice va K vc], .int .i64 0]) (by simp [results, Tryz.f18, go_sem, r0, r1, r2, r3, r4]) rfl ?_
  refine ⟨?_, ?_⟩
  · rw [WAns, HRs.out]
    exact ⟨_, rfl, b, NN, cb, b', Y.length, cb', va, K, vc, l', rfl, (((((HSt.out.1.setLow (by omega) _).setLow (by omega) _).setLow (by omega) _).setLow (by omega) _).setLow (by omega) _).low (by omega), HSt.out.2⟩
  · exact ((((HBw.out.setCell (by dsimp only; omega) _).setCell (by dsimp only; omega) _).setCell (by dsimp only; omega) _).setCell (by dsimp only; omega) _).setCell (by dsimp only; omega) _

end Go.Proofs.YtjaihnmhojabfaaGreatDoor

namespace Go.Proofs.YtjaihnmhojabfaaGreatDoor
open Go.RowKit
set_option linter.unusedVariables false

theorem doneI_zs {X Y : List ByteArray} {ep nx : Int} {us : List U} {id : ByteArray} {sum : Int} {B : Nat} (h : ∀ u ∈ us, u.zs.length ≤ B) : (∀ v ∈ (doneI X Y ep nx us id sum).us, v.zs.length ≤ B) ∧ (doneI X Y ep nx us id sum).us.length = us.length := by
  by_cases hc : (doneI X Y ep nx us id sum).c = 0
  · obtain ⟨_, _, k, u, hk, hu, ⟨_, he⟩ | ⟨_, _, _, he⟩⟩ := doneI_yes hc
    · rw [he]; exact ⟨h, rfl⟩
    · rw [he]
      refine ⟨fun v hv => ?_, List.length_set⟩
      rcases List.mem_or_eq_of_mem_set hv with hv | rfl
      · exact h v hv
      · exact h u (List.mem_of_getElem? hu)
  · rw [doneI_no hc]
    exact ⟨h, rfl⟩

/-- An append of bytes as a step of a region that draws, guarded or not. -/
theorem step_appB {ops : Array Oper} {o : Oper} {a : Act} {w : World} {K : Act → World → Prop} {Q : Exit → Act → World → Prop} {E : Prop} (hw : Region.wanted o (yielded ops a.tmps) = true) (s x : Operand)
    (ho : o.op = .call { callee := .builtin .append, args := #[s, x], argTypes := #[22, 22] }) (base : Nat) (A : Option Addr) (n c : Nat) (zs : List Int) (hs : a.eval s = .slice A n c) (hown : Owns w base A n c zs)
    (u : Value) (m : Nat) (ys : List Int) (hx : a.eval x = u) (hsrc : Src Tryz.prog 1 22 u m (ys.map (Value.int .u8)) w) (hy : ∀ y ∈ ys, 0 ≤ y ∧ y ≤ 255) (h63 : n + m ≤ 17592186044416) (hbase : base ≤ w.heap.size) (M : Nat) (hM : n + m = M)
    (h : ∀ A' C' w', Owns w' base A' M C' (zs ++ ys) → w.grownBy w' (A.map (·.block)) → K (a.put o.dst (.slice A' M C')) w') :
    if Region.wanted o (yielded ops a.tmps) = true then Oper.wp Tryz.prog o a w K Q else E := by
  rw [if_pos hw]
  obtain ⟨A', C', w', hr, h2, h3, _⟩ := appB_run w base o.type A n c zs hown u m ys hsrc hy h63 hbase
  rw [hM] at hr h2
  unfold Oper.wp execOp
  simp only [ho, resolve, invoke, builtin, Sem.run_bind, Sem.run_pure, Result.andThen_ok, List.map_toArray, List.map_cons, List.map_nil, hs, hx, hr]
  exact h A' C' w' h2 h3

section
variable {w8 W : World} {B p lo : Nat} {A2 : Option Addr} {n2 C2 : Nat} {X2 : List ByteArray} {A2' : Option Addr} {n2' C2' : Nat} {Y2 : List ByteArray} {ua2 : Option Addr} {un2 uc2 : Nat} {l2 : List UE}

theorem up5 {vs : List Value} (hz : BoxN W p 29 vs ∧ B ≤ p) (h5 : vs.length = 5) (hs : StoAt W lo A2 n2 C2 X2 A2' n2' C2' Y2 ua2 un2 uc2 l2) (hb : Below B w8 W) (ep2 nx2 : Int) :
    BoxN (((((W.setCell ⟨p, 0, none⟩ (.slice A2 n2 C2)).setCell ⟨p, 1, none⟩ (.slice A2' n2' C2')).setCell ⟨p, 2, none⟩ (.int .i64 ep2)).setCell ⟨p, 3, none⟩ (.int .i64 nx2)).setCell ⟨p, 4, none⟩ (.slice ua2 un2 uc2)) p 29 [.slice A2 n2 C2, .slice A2' n2' C2', .int .i64 ep2, .int .i64 nx2, .slice ua2 un2 uc2] ∧ StoAt (((((W.setCell ⟨p, 0, none⟩ (.slice A2 n2 C2)).setCell ⟨p, 1, none⟩ (.slice A2' n2' C2')).setCell ⟨p, 2, none⟩ (.int .i64 ep2)).setCell ⟨p, 3, none⟩ (.int .i64 nx2)).setCell ⟨p, 4, none⟩ (.slice ua2 un2 uc2)) lo A2 n2 C2 X2 A2' n2' C2' Y2 ua2 un2 uc2 l2 ∧ Below B w8 (((((W.setCell ⟨p, 0, none⟩ (.slice A2 n2 C2)).setCell ⟨p, 1, none⟩ (.slice A2' n2' C2')).setCell ⟨p, 2, none⟩ (.int .i64 ep2)).setCell ⟨p, 3, none⟩ (.int .i64 nx2)).setCell ⟨p, 4, none⟩ (.slice ua2 un2 uc2)) := by
  obtain ⟨b0, hp⟩ := hz
  match vs, h5 with
  | [v0, v1, v2, v3, v4], _ =>
  have b1 := b0.set 0 (.slice A2 n2 C2)
  have b2 := b1.set 1 (.slice A2' n2' C2')
  have b3 := b2.set 2 (.int .i64 ep2)
  have b4 := b3.set 3 (.int .i64 nx2)
  have b5 := b4.set 4 (.slice ua2 un2 uc2)
  exact ⟨b5, ((((hs.setBox b0 _).setBox b1 _).setBox b2 _).setBox b3 _).setBox b4 _, ((((hb.setCell hp _).setCell hp _).setCell hp _).setCell hp _).setCell hp _⟩

theorem far5B (hb : Below B w8 W) (hp : B ≤ p) (v0 v1 v2 v3 v4 : Value) : Below B w8 (((((W.setCell ⟨p, 0, none⟩ (v0)).setCell ⟨p, 1, none⟩ (v1)).setCell ⟨p, 2, none⟩ (v2)).setCell ⟨p, 3, none⟩ (v3)).setCell ⟨p, 4, none⟩ (v4)) := ((((hb.setCell hp _).setCell hp _).setCell hp _).setCell hp _).setCell hp _

theorem upNew (hs : StoAt W lo A2 n2 C2 X2 A2' n2' C2' Y2 ua2 un2 uc2 l2) (hb : Below B w8 W) (hB : B ≤ W.heap.size) (ep2 nx2 : Int) :
    BoxN (W.alloc (.cells #[.slice A2 n2 C2, .slice A2' n2' C2', .int .i64 ep2, .int .i64 nx2, .slice ua2 un2 uc2] 29)) W.heap.size 29 [.slice A2 n2 C2, .slice A2' n2' C2', .int .i64 ep2, .int .i64 nx2, .slice ua2 un2 uc2] ∧ StoAt (W.alloc (.cells #[.slice A2 n2 C2, .slice A2' n2' C2', .int .i64 ep2, .int .i64 nx2, .slice ua2 un2 uc2] 29)) lo A2 n2 C2 X2 A2' n2' C2' Y2 ua2 un2 uc2 l2 ∧ Below B w8 (W.alloc (.cells #[.slice A2 n2 C2, .slice A2' n2' C2', .int .i64 ep2, .int .i64 nx2, .slice ua2 un2 uc2] 29)) :=
  ⟨BoxN.new _ _ _, hs.stays ((Below.refl _ _).alloc (Nat.le_refl _) _), hb.alloc hB _⟩
end

theorem gotU_atK {us : List U} {id : ByteArray} {p : Nat} {u : U} (h : atU us id = some p) (hu : us[p]? = some u) : gotU us id = u := by
  rw [gotU, h]
  simp [List.getD_eq_getElem?_getD, hu]

set_option maxRecDepth 10000 in
set_option maxHeartbeats 12800000 in
theorem lawKept_any (a : Option Addr) (len cap : Nat) (zs : List Int) (w : World) (hm : len ≤ maxLen) (hs : Seg w a len zs) (ht : RecT w) (he : ErrN w) :
    Calls Tryz.prog 4 #[.slice a len cap] w fun e w' => e = .returned (.bool true) ∧ Below w.heap.size w w' := by
  have HR : Hid (∀ W, Below w.heap.size w W → Seg W a len zs ∧ RecT W ∧ ErrN W) := fun W h => ⟨hs.below h, ht.below h, he.below h⟩
  clear hs ht he
  by_cases hbig : (1048576 : Int) < (len : Int)
  · have hd : Hid (decide ((1048576 : Int) < (len : Int)) = true) := by show _ = _; simpa using hbig
    go_enter Tryz.func4, Tryz.ntmps4
    go_wp2_with fail
    refine (big_any a len cap w hm).mono ?_
    rintro e w1 ⟨rfl, hw1⟩
    subst w1
    rw [hd.out]
    go_wp2_with fail
    go_ret
    exact ⟨rfl, Below.refl _ _⟩
  have hd : Hid (decide ((1048576 : Int) < (len : Int)) = false) := by show _ = _; simpa using hbig
  have hl : len ≤ 1099511627776 := by omega
  clear hbig
  go_enter Tryz.func4, Tryz.ntmps4
  go_wp2_with fail
  refine (big_any a len cap w hm).mono ?_
  rintro e w1 ⟨rfl, hw1⟩
  subst w1
  rw [hd.out]
  clear hd
  go_wp2_with fail
  refine (drawPutUp_any a len cap zs w (HR.out w (Below.refl _ _)).1 hl).mono ?_
  rintro e w2 ⟨⟨v, id, off, da, dn, dc, ys, rfl, hdr, hid, hoff, hod, hdn, hdc⟩, hb2⟩
  obtain ⟨X, Y, ep, nx, us, hans, hbn⟩ := hdr
  obtain ⟨a0, c0, a0', c0', u0, uc0, l0, rfl, hs0, hm0⟩ := hans.get
  subst hm0
  have HBn : Hid (Bnd X Y ep nx (l0.map UE.u)) := hbn
  have HId : Hid (id.size ≤ maxLen) := by
    show _ ≤ _
    have : 3 ≤ maxLen := by decide
    omega
  have hob : -9223372036854775808 ≤ off ∧ off ≤ 9223372036854775807 := by omega
  have HDl : Hid (dn ≤ maxLen) := by
    show _ ≤ _
    have : 1000000000 ≤ maxLen := by decide
    omega
  have HYs : Hid ((∀ y ∈ ys, 0 ≤ y ∧ y ≤ 255) ∧ ys.length = dn) := ⟨hod.2, hod.seg.1⟩
  obtain ⟨M, hM⟩ : ∃ M, (l0.map UE.u).length = M := ⟨_, rfl⟩
  rw [hM] at hs0 ⊢
  have HMl : Hid ((l0.map UE.u).length = M) := hM
  have hM11 : M ≤ 11 := by have := hbn.2.2.2.1; omega
  have hX2 : X.length ≤ 200 := hbn.1
  have hY2 : Y.length ≤ 200 := hbn.2.1
  have hba : Below w2.heap.size w2 (w2.alloc (.cells #[.slice a0 X.length c0, .slice a0' Y.length c0', .int .i64 ep, .int .i64 nx, .slice u0 M uc0] 29)) := (Below.refl _ _).alloc (Nat.le_refl _) _
  have HT : Hid (∀ W, Below (w2.alloc (.cells #[.slice a0 X.length c0, .slice a0' Y.length c0', .int .i64 ep, .int .i64 nx, .slice u0 M uc0] 29)).heap.size (w2.alloc (.cells #[.slice a0 X.length c0, .slice a0' Y.length c0', .int .i64 ep, .int .i64 nx, .slice u0 M uc0] 29)) W → BoxN W w2.heap.size 29 [.slice a0 X.length c0, .slice a0' Y.length c0', .int .i64 ep, .int .i64 nx, .slice u0 M uc0] ∧ StoAt W w.heap.size a0 X.length c0 X a0' Y.length c0' Y u0 M uc0 l0 ∧ RecT W ∧ ErrN W ∧ Seg W da dn ys ∧ Below w.heap.size w W) := fun W h => by
    have hy : Below w2.heap.size w2 W := hba.trans (h.mono hba.size)
    have g : Below w.heap.size w W := hb2.trans (hy.mono hb2.size)
    exact ⟨(BoxN.new w2 _ _).stays h, hs0.stays hy, (HR.out W g).2.1, (HR.out W g).2.2, hod.seg.below hy, g⟩
  clear hans hs0 hb2 hba HR hM hbn hid hoff hod
  go_upto_region 4 with fail
  obtain ⟨w4, hw4⟩ : ∃ w4, w2.alloc (.cells #[.slice a0 X.length c0, .slice a0' Y.length c0', .int .i64 ep, .int .i64 nx, .slice u0 M uc0] 29) = w4 := ⟨_, rfl⟩
  rw [hw4] at HT ⊢
  clear hw4
  obtain ⟨bs, hbs⟩ : ∃ bs, w2.heap.size = bs := ⟨_, rfl⟩
  rw [hbs] at HT ⊢
  clear hbs
  have HB4 : Hid (Below w4.heap.size w4 w4) := Below.refl _ _
  have HP := (show Hid _ from (HT.out _ HB4.out).2.1.preB HBn.out)
  obtain ⟨d0, d1, d2, d3, d4⟩ := (show _ ∧ _ ∧ _ ∧ _ ∧ _ from ⟨BoxN.cell (HT.out _ HB4.out).1 0 rfl, BoxN.cell (HT.out _ HB4.out).1 1 rfl, BoxN.cell (HT.out _ HB4.out).1 2 rfl, BoxN.cell (HT.out _ HB4.out).1 3 rfl, BoxN.cell (HT.out _ HB4.out).1 4 rfl⟩)
  go_wp2_with fail
  refine (implPutUp_any a0 X.length c0 X a0' Y.length c0' Y ep nx u0 M uc0 w.heap.size l0 id off da dn dc ys w4 HP.out.1 HP.out.2.1 (by omega) (by omega) HP.out.2.2.2.2.1 HP.out.2.2.2.2.2.1 HP.out.2.2.2.2.2.2.1 (by omega) (fun e he => by have := HP.out.2.2.2.2.2.2.2.2.1 e he; omega) HId.out (HT.out _ HB4.out).2.2.2.2.1 hdc HDl.out (HT.out _ HB4.out).2.1.now.sl (HT.out _ HB4.out).2.2.1 (HT.out _ HB4.out).2.2.2.1).mono ?_
  rintro e w5 ⟨⟨v, rfl, hans⟩, hb5⟩
  obtain ⟨A1, hA1⟩ : ∃ A1, putA X Y ep nx (l0.map UE.u) id off ys = A1 := ⟨_, rfl⟩
  rw [hA1] at hans ⊢
  have HA1 : Hid (putA X Y ep nx (l0.map UE.u) id off ys = A1) := hA1
  clear hA1
  obtain ⟨a1, c1, a1', c1', u1, uc1, l1, rfl, hs1, hm1⟩ := hans.get
  obtain ⟨N1, hN1⟩ : ∃ N1, A1.X.length = N1 := ⟨_, rfl⟩
  obtain ⟨M1, hM1⟩ : ∃ M1, A1.us.length = M1 := ⟨_, rfl⟩
  obtain ⟨nx1, hnx1⟩ : ∃ nx1, A1.nx = nx1 := ⟨_, rfl⟩
  obtain ⟨cc1, hcc1⟩ : ∃ cc1, A1.c = cc1 := ⟨_, rfl⟩
  rw [hN1, hM1, hnx1, hcc1]
  rw [hN1, hM1] at hs1
  have HE1 : Hid (A1.X.length = N1 ∧ A1.us.length = M1 ∧ A1.nx = nx1 ∧ A1.c = cc1) := ⟨hN1, hM1, hnx1, hcc1⟩
  have HM1 : Hid (l1.map UE.u = A1.us) := hm1
  have hba : Below w5.heap.size w5 (w5.alloc (.cells #[.slice a1 N1 c1, .slice a1' Y.length c1', .int .i64 ep, .int .i64 nx1, .slice u1 M1 uc1] 29)) := (Below.refl _ _).alloc (Nat.le_refl _) _
  have HT5 : Hid (∀ W, Below (w5.alloc (.cells #[.slice a1 N1 c1, .slice a1' Y.length c1', .int .i64 ep, .int .i64 nx1, .slice u1 M1 uc1] 29)).heap.size (w5.alloc (.cells #[.slice a1 N1 c1, .slice a1' Y.length c1', .int .i64 ep, .int .i64 nx1, .slice u1 M1 uc1] 29)) W → Below w4.heap.size w4 W ∧ BoxN W w5.heap.size 29 [.slice a1 N1 c1, .slice a1' Y.length c1', .int .i64 ep, .int .i64 nx1, .slice u1 M1 uc1] ∧ StoAt W w4.heap.size a1 N1 c1 A1.X a1' Y.length c1' Y u1 M1 uc1 l1) := fun W h => by
    have hy : Below w5.heap.size w5 W := hba.trans (h.mono hba.size)
    exact ⟨hb5.trans (hy.mono hb5.size), (BoxN.new w5 _ _).stays h, hs1.stays hy⟩
  clear hans hs1 hm1 hb5 hba hN1 hM1 hnx1 hcc1 HP HB4 d0 d1 d2 d3 d4
  go_upto_region 5 with fail
  obtain ⟨w6, hw6⟩ : ∃ w6, w5.alloc (.cells #[.slice a1 N1 c1, .slice a1' Y.length c1', .int .i64 ep, .int .i64 nx1, .slice u1 M1 uc1] 29) = w6 := ⟨_, rfl⟩
  rw [hw6] at HT5 ⊢
  clear hw6
  obtain ⟨bx, hbx⟩ : ∃ bx, w5.heap.size = bx := ⟨_, rfl⟩
  rw [hbx] at HT5 ⊢
  clear hbx
  have HB6 : Hid (Below w4.heap.size w4 w6) := (HT5.out _ (Below.refl _ _)).1
  have HP := (show Hid _ from (HT.out _ HB6.out).2.1.preB HBn.out)
  obtain ⟨d0, d1, d2, d3, d4⟩ := (show _ ∧ _ ∧ _ ∧ _ ∧ _ from ⟨BoxN.cell (HT.out _ HB6.out).1 0 rfl, BoxN.cell (HT.out _ HB6.out).1 1 rfl, BoxN.cell (HT.out _ HB6.out).1 2 rfl, BoxN.cell (HT.out _ HB6.out).1 3 rfl, BoxN.cell (HT.out _ HB6.out).1 4 rfl⟩)
  go_wp2_with fail
  refine (specPutUp_any a0 X.length c0 X a0' Y.length c0' Y ep nx u0 M uc0 w.heap.size l0 id off da dn dc ys w6 HP.out.1 HP.out.2.1 (by omega) (by omega) HP.out.2.2.2.2.1 HP.out.2.2.2.2.2.1 HP.out.2.2.2.2.2.2.1 (by omega) (fun e he => by have := HP.out.2.2.2.2.2.2.2.2.1 e he; omega) HId.out hob (HT.out _ HB6.out).2.2.2.2.1 hdc HDl.out).mono ?_
  rintro e w7 ⟨⟨v, rfl, hans⟩, hb7⟩
  rw [HA1.out] at hans ⊢
  rw [HE1.out.2.2.2]
  obtain ⟨a2, c2, a2', c2', u2, uc2, l2, rfl, hs2, hm2⟩ := hans.get
  obtain ⟨o2, ho2⟩ : ∃ o2, (Obj.cells #[.slice a2 A1.X.length c2, .slice a2' Y.length c2', .int .i64 ep, .int .i64 A1.nx, .slice u2 A1.us.length uc2] 29) = o2 := ⟨_, rfl⟩
  have HB8 : Hid (Below w6.heap.size w6 (w7.alloc o2)) := hb7.alloc hb7.size _
  clear hans hs2 hm2 hb7 HP HB6 d0 d1 d2 d3 d4
  go_upto_region 6 with fail
  obtain ⟨w8, hw8⟩ : ∃ w8, w7.alloc o2 = w8 := ⟨_, rfl⟩
  rw [hw8] at HB8 ⊢
  clear hw8 ho2
  have hne : (cc1 != cc1) = false := by simp
  have heq : (cc1 == cc1) = true := by simp
  by_cases h0 : cc1 = 0
  case neg =>
    have hz0 : (cc1 != 0) = true := by simpa using h0
    have hno : A1 = ⟨X, nx, l0.map UE.u, A1.c⟩ := by
      have h9 : (putA X Y ep nx (l0.map UE.u) id off ys).c ≠ 0 := by rw [HA1.out, HE1.out.2.2.2]; exact h0
      have := putA_no h9
      rw [HA1.out] at this
      exact this
    have HU : Hid (l1.map UE.u = l0.map UE.u) := by show _ = _; rw [HM1.out, hno]
    have hnn : nx1 = nx := by rw [← HE1.out.2.2.1, hno]
    subst hnn
    have hMM : M1 = M := by
      have h1 := (HT5.out _ HB8.out).2.2.len
      have h2 := (HT.out _ (HT5.out _ HB8.out).1).2.1.len
      have h3 := congrArg List.length HU.out
      rw [List.length_map, List.length_map] at h3
      omega
    have hnxe : (nx1 == nx1) = true := by simp
    have HP := (show Hid _ from (HT.out _ (HT5.out _ HB8.out).1).2.1.preB HBn.out)
    have HS : Hid (Calls Tryz.prog 10 #[.slice u1 M1 uc1, .slice u0 M uc0] w8 fun e w' => e = .returned (.bool true) ∧ ∃ k, w' = w8.drewN k) := sameUs_same u1 M1 uc1 w4.heap.size l1 u0 M uc0 w.heap.size l0 w8 (HT5.out _ HB8.out).2.2.ups (HT.out _ (HT5.out _ HB8.out).1).2.1.ups (HT5.out _ HB8.out).2.2.len (HT.out _ (HT5.out _ HB8.out).1).2.1.len HU.out (by omega) (fun e he => by have := sizes_same HU.out (HT5.out _ HB8.out).2.2.ups (HT.out _ (HT5.out _ HB8.out).1).2.1.ups (fun e he => HP.out.2.2.2.2.2.2.2.2.1 e he) e he; omega)
    have HX8 : Hid (∀ k : Nat, BoxN (w8.drewN k) bx 29 [.slice a1 N1 c1, .slice a1' Y.length c1', .int .i64 ep, .int .i64 nx1, .slice u1 M1 uc1] ∧ BoxN (w8.drewN k) bs 29 [.slice a0 X.length c0, .slice a0' Y.length c0', .int .i64 ep, .int .i64 nx1, .slice u0 M uc0] ∧ Below w.heap.size w (w8.drewN k)) := fun k => by
      have hk : Below w8.heap.size w8 (w8.drewN k) := below_drewN (Below.refl _ _) k
      have q := (HT5.out _ HB8.out).2.1.stays hk
      have r := HT.out _ (HT5.out _ HB8.out).1
      exact ⟨q, r.1.stays hk, r.2.2.2.2.2.trans (hk.mono r.2.2.2.2.2.size)⟩
    have x4 := BoxN.cell (HT5.out _ HB8.out).2.1 4 rfl
    have s4 := BoxN.cell (HT.out _ (HT5.out _ HB8.out).1).1 4 rfl
    clear hno HU hMM HP HT HT5 HB8 HE1 HM1 HA1 HMl
    go_wp2_with fail
    refine HS.out.mono ?_
    rintro e w9 ⟨rfl, k, rfl⟩
    have HX9 := (show Hid _ from HX8.out k)
    obtain ⟨w9, hw9⟩ : ∃ w9, w8.drewN k = w9 := ⟨_, rfl⟩
    rw [hw9] at HX9 ⊢
    have x3 := BoxN.cell HX9.out.1 3 rfl
    have s3 := BoxN.cell HX9.out.2.1 3 rfl
    clear hw9 x4 s4
    go_wp2_with fail
    go_ret
    exact ⟨rfl, HX9.out.2.2⟩
  subst h0
  have hall := kept_all HA1.out HE1.out.2.2.2 HYs.out.1
  obtain ⟨k, u, k1, k2, k3, kso, klen, k4, k5, k6, k7⟩ := hall
  have HSx : Hid (SOk A1.X Y ep nx1 (l1.map UE.u)) := by show SOk _ _ _ _ _; rw [HM1.out, ← HE1.out.2.2.1]; exact kso
  have HGa : Hid (gotU (l0.map UE.u) id = u) := gotU_atK k1 k2
  have HGb : Hid (gotU (l1.map UE.u) id = { u with zs := u.zs ++ ys } ∧ (atU (l1.map UE.u) id).isSome = true) := by
    show _ ∧ _
    rw [HM1.out]
    exact ⟨gotU_atK k4 k5, by rw [k4]; rfl⟩
  obtain ⟨cr, hcr⟩ : ∃ cr, crcI (u.zs ++ ys) = cr := ⟨_, rfl⟩
  have HCr : Hid (crcI (u.zs ++ ys) = cr) := hcr
  have HDo : Hid ((((u.zs ++ ys).length : Int) < u.want → (doneI A1.X Y ep nx1 (l1.map UE.u) id cr).c = 4) ∧
      (¬ ((u.zs ++ ys).length : Int) < u.want → ((doneI A1.X Y ep nx1 (l1.map UE.u) id cr).c = 0 ∧ (gotU (doneI A1.X Y ep nx1 (l1.map UE.u) id cr).us id).done = true) ∨ (doneI A1.X Y ep nx1 (l1.map UE.u) id cr).c = 5)) := by
    show _ ∧ _
    rw [← hcr, ← HE1.out.2.2.1, HM1.out]
    refine ⟨k6, fun h => ?_⟩
    rcases k7 h with ⟨h1, h2, h3⟩ | h1
    · exact .inl ⟨h1, by rw [gotU_atK h2 h3]⟩
    · exact .inr h1
  have hM1M : M1 = M := by
    have h1 := HE1.out.2.1
    have h2 := HMl.out
    omega
  subst hM1M
  obtain ⟨Z, hZ⟩ : ∃ Z, u.zs.length = Z := ⟨_, rfl⟩
  have HZ : Hid (u.zs.length = Z) := hZ
  obtain ⟨ZD, hZD⟩ : ∃ ZD, Z + dn = ZD := ⟨_, rfl⟩
  have HZD : Hid (Z + dn = ZD) := hZD
  have HZl : Hid ((u.zs ++ ys).length = ZD) := by show _ = _; rw [List.length_append, hZ, HYs.out.2]; exact hZD
  have hZb : Z ≤ 4800 := by
    have h1 := (HBn.out.2.2.2.2.1 u (List.mem_of_getElem? k2)).1
    omega
  have hZDb : ZD ≤ 1000004800 := by omega
  have hwz : 0 ≤ u.want ∧ u.want ≤ 1000000000 := (HBn.out.2.2.2.2.1 u (List.mem_of_getElem? k2)).2
  clear k1 k2 k3 kso klen k4 k5 k6 k7 hcr hZ hZD
  have HP := (show Hid _ from (HT.out _ (HT5.out _ HB8.out).1).2.1.preB HBn.out)
  have hX2' : X.length ≤ 200 := hX2
  obtain ⟨d0, d1, d2, d3, d4⟩ := (show _ ∧ _ ∧ _ ∧ _ ∧ _ from ⟨BoxN.cell (HT.out _ (HT5.out _ HB8.out).1).1 0 rfl, BoxN.cell (HT.out _ (HT5.out _ HB8.out).1).1 1 rfl, BoxN.cell (HT.out _ (HT5.out _ HB8.out).1).1 2 rfl, BoxN.cell (HT.out _ (HT5.out _ HB8.out).1).1 3 rfl, BoxN.cell (HT.out _ (HT5.out _ HB8.out).1).1 4 rfl⟩)
  go_wp2_with fail
  refine (implUpAt_any a0 X.length c0 a0' Y.length c0' ep nx u0 M1 uc0 w.heap.size l0 id w8 HP.out.2.2.2.2.2.1 HP.out.2.2.2.2.2.2.1 (by omega) (fun e he => by have := HP.out.2.2.2.2.2.2.2.2.1 e he; omega)).mono ?_
  rintro e w9 ⟨⟨UA, UC, rfl, hown⟩, hb9⟩
  rw [HGa.out, HZ.out] at hown ⊢
  obtain ⟨okb, hok⟩ : ∃ okb, (atU (l0.map UE.u) id).isSome = okb := ⟨_, rfl⟩
  rw [hok]
  have hba : Below w9.heap.size w9 (w9.alloc (.cells #[.string u.id, .int .i64 u.want, .slice UA Z UC, .bool u.done] 36)) := (Below.refl _ _).alloc (Nat.le_refl _) _
  have HT9 : Hid (∀ W, Below (w9.alloc (.cells #[.string u.id, .int .i64 u.want, .slice UA Z UC, .bool u.done] 36)).heap.size (w9.alloc (.cells #[.string u.id, .int .i64 u.want, .slice UA Z UC, .bool u.done] 36)) W → Below w6.heap.size w6 W ∧ BoxN W w9.heap.size 36 [.string u.id, .int .i64 u.want, .slice UA Z UC, .bool u.done] ∧ Seg W UA Z u.zs) := fun W h => by
    have hy : Below w9.heap.size w9 W := hba.trans (h.mono hba.size)
    exact ⟨HB8.out.trans ((hb9.trans (hy.mono hb9.size)).mono HB8.out.size), (BoxN.new w9 _ _).stays h, hown.seg.below hy⟩
  clear hown hok hb9 hba HB8 HP d0 d1 d2 d3 d4
  go_upto_region 9 with fail
  obtain ⟨w10, hw10⟩ : ∃ w10, w9.alloc (.cells #[.string u.id, .int .i64 u.want, .slice UA Z UC, .bool u.done] 36) = w10 := ⟨_, rfl⟩
  rw [hw10] at HT9 ⊢
  clear hw10
  obtain ⟨ba, hba⟩ : ∃ ba, w9.heap.size = ba := ⟨_, rfl⟩
  rw [hba] at HT9 ⊢
  clear hba
  have HBa : Hid (Below w6.heap.size w6 w10) := (HT9.out _ (Below.refl _ _)).1
  have HP1 := (show Hid _ from (HT5.out _ HBa.out).2.2.pre HSx.out)
  have hN1' : N1 ≤ 200 := HP1.out.2.2.1
  have hM1' : M1 ≤ 10 := HP1.out.2.2.2.2.2.2.2.1
  obtain ⟨x0, x1, x2, x3, x4⟩ := (show _ ∧ _ ∧ _ ∧ _ ∧ _ from ⟨BoxN.cell (HT5.out _ HBa.out).2.1 0 rfl, BoxN.cell (HT5.out _ HBa.out).2.1 1 rfl, BoxN.cell (HT5.out _ HBa.out).2.1 2 rfl, BoxN.cell (HT5.out _ HBa.out).2.1 3 rfl, BoxN.cell (HT5.out _ HBa.out).2.1 4 rfl⟩)
  go_wp2_with fail
  refine (implUpAt_any a1 N1 c1 a1' Y.length c1' ep nx1 u1 M1 uc1 w4.heap.size l1 id w10 HP1.out.2.2.2.2.2.1 HP1.out.2.2.2.2.2.2.1 (by omega) (fun e he => by have := HP1.out.2.2.2.2.2.2.2.2.1 e he; omega)).mono ?_
  rintro e w11 ⟨⟨UB, UCB, rfl, hown⟩, hb11⟩
  rw [HGb.out.1, HGb.out.2]
  rw [HGb.out.1] at hown
  dsimp only at hown ⊢
  rw [HZl.out] at hown ⊢
  have hba : Below w11.heap.size w11 (w11.alloc (.cells #[.string u.id, .int .i64 u.want, .slice UB ZD UCB, .bool u.done] 36)) := (Below.refl _ _).alloc (Nat.le_refl _) _
  have HT11 : Hid (∀ W, Below (w11.alloc (.cells #[.string u.id, .int .i64 u.want, .slice UB ZD UCB, .bool u.done] 36)).heap.size (w11.alloc (.cells #[.string u.id, .int .i64 u.want, .slice UB ZD UCB, .bool u.done] 36)) W → Below w10.heap.size w10 W ∧ BoxN W w11.heap.size 36 [.string u.id, .int .i64 u.want, .slice UB ZD UCB, .bool u.done] ∧ Seg W UB ZD (u.zs ++ ys)) := fun W h => by
    have hy : Below w11.heap.size w11 W := hba.trans (h.mono hba.size)
    exact ⟨hb11.trans (hy.mono hb11.size), (BoxN.new w11 _ _).stays h, hown.seg.below hy⟩
  clear hown hb11 hba HBa HP1 x0 x1 x2 x3 x4
  go_upto_region 10 with fail
  obtain ⟨w12, hw12⟩ : ∃ w12, w11.alloc (.cells #[.string u.id, .int .i64 u.want, .slice UB ZD UCB, .bool u.done] 36) = w12 := ⟨_, rfl⟩
  rw [hw12] at HT11 ⊢
  clear hw12
  obtain ⟨bb, hbb⟩ : ∃ bb, w11.heap.size = bb := ⟨_, rfl⟩
  rw [hbb] at HT11 ⊢
  clear hbb
  have HF : Hid (∀ W, Below w12.heap.size w12 W → (BoxN W bb 36 [.string u.id, .int .i64 u.want, .slice UB ZD UCB, .bool u.done] ∧ Seg W UB ZD (u.zs ++ ys)) ∧ (BoxN W ba 36 [.string u.id, .int .i64 u.want, .slice UA Z UC, .bool u.done] ∧ Seg W UA Z u.zs) ∧ (BoxN W bx 29 [.slice a1 N1 c1, .slice a1' Y.length c1', .int .i64 ep, .int .i64 nx1, .slice u1 M1 uc1] ∧ StoAt W w4.heap.size a1 N1 c1 A1.X a1' Y.length c1' Y u1 M1 uc1 l1) ∧ BoxN W bs 29 [.slice a0 X.length c0, .slice a0' Y.length c0', .int .i64 ep, .int .i64 nx, .slice u0 M1 uc0] ∧ (RecT W ∧ ErrN W) ∧ Seg W da dn ys ∧ Below w.heap.size w W) := fun W h => by
    have q := HT11.out W h
    have r := HT9.out W q.1
    have s := HT5.out W r.1
    have t := HT.out W s.1
    exact ⟨q.2, r.2, s.2, t.1, ⟨t.2.2.1, t.2.2.2.1⟩, t.2.2.2.2.1, t.2.2.2.2.2⟩
  have HMx : Hid ((l1.map UE.u).length = M1) := by
    show _ = _
    rw [HM1.out]
    exact HE1.out.2.1
  clear HT11 HT9 HT5 HT HMl HE1 HM1 HA1 HBn HGa HGb
  have HQ10 : Hid (∀ o, Below w12.heap.size w12 ((w12.alloc o).drew)) := fun o => ((Below.refl _ _).alloc (Nat.le_refl _) o).drew
  have HBd : Hid (Below w12.heap.size w12 w12.drew) := (Below.refl _ _).drew
  have HL0 : Hid (Owns ((w12.alloc (.cells #[] 5)).drew) w12.heap.size (some ⟨w12.heap.size, 0, none⟩) 0 0 []) := Owns.below ⟨World.ownsRow_lit w12 #[] 0 (Nat.le_refl _) (Nat.zero_le _) rfl, by simp⟩ (Below.refl _ _).drew
  have HF0 := (show Hid _ from HF.out _ HBd.out)
  have k0 := BoxN.cell HF0.out.1.1 2 rfl
  have k1 := BoxN.cell HF0.out.2.1.1 2 rfl
  have k2 := BoxN.cell HF0.out.2.2.1.1 0 rfl
  have k3 := BoxN.cell HF0.out.2.2.1.1 1 rfl
  have k4 := BoxN.cell HF0.out.2.2.1.1 2 rfl
  have k5 := BoxN.cell HF0.out.2.2.1.1 3 rfl
  have k6 := BoxN.cell HF0.out.2.2.1.1 4 rfl
  have k7 := BoxN.cell HF0.out.2.2.2.1 4 rfl
  have q0 : ∀ o, (w12.alloc o).drew.cell? ⟨bb, 2, none⟩ = _ := fun o => BoxN.cell (HF.out _ (HQ10.out o)).1.1 2 rfl
  have q1 : ∀ o, (w12.alloc o).drew.cell? ⟨ba, 2, none⟩ = _ := fun o => BoxN.cell (HF.out _ (HQ10.out o)).2.1.1 2 rfl
  have q2 : ∀ o, (w12.alloc o).drew.cell? ⟨bx, 0, none⟩ = _ := fun o => BoxN.cell (HF.out _ (HQ10.out o)).2.2.1.1 0 rfl
  have q3 : ∀ o, (w12.alloc o).drew.cell? ⟨bx, 1, none⟩ = _ := fun o => BoxN.cell (HF.out _ (HQ10.out o)).2.2.1.1 1 rfl
  have q4 : ∀ o, (w12.alloc o).drew.cell? ⟨bx, 2, none⟩ = _ := fun o => BoxN.cell (HF.out _ (HQ10.out o)).2.2.1.1 2 rfl
  have q5 : ∀ o, (w12.alloc o).drew.cell? ⟨bx, 3, none⟩ = _ := fun o => BoxN.cell (HF.out _ (HQ10.out o)).2.2.1.1 3 rfl
  have q6 : ∀ o, (w12.alloc o).drew.cell? ⟨bx, 4, none⟩ = _ := fun o => BoxN.cell (HF.out _ (HQ10.out o)).2.2.1.1 4 rfl
  have q7 : ∀ o, (w12.alloc o).drew.cell? ⟨bs, 4, none⟩ = _ := fun o => BoxN.cell (HF.out _ (HQ10.out o)).2.2.2.1 4 rfl
  have hz1 : (0 : Nat) + Z = Z := by omega
  have HZ1 : Hid ((0 : Nat) + Z = Z) := hz1
  clear hz1
  go_cut [107] from 108 (fun v W => v = .bool false ∧ Hid (Below w12.heap.size w12 W))
  case first =>
    go_region_held3 (fun W => W.cell? ⟨bb, 2, none⟩ = some (.slice UB ZD UCB) ∧ W.cell? ⟨ba, 2, none⟩ = some (.slice UA Z UC) ∧ W.cell? ⟨bx, 0, none⟩ = some (.slice a1 N1 c1) ∧ W.cell? ⟨bx, 1, none⟩ = some (.slice a1' Y.length c1') ∧ W.cell? ⟨bx, 2, none⟩ = some (.int .i64 ep) ∧ W.cell? ⟨bx, 3, none⟩ = some (.int .i64 nx1) ∧ W.cell? ⟨bx, 4, none⟩ = some (.slice u1 M1 uc1) ∧ W.cell? ⟨bs, 4, none⟩ = some (.slice u0 M1 uc0)) (first | with_reducible exact ⟨k0, k1, k2, k3, k4, k5, k6, k7⟩ | with_reducible exact ⟨q0 _, q1 _, q2 _, q3 _, q4 _, q5 _, q6 _, q7 _⟩ | with_reducible exact ⟨e0, e1, e2, e3, e4, e5, e6, e7⟩ | with_reducible exact ⟨m0, m1, m2, m3, m4, m5, m6, m7⟩ | with_reducible exact ⟨r0, r1, r2, r3, r4, r5, r6, r7⟩ | with_reducible exact ⟨z0, z1, z2, z3, z4, z5, z6, z7⟩ | fail) (first
      | (refine step_appB (by rfl) (.tmp 85) (.tmp 87) rfl w12.heap.size (some ⟨w12.heap.size, 0, none⟩) 0 0 [] rfl HL0.out (.slice UA Z UC) Z u.zs rfl (HF.out _ (HQ10.out _)).2.1.2.src (HF.out _ (HQ10.out (.cells #[] 5))).2.1.2.2.1 (by omega) (HQ10.out _).size Z HZ1.out ?_; intro P1 C1 y1 hown1 hg1
         have HB1 : Hid (Below w12.heap.size w12 y1) := Below.grown (HQ10.out (.cells #[] 5)) hg1 (HQ10.out (.cells #[] 5)).size (fun q e => by have e2 : w12.heap.size = q := Option.some.inj e; omega)
         have HO1 : Hid (Owns y1 w12.heap.size P1 Z C1 ([] ++ u.zs)) := hown1
         have HF1 := (show Hid _ from HF.out _ HB1.out)
         have e0 := BoxN.cell HF1.out.1.1 2 rfl
         have e1 := BoxN.cell HF1.out.2.1.1 2 rfl
         have e2 := BoxN.cell HF1.out.2.2.1.1 0 rfl
         have e3 := BoxN.cell HF1.out.2.2.1.1 1 rfl
         have e4 := BoxN.cell HF1.out.2.2.1.1 2 rfl
         have e5 := BoxN.cell HF1.out.2.2.1.1 3 rfl
         have e6 := BoxN.cell HF1.out.2.2.1.1 4 rfl
         have e7 := BoxN.cell HF1.out.2.2.2.1 4 rfl
         clear hown1 hg1)
      | (refine step_appB (by rfl) (.tmp 88) (.tmp 89) rfl w12.heap.size P1 Z C1 ([] ++ u.zs) rfl HO1.out (.slice da dn dc) dn ys rfl HF1.out.2.2.2.2.2.1.src HYs.out.1 (by omega) HB1.out.size ZD HZD.out ?_; intro P2 C2 y2 hown2 hg2
         have HB2 : Hid (Below w12.heap.size w12 y2) := HB1.out.grown hg2 HB1.out.size (fun q e => by have := (HO1.out.lt q e).1; omega)
         have HO2 : Hid (Seg y2 P2 ZD (u.zs ++ ys)) := hown2.seg
         have HF2 := (show Hid _ from HF.out _ HB2.out)
         have m0 := BoxN.cell HF2.out.1.1 2 rfl
         have m1 := BoxN.cell HF2.out.2.1.1 2 rfl
         have m2 := BoxN.cell HF2.out.2.2.1.1 0 rfl
         have m3 := BoxN.cell HF2.out.2.2.1.1 1 rfl
         have m4 := BoxN.cell HF2.out.2.2.1.1 2 rfl
         have m5 := BoxN.cell HF2.out.2.2.1.1 3 rfl
         have m6 := BoxN.cell HF2.out.2.2.1.1 4 rfl
         have m7 := BoxN.cell HF2.out.2.2.2.1 4 rfl
         clear hown2 hg2)
      | (go_at_call 17
         refine (sameB_same UB P2 ZD UCB C2 (u.zs ++ ys) y2 HF2.out.1.2 HO2.out (by omega)).mono ?_; rintro e y3 ⟨rfl, kk, hy3⟩
         have HB3 : Hid (Below w12.heap.size w12 y3) := by show Below _ _ _; rw [hy3]; exact below_drewN HB2.out kk
         have HF3 := (show Hid _ from HF.out _ HB3.out)
         have r0 := BoxN.cell HF3.out.1.1 2 rfl
         have r1 := BoxN.cell HF3.out.2.1.1 2 rfl
         have r2 := BoxN.cell HF3.out.2.2.1.1 0 rfl
         have r3 := BoxN.cell HF3.out.2.2.1.1 1 rfl
         have r4 := BoxN.cell HF3.out.2.2.1.1 2 rfl
         have r5 := BoxN.cell HF3.out.2.2.1.1 3 rfl
         have r6 := BoxN.cell HF3.out.2.2.1.1 4 rfl
         have r7 := BoxN.cell HF3.out.2.2.2.1 4 rfl
         clear hy3)
      | (go_at_call 13
         have HP1 := (show Hid _ from HF3.out.2.2.1.2.pre HSx.out)
         refine (implSok_any a1 N1 c1 A1.X a1' Y.length c1' Y ep nx1 u1 M1 uc1 w4.heap.size l1 y3 HP1.out.1 HP1.out.2.1 (by omega) (by omega) HP1.out.2.2.2.2.1 HP1.out.2.2.2.2.2.1 HP1.out.2.2.2.2.2.2.1 (by omega) HF3.out.2.2.1.2.now.sl HF3.out.2.2.2.2.1.1 HF3.out.2.2.2.2.1.2).mono ?_; rintro e y4 ⟨rfl, hb4⟩
         rw [decB_true HSx.out]
         have HB4 : Hid (Below w12.heap.size w12 y4) := HB3.out.trans (hb4.mono HB3.out.size)
         have HF4 := (show Hid _ from HF.out _ HB4.out)
         have z0 := BoxN.cell HF4.out.1.1 2 rfl
         have z1 := BoxN.cell HF4.out.2.1.1 2 rfl
         have z2 := BoxN.cell HF4.out.2.2.1.1 0 rfl
         have z3 := BoxN.cell HF4.out.2.2.1.1 1 rfl
         have z4 := BoxN.cell HF4.out.2.2.1.1 2 rfl
         have z5 := BoxN.cell HF4.out.2.2.1.1 3 rfl
         have z6 := BoxN.cell HF4.out.2.2.1.1 4 rfl
         have z7 := BoxN.cell HF4.out.2.2.2.1 4 rfl
         clear hb4 HP1)
      | fail)
    all_goals
      have HBf : Hid (Below w12.heap.size w12 y4) := HB4.out
      clear HB1 HB2 HB3 HB4 HF0 HF1 HF2 HF3 HF4 HO1 HO2
      go_wp2_with fail
      go_meet
      exact ⟨rfl, HBf⟩
  case rest =>
  obtain ⟨w13, hw13⟩ : ∃ w13, wc = w13 := ⟨_, rfl⟩
  rw [hw13] at hcut ⊢
  clear hw13 HF0 HQ10 HBd HL0 k0 k1 k2 k3 k4 k5 k6 k7 q0 q1 q2 q3 q4 q5 q6 q7
  obtain ⟨rfl, HB13⟩ := hcut
  have hun : ∀ v ∈ l1.map UE.u, v.zs.length ≤ 4800 := (fold_small HSx.out.1 HSx.out.2.2.1).2
  obtain ⟨D, hD⟩ : ∃ D, doneI A1.X Y ep nx1 (l1.map UE.u) id cr = D := ⟨_, rfl⟩
  have hdz := doneI_zs (X := A1.X) (Y := Y) (ep := ep) (nx := nx1) (id := id) (sum := cr) hun
  rw [hD] at hdz
  have HDz : Hid ((∀ v ∈ D.us, v.zs.length ≤ 4800) ∧ D.us.length = (l1.map UE.u).length) := hdz
  have hdo := HDo.out
  rw [hD, HZl.out] at hdo
  have HDd : Hid (((ZD : Int) < u.want → D.c = 4) ∧ (¬ (ZD : Int) < u.want → (D.c = 0 ∧ (gotU D.us id).done = true) ∨ D.c = 5)) := ⟨hdo.1, fun h => hdo.2 (by omega)⟩
  have HD : Hid (doneI A1.X Y ep nx1 (l1.map UE.u) id cr = D) := hD
  obtain ⟨N3, hN3⟩ : ∃ N3, D.X.length = N3 := ⟨_, rfl⟩
  obtain ⟨M3, hM3⟩ : ∃ M3, D.us.length = M3 := ⟨_, rfl⟩
  obtain ⟨nx3, hnx3⟩ : ∃ nx3, D.nx = nx3 := ⟨_, rfl⟩
  obtain ⟨cc3, hcc3⟩ : ∃ cc3, D.c = cc3 := ⟨_, rfl⟩
  have HE3 : Hid (D.X.length = N3 ∧ D.us.length = M3 ∧ D.nx = nx3 ∧ D.c = cc3) := ⟨hN3, hM3, hnx3, hcc3⟩
  clear hun hdz hdo hD hN3 hM3 hnx3 hcc3 HDo
  have HG : Hid (∀ W, Below w13.heap.size w13 W → (BoxN W bb 36 [.string u.id, .int .i64 u.want, .slice UB ZD UCB, .bool u.done] ∧ Seg W UB ZD (u.zs ++ ys)) ∧ (BoxN W bx 29 [.slice a1 N1 c1, .slice a1' Y.length c1', .int .i64 ep, .int .i64 nx1, .slice u1 M1 uc1] ∧ StoAt W w4.heap.size a1 N1 c1 A1.X a1' Y.length c1' Y u1 M1 uc1 l1) ∧ (RecT W ∧ ErrN W) ∧ Below w.heap.size w W) := fun W h => by
    have q := HF.out W (HB13.out.trans (h.mono HB13.out.size))
    exact ⟨q.1, q.2.2.1, q.2.2.2.2.1, q.2.2.2.2.2.2⟩
  have HCc : Hid (∀ W, Below w13.heap.size w13 W → Calls Tryz.prog 19 #[.slice UB ZD UCB] W fun e w' => e = .returned (.int .i64 cr) ∧ w' = W) := fun W h => by
    rw [← HCr.out]
    exact implCrc_any UB ZD UCB (u.zs ++ ys) W (HG.out W h).1.2 (by omega)
  have HDu : Hid (∀ W, Below w13.heap.size w13 W → Calls Tryz.prog 18 #[.agg #[.slice a1 N1 c1, .slice a1' Y.length c1', .int .i64 ep, .int .i64 nx1, .slice u1 M1 uc1], .string id, .int .i64 cr] W fun e w' => WAns W.heap.size Y ep D e w' ∧ Below W.heap.size W w') := fun W h => by
    have hg := HG.out W h
    have HP := (show Hid _ from hg.2.1.2.pre HSx.out)
    rw [← HD.out]
    exact implDoneUp_any a1 N1 c1 A1.X a1' Y.length c1' Y ep nx1 u1 M1 uc1 w4.heap.size l1 id cr W HP.out.1 HP.out.2.1 (by omega) (by omega) HP.out.2.2.2.2.1 HP.out.2.2.2.2.2.1 HP.out.2.2.2.2.2.2.1 (by omega) (fun e he => by have := HP.out.2.2.2.2.2.2.2.2.1 e he; omega) HId.out hg.2.1.2.now.sl hg.2.2.1.1 hg.2.2.1.2
  clear HF HB13 HCr HD HSx HZl HZ HZD HYs HDl HZ1 HId
  have HBd : Hid (Below w13.heap.size w13 w13.drew) := (Below.refl _ _).drew
  have HBz : Hid (Below w13.heap.size w13 (w13.drew.alloc (.cells #[.slice none 0 0, .slice none 0 0, .int .i64 0, .int .i64 0, .slice none 0 0] 29))) := HBd.out.alloc (Nat.le_refl _) _
  have HZa : Hid (BoxN (w13.drew.alloc (.cells #[.slice none 0 0, .slice none 0 0, .int .i64 0, .int .i64 0, .slice none 0 0] 29)) w13.heap.size 29 [.slice none 0 0, .slice none 0 0, .int .i64 0, .int .i64 0, .slice none 0 0] ∧ w13.heap.size ≤ w13.heap.size) := ⟨BoxN.new w13.drew 29 [.slice none 0 0, .slice none 0 0, .int .i64 0, .int .i64 0, .slice none 0 0], Nat.le_refl _⟩
  have HG0 := (show Hid _ from HG.out _ HBd.out)
  have HQz : Hid (∀ o, Below w13.heap.size w13 ((w13.alloc o).drew)) := fun o => ((Below.refl _ _).alloc (Nat.le_refl _) o).drew
  have k0 := BoxN.cell HG0.out.1.1 2 rfl
  have k1 := BoxN.cell HG0.out.2.1.1 0 rfl
  have k2 := BoxN.cell HG0.out.2.1.1 1 rfl
  have k3 := BoxN.cell HG0.out.2.1.1 2 rfl
  have k4 := BoxN.cell HG0.out.2.1.1 3 rfl
  have k5 := BoxN.cell HG0.out.2.1.1 4 rfl
  have q0 : ∀ o, (w13.alloc o).drew.cell? ⟨bb, 2, none⟩ = _ := fun o => BoxN.cell (HG.out _ (HQz.out o)).1.1 2 rfl
  have q1 : ∀ o, (w13.alloc o).drew.cell? ⟨bx, 0, none⟩ = _ := fun o => BoxN.cell (HG.out _ (HQz.out o)).2.1.1 0 rfl
  have q2 : ∀ o, (w13.alloc o).drew.cell? ⟨bx, 1, none⟩ = _ := fun o => BoxN.cell (HG.out _ (HQz.out o)).2.1.1 1 rfl
  have q3 : ∀ o, (w13.alloc o).drew.cell? ⟨bx, 2, none⟩ = _ := fun o => BoxN.cell (HG.out _ (HQz.out o)).2.1.1 2 rfl
  have q4 : ∀ o, (w13.alloc o).drew.cell? ⟨bx, 3, none⟩ = _ := fun o => BoxN.cell (HG.out _ (HQz.out o)).2.1.1 3 rfl
  have q5 : ∀ o, (w13.alloc o).drew.cell? ⟨bx, 4, none⟩ = _ := fun o => BoxN.cell (HG.out _ (HQz.out o)).2.1.1 4 rfl
  go_upto_region 12 with fail
  go_cut [15, 16] from 108 (fun v15 v16 W => ∃ (p : Nat) (a3 : Option Addr) (c3 : Nat) (a3' : Option Addr) (c3' : Nat) (u3 : Option Addr) (uc3 : Nat) (l3 : List UE), v15 = .pointer (some ⟨p, 0, none⟩) ∧ v16 = .int .i64 cc3 ∧ Hid (BoxN W p 29 [.slice a3 N3 c3, .slice a3' Y.length c3', .int .i64 ep, .int .i64 nx3, .slice u3 M3 uc3]) ∧ Hid (StoAt W w13.heap.size a3 N3 c3 D.X a3' Y.length c3' Y u3 M3 uc3 l3 ∧ l3.map UE.u = D.us) ∧ Hid (Below w13.heap.size w13 W))
  case first =>
    go_region_held3 (fun W => W.cell? ⟨bb, 2, none⟩ = some (.slice UB ZD UCB) ∧ W.cell? ⟨bx, 0, none⟩ = some (.slice a1 N1 c1) ∧ W.cell? ⟨bx, 1, none⟩ = some (.slice a1' Y.length c1') ∧ W.cell? ⟨bx, 2, none⟩ = some (.int .i64 ep) ∧ W.cell? ⟨bx, 3, none⟩ = some (.int .i64 nx1) ∧ W.cell? ⟨bx, 4, none⟩ = some (.slice u1 M1 uc1)) (first | with_reducible exact ⟨k0, k1, k2, k3, k4, k5⟩ | with_reducible exact ⟨q0 _, q1 _, q2 _, q3 _, q4 _, q5 _⟩ | with_reducible exact ⟨e0, e1, e2, e3, e4, e5⟩ | with_reducible exact ⟨r0 _, r1 _, r2 _, r3 _, r4 _, r5 _⟩ | with_reducible exact ⟨t0 _ _ _ _ _, t1 _ _ _ _ _, t2 _ _ _ _ _, t3 _ _ _ _ _, t4 _ _ _ _ _, t5 _ _ _ _ _⟩ | fail) (first
      | (go_at_call 19
         refine (HCc.out _ (by first | exact HBd.out | exact HBz.out | exact HQz.out _)).mono ?_; rintro e y0 ⟨rfl, rfl⟩)
      | (go_at_call 18
         first
           | ((with_reducible show Calls _ _ _ w13.drew _); refine (HDu.out w13.drew HBd.out).mono ?_; rintro e y1 ⟨⟨v, rfl, hans⟩, hb1⟩
              have HB1 : Hid (Below w13.heap.size w13 y1) := HBd.out.trans (hb1.mono HBd.out.size)
              have hs0 : w13.heap.size ≤ w13.drew.heap.size := HBd.out.size)
           | (refine (HDu.out (w13.drew.alloc (.cells #[.slice none 0 0, .slice none 0 0, .int .i64 0, .int .i64 0, .slice none 0 0] 29)) HBz.out).mono ?_; rintro e y1 ⟨⟨v, rfl, hans⟩, hb1⟩
              have HB1 : Hid (Below w13.heap.size w13 y1) := HBz.out.trans (hb1.mono HBz.out.size)
              have hs0 : w13.heap.size ≤ (w13.drew.alloc (.cells #[.slice none 0 0, .slice none 0 0, .int .i64 0, .int .i64 0, .slice none 0 0] 29)).heap.size := HBz.out.size
              have HZ3 : Hid (BoxN y1 w13.heap.size 29 [.slice none 0 0, .slice none 0 0, .int .i64 0, .int .i64 0, .slice none 0 0] ∧ w13.heap.size ≤ w13.heap.size) := ⟨BoxN.stays HZa.out.1 hb1, Nat.le_refl _⟩)
         obtain ⟨a3, c3, a3', c3', u3, uc3, l3, rfl, hs3, hm3⟩ := hans.get
         rw [HE3.out.1, HE3.out.2.1] at hs3
         rw [HE3.out.1, HE3.out.2.1, HE3.out.2.2.1, HE3.out.2.2.2]
         have HSt : Hid (StoAt y1 w13.heap.size a3 N3 c3 D.X a3' Y.length c3' Y u3 M3 uc3 l3 ∧ l3.map UE.u = D.us) := ⟨hs3.low hs0, hm3⟩
         have HG1 := (show Hid _ from HG.out _ HB1.out)
         have HGa : Hid (∀ o, Below w13.heap.size w13 (y1.alloc o)) := fun o => HB1.out.alloc HB1.out.size o
         have e0 := BoxN.cell HG1.out.1.1 2 rfl
         have e1 := BoxN.cell HG1.out.2.1.1 0 rfl
         have e2 := BoxN.cell HG1.out.2.1.1 1 rfl
         have e3 := BoxN.cell HG1.out.2.1.1 2 rfl
         have e4 := BoxN.cell HG1.out.2.1.1 3 rfl
         have e5 := BoxN.cell HG1.out.2.1.1 4 rfl
         have r0 : ∀ o, (y1.alloc o).cell? ⟨bb, 2, none⟩ = _ := fun o => BoxN.cell (HG.out _ (HGa.out o)).1.1 2 rfl
         have r1 : ∀ o, (y1.alloc o).cell? ⟨bx, 0, none⟩ = _ := fun o => BoxN.cell (HG.out _ (HGa.out o)).2.1.1 0 rfl
         have r2 : ∀ o, (y1.alloc o).cell? ⟨bx, 1, none⟩ = _ := fun o => BoxN.cell (HG.out _ (HGa.out o)).2.1.1 1 rfl
         have r3 : ∀ o, (y1.alloc o).cell? ⟨bx, 2, none⟩ = _ := fun o => BoxN.cell (HG.out _ (HGa.out o)).2.1.1 2 rfl
         have r4 : ∀ o, (y1.alloc o).cell? ⟨bx, 3, none⟩ = _ := fun o => BoxN.cell (HG.out _ (HGa.out o)).2.1.1 3 rfl
         have r5 : ∀ o, (y1.alloc o).cell? ⟨bx, 4, none⟩ = _ := fun o => BoxN.cell (HG.out _ (HGa.out o)).2.1.1 4 rfl
         try (have t0 := fun (v0 v1 v2 v3 v4 : Value) => BoxN.cell (HG.out _ (far5B HB1.out HZ3.out.2 v0 v1 v2 v3 v4)).1.1 2 rfl
              have t1 := fun (v0 v1 v2 v3 v4 : Value) => BoxN.cell (HG.out _ (far5B HB1.out HZ3.out.2 v0 v1 v2 v3 v4)).2.1.1 0 rfl
              have t2 := fun (v0 v1 v2 v3 v4 : Value) => BoxN.cell (HG.out _ (far5B HB1.out HZ3.out.2 v0 v1 v2 v3 v4)).2.1.1 1 rfl
              have t3 := fun (v0 v1 v2 v3 v4 : Value) => BoxN.cell (HG.out _ (far5B HB1.out HZ3.out.2 v0 v1 v2 v3 v4)).2.1.1 2 rfl
              have t4 := fun (v0 v1 v2 v3 v4 : Value) => BoxN.cell (HG.out _ (far5B HB1.out HZ3.out.2 v0 v1 v2 v3 v4)).2.1.1 3 rfl
              have t5 := fun (v0 v1 v2 v3 v4 : Value) => BoxN.cell (HG.out _ (far5B HB1.out HZ3.out.2 v0 v1 v2 v3 v4)).2.1.1 4 rfl)
         try (have z0 := BoxN.cell HZ3.out.1 0 rfl
              have z1 := BoxN.cell HZ3.out.1 1 rfl
              have z2 := BoxN.cell HZ3.out.1 2 rfl
              have z3 := BoxN.cell HZ3.out.1 3 rfl
              have z4 := BoxN.cell HZ3.out.1 4 rfl
              have g0 := BoxN.frozen HZ3.out.1 0
              have g1 := BoxN.frozen HZ3.out.1 1
              have g2 := BoxN.frozen HZ3.out.1 2
              have g3 := BoxN.frozen HZ3.out.1 3
              have g4 := BoxN.frozen HZ3.out.1 4)
         clear hans hs3 hm3 hb1 hs0)
      | fail)
    all_goals
      first
        | (have HU := up5 HZ3.out rfl HSt.out.1 HB1.out ep nx3)
        | (have HU := upNew HSt.out.1 HB1.out HB1.out.size ep nx3)
      have H1 := (show Hid _ from HU.1)
      have H2 := (show Hid _ from And.intro HU.2.1 HSt.out.2)
      have H3 := (show Hid _ from HU.2.2)
      clear HU HSt HB1 HG1 HGa HG0 HBd HBz HZa
      go_wp2_with fail
      go_meet
      exact ⟨_, a3, c3, a3', c3', u3, uc3, l3, rfl, rfl, H1, H2, H3⟩
  case rest =>
  obtain ⟨w14, hw14⟩ : ∃ w14, wc = w14 := ⟨_, rfl⟩
  rw [hw14] at hcut ⊢
  clear hw14 HG0 HBd HBz HZa HQz k0 k1 k2 k3 k4 k5 q0 q1 q2 q3 q4 q5
  obtain ⟨p, a3, c3, a3', c3', u3, uc3, l3, rfl, rfl, HBp, HSp, HBo⟩ := hcut
  have HG4 := (show Hid _ from HG.out _ HBo.out)
  have b1 := BoxN.cell HG4.out.1.1 1 rfl
  have b2 := BoxN.cell HG4.out.1.1 2 rfl
  have HBw : Hid (Below w.heap.size w w14) := HG4.out.2.2.2
  obtain ⟨wt, hwt⟩ : ∃ wt, u.want = wt := ⟨_, rfl⟩
  have hdd := HDd.out
  rw [hwt, HE3.out.2.2.2] at hdd
  rw [hwt] at b1
  have HDe : Hid (((ZD : Int) < wt → cc3 = 4) ∧ (¬ (ZD : Int) < wt → (cc3 = 0 ∧ (gotU D.us id).done = true) ∨ cc3 = 5)) := ⟨hdd.1, fun h => hdd.2 (by omega)⟩
  clear hdd hwt HG HCc HDu HDd HG4
  by_cases hlt : (ZD : Int) < wt
  · have hd1 : decide ((ZD : Int) < wt) = true := by simpa using hlt
    have h4 : cc3 = 4 := HDe.out.1 hlt
    subst h4
    clear HDe hlt HBp HSp HBo HE3 HDz
    go_wp2_with fail
    go_ret
    exact ⟨rfl, HBw.out⟩
  have hd1 : decide ((ZD : Int) < wt) = false := by simpa using hlt
  have hcase := HDe.out.2 hlt
  have HCa : Hid ((cc3 = 0 ∧ (gotU D.us id).done = true) ∨ cc3 = 5) := hcase
  clear hcase HDe hlt
  have hM3b : M3 ≤ 1099511627776 := by
    have h1 := HDz.out.2
    have h2 := HE3.out.2.1
    have h3 := HMx.out
    omega
  have HZ3' : Hid (∀ e ∈ l3, e.n ≤ 1099511627776) := fun e he => by
    have h1 := (HSp.out.1.ups.2.1 e he).seg.1
    have h2 := HDz.out.1 e.u (by rw [← HSp.out.2]; exact List.mem_map_of_mem he)
    omega
  obtain ⟨p0, p1, p2, p3, p4⟩ := (show _ ∧ _ ∧ _ ∧ _ ∧ _ from ⟨BoxN.cell HBp.out 0 rfl, BoxN.cell HBp.out 1 rfl, BoxN.cell HBp.out 2 rfl, BoxN.cell HBp.out 3 rfl, BoxN.cell HBp.out 4 rfl⟩)
  go_wp2_with fail
  refine (implUpAt_any a3 N3 c3 a3' Y.length c3' ep nx3 u3 M3 uc3 w13.heap.size l3 id w14 HSp.out.1.ups HSp.out.1.len hM3b HZ3'.out).mono ?_
  rintro e w15 ⟨⟨UE_, UEC, rfl, hown⟩, hb15⟩
  rw [HSp.out.2]
  obtain ⟨ue, hue⟩ : ∃ ue, gotU D.us id = ue := ⟨_, rfl⟩
  obtain ⟨ok5, hok5⟩ : ∃ ok5, (atU D.us id).isSome = ok5 := ⟨_, rfl⟩
  have HCb : Hid ((cc3 = 0 ∧ ue.done = true) ∨ cc3 = 5) := by show _ ∨ _; rw [← hue]; exact HCa.out
  rw [hue, hok5]
  obtain ⟨ZE, hZE⟩ : ∃ ZE, ue.zs.length = ZE := ⟨_, rfl⟩
  rw [hZE]
  obtain ⟨dn5, hdn5⟩ : ∃ dn5, ue.done = dn5 := ⟨_, rfl⟩
  rw [hdn5] at HCb ⊢
  have HX15 : Hid (BoxN (w15.alloc (.cells #[.string ue.id, .int .i64 ue.want, .slice UE_ ZE UEC, .bool dn5] 36)) w15.heap.size 36 [.string ue.id, .int .i64 ue.want, .slice UE_ ZE UEC, .bool dn5] ∧ Below w.heap.size w (w15.alloc (.cells #[.string ue.id, .int .i64 ue.want, .slice UE_ ZE UEC, .bool dn5] 36))) := ⟨BoxN.new _ _ _, (HBw.out.trans (hb15.mono HBw.out.size)).alloc (Nat.le_trans HBw.out.size hb15.size) _⟩
  clear hown hb15 hue hok5 hZE hdn5 HCa HBw HBp HSp HBo HE3 HDz HZ3' p0 p1 p2 p3 p4 b1 b2
  go_upto_region 16 with fail
  obtain ⟨w16, hw16⟩ : ∃ w16, w15.alloc (.cells #[.string ue.id, .int .i64 ue.want, .slice UE_ ZE UEC, .bool dn5] 36) = w16 := ⟨_, rfl⟩
  rw [hw16] at HX15 ⊢
  clear hw16
  have e3 := BoxN.cell HX15.out.1 3 rfl
  have HBf : Hid (Below w.heap.size w w16) := HX15.out.2
  rcases HCb.out with ⟨h0, h1⟩ | h5
  · subst h0 h1
    clear HCb HX15
    go_wp2_with fail
    go_ret
    exact ⟨rfl, HBf.out⟩
  · subst h5
    clear HCb HX15
    go_wp2_with fail
    go_ret
    exact ⟨rfl, HBf.out⟩

end Go.Proofs.YtjaihnmhojabfaaGreatDoor
