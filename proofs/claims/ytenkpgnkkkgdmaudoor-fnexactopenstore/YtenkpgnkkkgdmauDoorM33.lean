/- What the program's OpenStore answers. What the specification's l14CopyUps answers. -/
import Derived.Test.YtenkpgnkkkgdmauDoorM22
import Derived.Test.YtenkpgnkkkgdmauDoorM23
import Derived.Test.YtenkpgnkkkgdmauDoorM30
import Derived.Test.YtenkpgnkkkgdmauDoorM30
import Derived.Test.YtenkpgnkkkgdmauDoorM31
import Derived.Test.YtenkpgnkkkgdmauDoorM31
import Derived.Test.YtenkpgnkkkgdmauDoorM05
import Derived.Test.YtenkpgnkkkgdmauDoorM32
import Derived.Test.YtenkpgnkkkgdmauDoorM32
import Derived.Test.YtenkpgnkkkgdmauDoorM03
import Derived.Test.YtenkpgnkkkgdmauDoorM04
import Derived.Test.YtenkpgnkkkgdmauDoorM04
import Derived.Test.YtenkpgnkkkgdmauDoorM19
import Derived.Test.YtenkpgnkkkgdmauDoorM19
import Derived.Deep.CutBlock
namespace Go.Proofs.YtenkpgnkkkgdmauDoor
open Go.RowKit
set_option linter.unusedVariables false

set_option maxRecDepth 10000 in
set_option maxHeartbeats 3200000 in
theorem implOpen_any (a : Option Addr) (n ca : Nat) (X : List ByteArray) (a' : Option Addr) (n' ca' : Nat) (Y : List ByteArray) (w : World) (h1 : Strs w a n X) (h2 : Strs w a' n' Y) (hn : n ≤ 1048576) (hn' : n' ≤ 1048576) (hz : ∀ x ∈ X, x.size ≤ 1048576) (ht : RecT w) (he : ErrN w) :
    Calls Tryd.prog 7 #[.agg #[.slice a n ca, .slice a' n' ca']] w fun e w' => OpenAns w.heap.size X Y e w' ∧ Below w.heap.size w w' := by
  obtain ⟨W2, hW2⟩ : ∃ W2, (w.alloc (.cells #[.slice a n ca, .slice a' n' ca'] 26)).alloc (.cells #[.slice none 0 0, .slice none 0 0, .int .i64 0, .int .i64 0, .slice none 0 0] 29) = W2 := ⟨_, rfl⟩
  have HE : Hid ((w.alloc (.cells #[.slice a n ca, .slice a' n' ca'] 26)).alloc (.cells #[.slice none 0 0, .slice none 0 0, .int .i64 0, .int .i64 0, .slice none 0 0] 29) = W2) := hW2
  have HB2 : Hid (Below w.heap.size w W2) := by show Below _ _ _; rw [← hW2]; exact ((Below.refl _ _).alloc (Nat.le_refl _) _).alloc (by simp) _
  have q1 : BoxN W2 w.heap.size 26 [.slice a n ca, .slice a' n' ca'] := by rw [← hW2]; exact (BoxN.new _ _ _).alloc _
  have q2 : BoxN W2 (w.heap.size + 1) 29 [.slice none 0 0, .slice none 0 0, .int .i64 0, .int .i64 0, .slice none 0 0] := by
    rw [← hW2]
    have := BoxN.new (w.alloc (.cells #[.slice a n ca, .slice a' n' ca'] 26)) 29 [.slice none 0 0, .slice none 0 0, .int .i64 0, .int .i64 0, .slice none 0 0]
    rwa [World.size_alloc] at this
  have HQ : Hid (∀ W, Below W2.heap.size W2 W → BoxN W w.heap.size 26 [.slice a n ca, .slice a' n' ca'] ∧ BoxN W (w.heap.size + 1) 29 [.slice none 0 0, .slice none 0 0, .int .i64 0, .int .i64 0, .slice none 0 0]) := fun W h => ⟨q1.stays h, q2.stays h⟩
  have HX : Hid (∀ W, Below W2.heap.size W2 W → Strs W a n X ∧ Strs W a' n' Y ∧ RecT W ∧ ErrN W) := fun W h => by
    have hw := HB2.out.trans (h.mono HB2.out.size)
    exact ⟨h1.below hw, h2.below hw, ht.below hw, he.below hw⟩
  have HZ : Hid (∀ x ∈ X, x.size ≤ 1048576) := hz
  have hs2 : w.heap.size + 1 < W2.heap.size := q2.lt
  clear hW2 q1 q2 h1 h2 hz ht he
  have HA0 : Hid (Below W2.heap.size W2 W2) := Below.refl _ _
  obtain ⟨c0, c1⟩ := (show _ ∧ _ from ⟨(HQ.out _ HA0.out).1.cell 0 rfl, (HQ.out _ HA0.out).1.cell 1 rfl⟩)
  go_enter Tryd.func7, Tryd.ntmps7
  go_upto_region 1 with fail
  rw [HE.out]
  clear HE
  go_wp2_with fail
  refine (implDok_any a n ca X a' n' ca' Y W2 (HX.out _ HA0.out).1 (HX.out _ HA0.out).2.1 (by omega) (by omega)).mono ?_
  rintro _ y1 ⟨rfl, hb1⟩
  have HB1 : Hid (Below W2.heap.size W2 y1) := hb1
  clear hb1 c0 c1
  cases hok : okD X Y
  · try dsimp only
    have HN : Hid (openO X Y = none) := by show _ = _; rw [openO, hok]
    have HBw : Hid (Below w.heap.size w y1) := HB2.out.trans (HB1.out.mono HB2.out.size)
    obtain ⟨r0, r1, r2, r3, r4⟩ := (show _ ∧ _ ∧ _ ∧ _ ∧ _ from ⟨(HQ.out _ HB1.out).2.cell 0 rfl, (HQ.out _ HB1.out).2.cell 1 rfl, (HQ.out _ HB1.out).2.cell 2 rfl, (HQ.out _ HB1.out).2.cell 3 rfl, (HQ.out _ HB1.out).2.cell 4 rfl⟩)
    obtain ⟨f0, f1, f2, f3, f4⟩ := (show _ ∧ _ ∧ _ ∧ _ ∧ _ from ⟨(HQ.out _ HB1.out).2.frozen 0, (HQ.out _ HB1.out).2.frozen 1, (HQ.out _ HB1.out).2.frozen 2, (HQ.out _ HB1.out).2.frozen 3, (HQ.out _ HB1.out).2.frozen 4⟩)
    clear HQ HX HB1
    go_wp2_with fail
    refine bodyPost_ret (v := .tuple #[.agg #[.slice none 0 0, .slice none 0 0, .int .i64 0, .int .i64 0, .slice none 0 0], .bool false]) (by simp [results, Tryd.f7, go_sem, r0, r1, r2, r3, r4]) rfl ?_
    refine ⟨?_, ?_⟩
    · rw [OpenAns, HN.out]
      exact ⟨_, rfl, none, 0, 0, none, 0, 0, none, 0, 0, [], rfl, ⟨⟨⟨rfl, .inl ⟨rfl, rfl⟩⟩, by simp⟩, ⟨⟨rfl, .inl ⟨rfl, rfl⟩⟩, by simp⟩, by simp, ⟨⟨rfl, .inl ⟨rfl, rfl⟩⟩, by simp, by simp⟩, rfl⟩, rfl⟩
    · exact ((((HBw.out.setCell (by dsimp only; omega) _).setCell (by dsimp only; omega) _).setCell (by dsimp only; omega) _).setCell (by dsimp only; omega) _).setCell (by dsimp only; omega) _

  have HOk : Hid (okD X Y = true) := hok
  clear hok
  obtain ⟨c0, c1⟩ := (show _ ∧ _ from ⟨(HQ.out _ HB1.out).1.cell 0 rfl, (HQ.out _ HB1.out).1.cell 1 rfl⟩)
  go_wp2_with fail
  refine (implScan_any a n ca X a' n' ca' y1 (HX.out _ HB1.out).1 (by omega) HZ.out (HX.out _ HB1.out).2.2.1).mono ?_
  rintro _ y2 ⟨⟨v2, rs, rfl, hrow, hlm⟩, hb2⟩
  have HC2 : Hid (Below W2.heap.size W2 y2) := HB1.out.trans (hb2.mono HB1.out.size)
  obtain ⟨ra, rc, rfl⟩ := hrow.shape
  obtain ⟨M, hM⟩ : ∃ M, rs.length = M := ⟨_, rfl⟩
  rw [hM] at hrow ⊢
  have HM : Hid (M = rs.length) := hM.symm
  have HLm : Hid (rs.map RE.r = scanR X) := hlm
  have HR2 : Hid (RcRow y2 y1.heap.size (.slice ra M rc) rs) := hrow
  have HSh : Hid (∀ e ∈ rs, e.n ≤ 24) := rows_short hrow hlm (scanFrom_ok X 0 0).2
  have HMl : Hid (M = (scanR X).length) := by show _ = _; rw [← hlm, List.length_map, hM]
  have hMn : M ≤ 1048576 := by
    have h1 := (scanFrom_ok X 0 0).1
    have h2 := (HX.out _ HC2.out).1.1
    have h3 := congrArg List.length hlm
    rw [List.length_map, hM] at h3
    have h4 : (scanR X).length = (scanFrom 0 0 X).length := rfl
    omega
  clear hrow hlm hM hb2 c0 c1
  go_wp2_with fail
  refine (implFold_any ra M rc y1.heap.size rs 24 y2 HR2.out HM.out (by omega) HSh.out (by omega) (by omega) (rows_ns HLm.out) (HX.out _ HC2.out).2.2.2).mono ?_
  rintro _ y3 ⟨⟨x3, l3, rfl, hrow3, hm3, h310⟩, hb3⟩
  rw [HLm.out, foldP_ok] at hm3 ⊢
  have HC3 : Hid (Below W2.heap.size W2 y3) := HC2.out.trans (hb3.mono HC2.out.size)
  obtain ⟨xa, xc, rfl⟩ := hrow3.shape
  obtain ⟨K, hK⟩ : ∃ K, l3.length = K := ⟨_, rfl⟩
  rw [hK] at hrow3 ⊢
  have hy2 : W2.heap.size ≤ y2.heap.size := HC2.out.size
  have HR3 : Hid (UpRow y3 y2.heap.size (.slice xa K xc) l3 ∧ K = l3.length) := ⟨hrow3, hK.symm⟩
  clear hb3 hrow3 hK h310 HB1 HC2 HR2
  obtain ⟨c0, c1⟩ := (show _ ∧ _ from ⟨(HQ.out _ HC3.out).1.cell 0 rfl, (HQ.out _ HC3.out).1.cell 1 rfl⟩)
  have HTb : Hid (-1 ≤ topE X ∧ topE X ≤ 10000) := topE_range X
  obtain ⟨T, hT⟩ : ∃ T, topE X = T := ⟨_, rfl⟩
  have HTe : Hid (topE X = T) := hT
  have htb : -1 ≤ T ∧ T ≤ 10000 := by rw [← hT]; exact HTb.out
  clear hT
  have htb1 : -1 ≤ T := htb.1
  have htb2 : T ≤ 10000 := htb.2
  clear htb
  cases hf : foldU (scanR X) with
  | none =>
    rw [hf] at hm3
    dsimp only [Option.isSome]
    go_wp2_with fail
    refine (implTop_any a n ca X a' n' ca' y3 (HX.out _ HC3.out).1 (by omega) HZ.out (HX.out _ HC3.out).2.2.1).mono ?_
    rintro _ y4 ⟨rfl, hb4⟩
    rw [HTe.out]
    have HC4 : Hid (Below W2.heap.size W2 y4) := HC3.out.trans (hb4.mono HC3.out.size)
    clear hb4 c0 c1 HR3 HC3
    have HN : Hid (openO X Y = none) := by show _ = _; rw [openO, HOk.out, hf]
    have HBw : Hid (Below w.heap.size w y4) := HB2.out.trans (HC4.out.mono HB2.out.size)
    obtain ⟨r0, r1, r2, r3, r4⟩ := (show _ ∧ _ ∧ _ ∧ _ ∧ _ from ⟨(HQ.out _ HC4.out).2.cell 0 rfl, (HQ.out _ HC4.out).2.cell 1 rfl, (HQ.out _ HC4.out).2.cell 2 rfl, (HQ.out _ HC4.out).2.cell 3 rfl, (HQ.out _ HC4.out).2.cell 4 rfl⟩)
    obtain ⟨f0, f1, f2, f3, f4⟩ := (show _ ∧ _ ∧ _ ∧ _ ∧ _ from ⟨(HQ.out _ HC4.out).2.frozen 0, (HQ.out _ HC4.out).2.frozen 1, (HQ.out _ HC4.out).2.frozen 2, (HQ.out _ HC4.out).2.frozen 3, (HQ.out _ HC4.out).2.frozen 4⟩)
    clear HQ HX HC4
    go_wp2_with fail
    refine bodyPost_ret (v := .tuple #[.agg #[.slice none 0 0, .slice none 0 0, .int .i64 0, .int .i64 0, .slice none 0 0], .bool false]) (by simp [results, Tryd.f7, go_sem, r0, r1, r2, r3, r4]) rfl ?_
    refine ⟨?_, ?_⟩
    · rw [OpenAns, HN.out]
      exact ⟨_, rfl, none, 0, 0, none, 0, 0, none, 0, 0, [], rfl, ⟨⟨⟨rfl, .inl ⟨rfl, rfl⟩⟩, by simp⟩, ⟨⟨rfl, .inl ⟨rfl, rfl⟩⟩, by simp⟩, by simp, ⟨⟨rfl, .inl ⟨rfl, rfl⟩⟩, by simp, by simp⟩, rfl⟩, rfl⟩
    · exact ((((HBw.out.setCell (by dsimp only; omega) _).setCell (by dsimp only; omega) _).setCell (by dsimp only; omega) _).setCell (by dsimp only; omega) _).setCell (by dsimp only; omega) _

  | some us =>
    rw [hf] at hm3
    dsimp only [Option.isSome]
    have HUs : Hid (l3.map UE.u = us) := hm3
    have HFo : Hid (foldU (scanR X) = some us) := hf
    clear hm3 hf
    go_wp2_with fail
    refine (implTop_any a n ca X a' n' ca' y3 (HX.out _ HC3.out).1 (by omega) HZ.out (HX.out _ HC3.out).2.2.1).mono ?_
    rintro _ y4 ⟨rfl, hb4⟩
    rw [HTe.out]
    have HC4 : Hid (Below W2.heap.size W2 y4) := HC3.out.trans (hb4.mono HC3.out.size)
    have HR4 : Hid (UpRow y4 y2.heap.size (.slice xa K xc) l3 ∧ K = l3.length) := ⟨HR3.out.1.stays hb4, HR3.out.2⟩
    clear hb4 c0 c1 HR3 HC3
    by_cases hbig : 10000 < T + 1
    · clear HR4
      have HN : Hid (openO X Y = none) := by show _ = _; rw [openO, HOk.out, HFo.out, HTe.out]; simp [hbig]
      have HBw : Hid (Below w.heap.size w y4) := HB2.out.trans (HC4.out.mono HB2.out.size)
      obtain ⟨r0, r1, r2, r3, r4⟩ := (show _ ∧ _ ∧ _ ∧ _ ∧ _ from ⟨(HQ.out _ HC4.out).2.cell 0 rfl, (HQ.out _ HC4.out).2.cell 1 rfl, (HQ.out _ HC4.out).2.cell 2 rfl, (HQ.out _ HC4.out).2.cell 3 rfl, (HQ.out _ HC4.out).2.cell 4 rfl⟩)
      obtain ⟨f0, f1, f2, f3, f4⟩ := (show _ ∧ _ ∧ _ ∧ _ ∧ _ from ⟨(HQ.out _ HC4.out).2.frozen 0, (HQ.out _ HC4.out).2.frozen 1, (HQ.out _ HC4.out).2.frozen 2, (HQ.out _ HC4.out).2.frozen 3, (HQ.out _ HC4.out).2.frozen 4⟩)
      clear HQ HX HC4
      go_wp2_with fail
      refine bodyPost_ret (v := .tuple #[.agg #[.slice none 0 0, .slice none 0 0, .int .i64 0, .int .i64 0, .slice none 0 0], .bool false]) (by simp [results, Tryd.f7, go_sem, r0, r1, r2, r3, r4]) rfl ?_
      refine ⟨?_, ?_⟩
      · rw [OpenAns, HN.out]
        exact ⟨_, rfl, none, 0, 0, none, 0, 0, none, 0, 0, [], rfl, ⟨⟨⟨rfl, .inl ⟨rfl, rfl⟩⟩, by simp⟩, ⟨⟨rfl, .inl ⟨rfl, rfl⟩⟩, by simp⟩, by simp, ⟨⟨rfl, .inl ⟨rfl, rfl⟩⟩, by simp, by simp⟩, rfl⟩, rfl⟩
      · exact ((((HBw.out.setCell (by dsimp only; omega) _).setCell (by dsimp only; omega) _).setCell (by dsimp only; omega) _).setCell (by dsimp only; omega) _).setCell (by dsimp only; omega) _

    have HS : Hid (openO X Y = some (T + 1, M, us)) := by show _ = _; rw [openO, HOk.out, HFo.out, HTe.out, HMl.out]; simp [hbig]
    obtain ⟨c0, c1⟩ := (show _ ∧ _ from ⟨(HQ.out _ HC4.out).1.cell 0 rfl, (HQ.out _ HC4.out).1.cell 1 rfl⟩)
    go_wp2_with fail
    refine (implDcopy_any a n ca X a' n' ca' Y y4 (HX.out _ HC4.out).1 (HX.out _ HC4.out).2.1 (by omega) (by omega)).mono ?_
    rintro _ y5 ⟨⟨v5, rfl, A, C, A', C', rfl, ow, ow', hap⟩, hb5⟩
    have HBw : Hid (Below w.heap.size w y5) := by
      have h1 := HC4.out.trans (hb5.mono HC4.out.size)
      exact HB2.out.trans (h1.mono HB2.out.size)
    have hy4 : W2.heap.size ≤ y4.heap.size := HC4.out.size
    have HS5 : Hid (StoAt y5 (w.heap.size + 2) A X.length C X A' Y.length C' Y xa K xc l3) := ⟨ow.low (by omega), ow'.low (by omega), hap, (HR4.out.1.stays hb5).low (by omega), HR4.out.2⟩
    have hq5 := (HQ.out _ (HC4.out.trans (hb5.mono HC4.out.size))).2
    obtain ⟨r0, r1, r2, r3, r4⟩ := (show _ ∧ _ ∧ _ ∧ _ ∧ _ from ⟨hq5.cell 0 rfl, hq5.cell 1 rfl, hq5.cell 2 rfl, hq5.cell 3 rfl, hq5.cell 4 rfl⟩)
    obtain ⟨f0, f1, f2, f3, f4⟩ := (show _ ∧ _ ∧ _ ∧ _ ∧ _ from ⟨hq5.frozen 0, hq5.frozen 1, hq5.frozen 2, hq5.frozen 3, hq5.frozen 4⟩)
    clear ow ow' hap hb5 hq5 HQ HX HC4 HR4 c0 c1
    go_wp2_with fail
    refine bodyPost_ret (v := .tuple #[.agg #[.slice A X.length C, .slice A' Y.length C', .int .i64 (T + 1), .int .i64 (M : Int), .slice xa K xc], .bool true]) (by simp [results, Tryd.f7, go_sem, r0, r1, r2, r3, r4]) rfl ?_
    refine ⟨?_, ?_⟩
    · rw [OpenAns, HS.out]
      exact ⟨_, rfl, A, X.length, C, A', Y.length, C', xa, K, xc, l3, rfl, (((((HS5.out.setLow (by omega) _).setLow (by omega) _).setLow (by omega) _).setLow (by omega) _).setLow (by omega) _).low (by omega), HUs.out⟩
    · exact ((((HBw.out.setCell (by dsimp only; omega) _).setCell (by dsimp only; omega) _).setCell (by dsimp only; omega) _).setCell (by dsimp only; omega) _).setCell (by dsimp only; omega) _

end Go.Proofs.YtenkpgnkkkgdmauDoor

namespace Go.Proofs.YtenkpgnkkkgdmauDoor
open Go.RowKit
set_option linter.unusedVariables false

set_option maxRecDepth 10000 in
set_option maxHeartbeats 1600000 in
theorem specCopyU_any (a : Option Addr) (n c lo : Nat) (l : List UE) (w : World) (h : UpRow w lo (.slice a n c) l) (hn : n = l.length) (hl : n ≤ 1048576) (hz : ∀ e ∈ l, e.n ≤ 1099511627776) :
    Calls Tryd.prog 49 #[.slice a n c] w fun e w' => (∃ v l', e = .returned v ∧ UpRow w' w.heap.size v l' ∧ l'.map UE.u = l.map UE.u ∧ ∀ e ∈ l', ∃ g, e.a = some ⟨g, 0, none⟩) ∧ Below w.heap.size w w' := by
  obtain ⟨i0, hi, hz0, hz1, hz2⟩ := info_parts info_up
  obtain ⟨j0, ji, jz0, jz1, jz2⟩ := info_parts Tryd.info5
  have HX : Hid (∀ W, Below w.heap.size w W → UpRow W lo (.slice a n c) l) := fun W hb => h.stays hb
  have HN : Hid (n = l.length) := hn
  have HZ : Hid (∀ e ∈ l, e.n ≤ 1099511627776) := hz
  clear h hn hz
  have HO0 : Hid (UpRow (w.alloc (.cells #[] 64)) w.heap.size (.slice (some ⟨w.heap.size, 0, none⟩) 0 0) []) := UpRow.nil w
  have HB0 : Hid (Below w.heap.size w (w.alloc (.cells #[] 64))) := (Below.refl _ _).alloc (Nat.le_refl _) _
  go_enter Tryd.func49, Tryd.ntmps49
  go_wp2_with fail
  go_loopw [3, 4] (fun v i wr => ∃ (k : Nat) (l' : List UE), k ≤ n ∧ l'.length = k ∧ i = .int .i64 (k : Int) ∧ Hid (UpRow wr w.heap.size v l') ∧ Hid (l'.map UE.u = (l.map UE.u).take k) ∧ Hid (∀ e ∈ l', ∃ g, e.a = some ⟨g, 0, none⟩) ∧ Hid (Below w.heap.size w wr)) (fun _ i _ => n - (intOf i).toNat)
  case atStart => exact ⟨0, [], Nat.zero_le _, rfl, rfl, HO0, rfl, (fun e he => absurd he (List.not_mem_nil)), HB0⟩
  case round =>
    clear HO0 HB0
    obtain ⟨k, l', hk, hlk, rfl, HO, HM, HSm, HW⟩ := hrel
    obtain ⟨va, vc, hve⟩ := HO.out.shape
    subst hve
    rw [hlk] at HO ⊢
    by_cases hlt : k < n
    case neg =>
      obtain rfl : k = n := by omega
      have HF : Hid (l'.map UE.u = l.map UE.u) := by show _ = _; rw [HM.out, List.take_of_length_le (by rw [List.length_map, HN.out]; exact Nat.le_refl _)]
      clear HM
      go_wp2_with fail
      go_ret
      exact ⟨⟨_, l', rfl, HO.out, HF.out, HSm.out⟩, HW.out⟩
    have hkl : k < l.length := by rw [← HN.out]; exact hlt
    have hki : (k : Int) < (n : Int) := by omega
    have hk0 : (0 : Int) ≤ (k : Int) := by omega
    obtain ⟨g, rfl, g0, g1, g2, g3, _⟩ := (HX.out _ HW.out).at HN.out hkl
    have HSg : Hid (Seg wr (l[k]).a (l[k]).n (l[k]).u.zs) := ((HX.out _ HW.out).2.1 (l[k]) (List.getElem_mem hkl)).seg
    have hen : (l[k]).n ≤ 1099511627776 := HZ.out _ (List.getElem_mem hkl)
    have HM2 : Hid (l'.map UE.u ++ [(l[k]).u] = (l.map UE.u).take (k + 1)) := by show _ = _; rw [List.take_add_one, List.getElem?_map, List.getElem?_eq_getElem hkl, HM.out]; rfl
    clear HM
    generalize l[k] = e at *
    have hb1 := (Below.refl wr.heap.size wr).alloc (Nat.le_refl _) (.cells #[.string e.u.id, .int .i64 e.u.want, .slice e.a e.n e.c, .bool e.u.done] 64)
    have HB1 : Hid (Below w.heap.size w (wr.alloc (.cells #[.string e.u.id, .int .i64 e.u.want, .slice e.a e.n e.c, .bool e.u.done] 64))) := HW.out.trans (hb1.mono HW.out.size)
    have HO1 : Hid (UpRow (wr.alloc (.cells #[.string e.u.id, .int .i64 e.u.want, .slice e.a e.n e.c, .bool e.u.done] 64)) w.heap.size (.slice va k vc) l') := HO.out.stays hb1
    have HS1 : Hid (Seg (wr.alloc (.cells #[.string e.u.id, .int .i64 e.u.want, .slice e.a e.n e.c, .bool e.u.done] 64)) e.a e.n e.u.zs) := HSg.out.below hb1
    have HU1 : Hid (BoxN (wr.alloc (.cells #[.string e.u.id, .int .i64 e.u.want, .slice e.a e.n e.c, .bool e.u.done] 64)) wr.heap.size 64 [.string e.u.id, .int .i64 e.u.want, .slice e.a e.n e.c, .bool e.u.done]) := BoxN.new _ _ _
    have hlo : w.heap.size ≤ wr.heap.size := HW.out.size
    have HAp : Hid (∀ x ∈ l', ∀ q, x.a.map (·.block) = some q → q < wr.heap.size) := fun x hx q hq => (HO.out.lts.2 x hx q hq).2
    have HVa : Hid (∀ q, (Value.slice va k vc).ownBlock = some q → q < wr.heap.size) := fun q hq => (HO.out.lts.1 q hq).2
    clear hb1 HSg HW HO
    go_upto_region 6 with fail
    obtain ⟨x1, hx1⟩ : ∃ x1, wr.alloc (.cells #[.string e.u.id, .int .i64 e.u.want, .slice e.a e.n e.c, .bool e.u.done] 64) = x1 := ⟨_, rfl⟩
    rw [hx1] at HB1 HO1 HS1 HU1 ⊢
    clear hx1 g0 g1 g2 g3
    generalize wr.heap.size = bx at *
    have hbx : bx < x1.heap.size := HU1.out.lt
    have hb2 := (Below.refl x1.heap.size x1).alloc (Nat.le_refl _) (.cells #[] 5)
    have HR2 : Hid ((x1.alloc (.cells #[] 5)).ownsRow x1.heap.size 5 1 (.slice (some ⟨x1.heap.size, 0, none⟩) 0 0) 0 []) := World.ownsRow_lit x1 #[] 0 (Nat.le_refl _) (Nat.zero_le _) rfl
    have HSr : Hid (Src Tryd.prog 1 50 (.slice e.a e.n e.c) e.n (e.u.zs.map (Value.int .u8)) (x1.alloc (.cells #[] 5))) := (HS1.out.below hb2).src
    have hU2 := HU1.out.stays hb2
    have u2 := hU2.cell 2 rfl
    have HZr : Hid (∀ x ∈ e.u.zs, 0 ≤ x ∧ x ≤ 255) := HS1.out.2.1
    have HL2 : Hid (x1.heap.size ≤ (x1.alloc (.cells #[] 5)).heap.size) := hb2.size
    go_wp2_with (at_builtin; refine wpList_append_loc rfl _ _ 50 50 rfl x1.heap.size 5 j0 (.int .u8 0) 1 1 Tryd.underlying50 ji jz0 jz1 jz2 rfl (by decide) x1.heap.size 0 0 [] rfl HR2.out (.slice e.a e.n e.c) e.n (e.u.zs.map (Value.int .u8)) rfl HSr.out (by unfold maxLen; omega) (by omega) HL2.out ?_; intro gA C x3 hown3 hg3 _; refine Hid.out ?_)
    refine hidden ?_
    obtain ⟨A, hAe⟩ : ∃ A : Option Addr, some ⟨gA, 0, none⟩ = A := ⟨_, rfl⟩
    have HAe : Hid (some ⟨gA, 0, none⟩ = A) := hAe
    rw [hAe] at hown3 ⊢
    have hown3' : x3.ownsRow x1.heap.size 5 1 (.slice A e.n C) e.n (e.u.zs.map (Value.int .u8)) := by
      have h := hown3
      rw [Nat.zero_add] at h
      simpa using h
    clear hAe
    have ho3 : Owns x3 x1.heap.size A e.n C e.u.zs := ⟨hown3', HZr.out⟩
    have hU3 := hU2.grown hg3 (fun q => by injection q with q; omega)
    have hO3 : UpRow x3 w.heap.size (.slice va k vc) l' := (HO1.out.stays hb2).grown hg3 (fun q hq hq2 => by injection hq with hq; have := HVa.out q hq2; omega) (fun x hx q hq hq2 => by injection hq with hq; have := HAp.out x hx q hq2; omega)
    have hB3 : Below w.heap.size w x3 := (HB1.out.trans (hb2.mono HB1.out.size)).grown hg3 (by have := HB1.out.size; have := hb2.size; omega) (fun q hq => by injection hq with hq; have := HB1.out.size; omega)
    have y2 := hU3.cell 2 rfl
    have z2 := hU3.frozen 2
    have hA : A.map (·.block) ≠ some bx := fun q => by have := (ho3.lt _ q).1; omega
    have hgs : x3.grownBy (x3.setCell ⟨bx, 2, none⟩ (.slice A e.n C)) (some bx) := grownBy_setU x3 bx 2 _
    have HU4 : Hid (BoxN (x3.setCell ⟨bx, 2, none⟩ (.slice A e.n C)) bx 64 [.string e.u.id, .int .i64 e.u.want, .slice A e.n C, .bool e.u.done]) := hU3.set 2 _
    have HO4 : Hid (UpRow (x3.setCell ⟨bx, 2, none⟩ (.slice A e.n C)) w.heap.size (.slice va k vc) l') := hO3.grown hgs (fun q hq hq2 => by injection hq with hq; have := HVa.out q hq2; omega) (fun x hx q hq hq2 => by injection hq with hq; have := HAp.out x hx q hq2; omega)
    have HD4 : Hid (Owns (x3.setCell ⟨bx, 2, none⟩ (.slice A e.n C)) (bx + 1) A e.n C e.u.zs) := owns_low (owns_set ho3 hA) (by omega)
    have HB4 : Hid (Below w.heap.size w (x3.setCell ⟨bx, 2, none⟩ (.slice A e.n C))) := hB3.setCell (by dsimp only; omega) _
    clear hown3 hown3' ho3 hU3 hO3 hB3 hA hgs hg3 hU2 u2 HR2 HSr HB1 HO1 HS1 HU1 hb2 HL2
    go_upto_region 7 with fail
    obtain ⟨x4, hx4⟩ : ∃ x4, (x3.setCell ⟨bx, 2, none⟩ (.slice A e.n C)) = x4 := ⟨_, rfl⟩
    rw [hx4] at HU4 HO4 HD4 HB4 ⊢
    clear hx4 y2 z2
    have hbx4 : bx < x4.heap.size := HU4.out.lt
    have hw4 : w.heap.size ≤ x4.heap.size := HB4.out.size
    obtain ⟨t0, t1, t2, t3⟩ := (show _ ∧ _ ∧ _ ∧ _ from ⟨HU4.out.cell 0 rfl, HU4.out.cell 1 rfl, HU4.out.cell 2 rfl, HU4.out.cell 3 rfl⟩)
    have HNw : Hid (∀ j u, (UE.cells ⟨e.u, A, e.n, C⟩)[j]? = some u → (x4.alloc (.cells #[.string e.u.id, .int .i64 e.u.want, .slice A e.n C, .bool e.u.done] 64)).cell? ((⟨x4.heap.size, 0, none⟩ : Addr).add j) = some u) := four_new x4 e.u A e.n C
    have HO4' : Hid ((x4.alloc (.cells #[.string e.u.id, .int .i64 e.u.want, .slice A e.n C, .bool e.u.done] 64)).ownsRow w.heap.size 64 4 (.slice va k vc) k (ueCells l')) := by
      have h := HO4.out.1.alloc (.cells #[.string e.u.id, .int .i64 e.u.want, .slice A e.n C, .bool e.u.done] 64)
      rw [hlk] at h
      exact h
    have HAp' : Hid (∀ x ∈ l', ∀ q, x.a.map (·.block) = some q → q < bx + 1) := fun x hx q hq => by have := HAp.out x hx q hq; omega
    go_wp2_with (at_builtin; refine wpList_append_own _ rfl _ _ 27 rfl w.heap.size 64 i0 (.agg #[.string ⟨#[]⟩, .int .i64 0, .slice none 0 0, .bool false]) 4 56 Tryd.underlying27 hi hz0 hz1 hz2 rfl (by decide) (.slice va k vc) k _ rfl HO4'.out ⟨x4.heap.size, 0, none⟩ 1 1 (UE.cells ⟨e.u, A, e.n, C⟩) rfl rfl HNw.out (four_one e.u A e.n C) (by unfold maxLen; omega) (by omega) (by simp; omega) ?_; intro v5 x5 hown5 hg5 _; refine Hid.out ?_)
    refine hidden ?_
    have HO5 : Hid (UpRow x5 w.heap.size v5 (l' ++ [⟨e.u, A, e.n, C⟩])) := HO4.out.snoc HD4.out (by omega) HAp'.out (by rw [hlk]; exact hown5) hg5
    have HB5 : Hid (Below w.heap.size w x5) := (HB4.out.alloc HB4.out.size _).grown hg5 (by simp; omega) (fun q hq => (HO4.out.lts.1 q hq).1)
    have HM5 : Hid ((l' ++ [(⟨e.u, A, e.n, C⟩ : UE)]).map UE.u = (l.map UE.u).take (k + 1)) := by show _ = _; rw [List.map_append]; exact HM2.out
    have HSm5 : Hid (∀ x ∈ l' ++ [(⟨e.u, A, e.n, C⟩ : UE)], ∃ g, x.a = some ⟨g, 0, none⟩) := fun x hx => by
      rcases List.mem_append.1 hx with hx | hx
      · exact HSm.out x hx
      · obtain rfl : x = ⟨e.u, A, e.n, C⟩ := by simpa using hx
        exact ⟨gA, HAe.out.symm⟩
    clear hown5 hg5 HNw HO4' HO4 HD4 HU4 HB4 t0 t1 t2 t3 HM2
    obtain ⟨v5a, v5c, rfl⟩ := HO5.out.shape
    rw [List.length_append, hlk] at HO5 ⊢
    go_wp2_with fail
    go_roundw
    case rel => exact ⟨k + 1, l' ++ [⟨e.u, A, e.n, C⟩], by omega, by simp [hlk], by go_num, HO5, HM5, HSm5, HB5⟩
    case measure => simp [intOf]; omega

end Go.Proofs.YtenkpgnkkkgdmauDoor
