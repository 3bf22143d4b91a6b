/- What the specification's StoreOk answers. -/
import Derived.Test.YtlkgopoicpnacaaGreatDoorM10
import Derived.Test.YtlkgopoicpnacaaGreatDoorM11
import Derived.Test.YtlkgopoicpnacaaGreatDoorM12
import Derived.Test.YtlkgopoicpnacaaGreatDoorM15
import Derived.Test.YtlkgopoicpnacaaGreatDoorM15
import Derived.Test.YtlkgopoicpnacaaGreatDoorM15
import Derived.Test.YtlkgopoicpnacaaGreatDoorM03
namespace Go.Proofs.YtlkgopoicpnacaaGreatDoor
open Go.RowKit
set_option linter.unusedVariables false

set_option maxRecDepth 10000 in
set_option maxHeartbeats 1600000 in
theorem specSok_any (a : Option Addr) (n ca : Nat) (X : List ByteArray) (a' : Option Addr) (n' ca' : Nat) (Y : List ByteArray) (ep nx : Int) (ua : Option Addr) (un uc lo : Nat) (l : List UE) (w : World) (h1 : Strs w a n X) (h2 : Strs w a' n' Y) (hn : n ≤ 1048576) (hn' : n' ≤ 1048576) (hz : ∀ x ∈ X, x.size ≤ 1048576) (hu : UpRow w lo (.slice ua un uc) l) (hun : un = l.length) (hul : un ≤ 1048576) :
    Calls Tryz.prog 72 #[.agg #[.slice a n ca, .slice a' n' ca', .int .i64 ep, .int .i64 nx, .slice ua un uc]] w fun e w' => (∃ b : Bool, e = .returned (.bool b) ∧ (b = true ↔ SOk X Y ep nx (l.map UE.u))) ∧ Below w.heap.size w w' := by
  have hmm : maxLen < 9223372036854775808 := by decide
  obtain ⟨w0, hw0⟩ : ∃ w0, w.alloc (.cells #[.slice a n ca, .slice a' n' ca', .int .i64 ep, .int .i64 nx, .slice ua un uc] 29) = w0 := ⟨_, rfl⟩
  have HE : Hid (w.alloc (.cells #[.slice a n ca, .slice a' n' ca', .int .i64 ep, .int .i64 nx, .slice ua un uc] 29) = w0) := hw0
  have HQ : Hid (BoxN w0 w.heap.size 29 [.slice a n ca, .slice a' n' ca', .int .i64 ep, .int .i64 nx, .slice ua un uc]) := by show BoxN _ _ _ _; rw [← hw0]; exact BoxN.new _ _ _
  have HB : Hid (Below w.heap.size w w0) := by show Below _ _ _; rw [← hw0]; exact (Below.refl _ _).alloc (Nat.le_refl _) _
  have HX : Hid (∀ W, Below w0.heap.size w0 W → BoxN W w.heap.size 29 [.slice a n ca, .slice a' n' ca', .int .i64 ep, .int .i64 nx, .slice ua un uc] ∧ Strs W a n X ∧ Strs W a' n' Y ∧ UpRow W lo (.slice ua un uc) l ∧ Below w.heap.size w W) := fun W hb => ⟨HQ.out.stays hb, (h1.below HB.out).below hb, (h2.below HB.out).below hb, (hu.stays HB.out).stays hb, HB.out.trans (hb.mono HB.out.size)⟩
  have HZ : Hid (∀ x ∈ X, x.size ≤ 1048576) := hz
  have HU : Hid (un = l.length) := hun
  have hww : w.heap.size < w0.heap.size := HQ.out.lt
  clear hw0 h1 h2 hu hz hun HB HQ
  have HA0 : Hid (Below w0.heap.size w0 w0) := Below.refl _ _
  obtain ⟨c0, c1, c2, c3, c4⟩ := (show _ ∧ _ ∧ _ ∧ _ ∧ _ from ⟨(HX.out _ HA0.out).1.cell 0 rfl, (HX.out _ HA0.out).1.cell 1 rfl, (HX.out _ HA0.out).1.cell 2 rfl, (HX.out _ HA0.out).1.cell 3 rfl, (HX.out _ HA0.out).1.cell 4 rfl⟩)
  go_enter Tryz.func72, Tryz.ntmps72
  go_upto_region 1 with fail
  rw [HE.out]
  clear HE
  go_wp2_with fail
  refine (specDok_any a n ca X a' n' ca' Y w0 (HX.out _ HA0.out).2.1 (HX.out _ HA0.out).2.2.1 (by omega) (by omega)).mono ?_
  rintro _ y1 ⟨rfl, hb1⟩
  have HB1 : Hid (Below w0.heap.size w0 y1) := hb1
  clear hb1 c0 c1 c2 c3 c4
  obtain ⟨c0, c1, c2, c3, c4⟩ := (show _ ∧ _ ∧ _ ∧ _ ∧ _ from ⟨(HX.out _ HB1.out).1.cell 0 rfl, (HX.out _ HB1.out).1.cell 1 rfl, (HX.out _ HB1.out).1.cell 2 rfl, (HX.out _ HB1.out).1.cell 3 rfl, (HX.out _ HB1.out).1.cell 4 rfl⟩)
  cases hok : okD X Y
  · have HF : Hid (¬ SOk X Y ep nx (l.map UE.u)) := fun h => by have := h.1; rw [hok] at this; cases this
    have HBw : Hid (Below w.heap.size w y1) := (HX.out y1 HB1.out).2.2.2.2
    clear hok
    go_wp2_with fail
    go_ret
    exact ⟨⟨false, rfl, no_store HF.out⟩, HBw.out⟩
  have HOk : Hid (okD X Y = true) := hok
  clear hok
  go_wp2_with fail
  refine (l1In_any ep 0 10000 y1).mono ?_
  rintro _ y ⟨rfl, hy⟩
  rw [hy]
  clear hy y
  by_cases hep : 0 ≤ ep ∧ ep ≤ 10000
  case neg =>
    have HF : Hid (¬ SOk X Y ep nx (l.map UE.u)) := fun h => hep h.2.1
    have HBw : Hid (Below w.heap.size w y1) := (HX.out y1 HB1.out).2.2.2.2
    rw [decide_eq_false hep]
    go_wp2_with fail
    go_ret
    exact ⟨⟨false, rfl, no_store HF.out⟩, HBw.out⟩
  rw [decide_eq_true hep]
  have HEp : Hid (0 ≤ ep ∧ ep ≤ 10000) := hep
  clear hep
  go_wp2_with fail
  refine (specScan_any a n ca X a' n' ca' y1 (HX.out _ HB1.out).2.1 (by omega) HZ.out).mono ?_
  rintro _ y2 ⟨⟨v2, rs, rfl, hrow, hlm⟩, hb2⟩
  have HB2 : Hid (Below w0.heap.size w0 y2) := HB1.out.trans (hb2.mono HB1.out.size)
  obtain ⟨ra, rc, rfl⟩ := hrow.shape
  obtain ⟨M, hM⟩ : ∃ M, rs.length = M := ⟨_, rfl⟩
  rw [hM] at hrow ⊢
  have HM : Hid (M = rs.length) := hM.symm
  have HLm : Hid (rs.map RE.r = scanR X) := hlm
  have HR2 : Hid (∀ W, Below y2.heap.size y2 W → RcRow W y1.heap.size (.slice ra M rc) rs) := fun W h => hrow.stays h
  have HSh : Hid (∀ e ∈ rs, e.n ≤ 24) := rows_short hrow hlm (scanFrom_ok X 0 0).2
  have hMn : M ≤ 1048576 := by
    have h1 := (scanFrom_ok X 0 0).1
    have h2 := (HX.out _ HB2.out).2.1.1
    have h3 := congrArg List.length hlm
    rw [List.length_map, hM] at h3
    have h4 : (scanR X).length = (scanFrom 0 0 X).length := rfl
    omega
  clear hrow hlm hM hb2 c0 c1 c2 c3 c4
  go_wp2_with fail
  refine (specFold_any ra M rc y1.heap.size rs 24 y2 (HR2.out _ (Below.refl _ _)) HM.out (by omega) HSh.out (by omega) (by omega)).mono ?_
  rintro _ y3 ⟨⟨x3, l3, rfl, hrow3, hm3, h310⟩, hb3⟩
  rw [HLm.out] at hm3 ⊢
  have HB3 : Hid (Below w0.heap.size w0 y3) := HB2.out.trans (hb3.mono HB2.out.size)
  obtain ⟨xa, xc, rfl⟩ := hrow3.shape
  have HR3 : Hid (∀ P : Past y3, UpRow P.world y2.heap.size (.slice xa l3.length xc) l3) := fun P => hrow3.stays P.below
  have HRr : Hid (∀ P : Past y3, RcRow P.world y1.heap.size (.slice ra M rc) rs) := fun P => HR2.out _ (hb3.trans (P.below.mono hb3.size))
  clear hb3 hrow3
  go_upto_region 5 with fail
  have x2 : ∀ P : Past y3, P.world.cell? ⟨w.heap.size, 2, none⟩ = some (.int .i64 ep) := fun P => (HX.out _ (HB3.out.trans (P.below.mono HB3.out.size))).1.cell 2 rfl
  have x3 : ∀ P : Past y3, P.world.cell? ⟨w.heap.size, 3, none⟩ = some (.int .i64 nx) := fun P => (HX.out _ (HB3.out.trans (P.below.mono HB3.out.size))).1.cell 3 rfl
  have x4 : ∀ P : Past y3, P.world.cell? ⟨w.heap.size, 4, none⟩ = some (.slice ua un uc) := fun P => (HX.out _ (HB3.out.trans (P.below.mono HB3.out.size))).1.cell 4 rfl
  have HSm : Hid (∀ P : Past y3, Calls Tryz.prog 102 #[.slice xa l3.length xc, .slice ua un uc] P.world fun e w' => e = .returned (.bool (decB (l3.map UE.u = l.map UE.u))) ∧ Below P.world.heap.size P.world w') := fun P => (specSameU_any xa l3.length xc y2.heap.size l3 ua un uc lo l P.world (HR3.out P) rfl (HX.out _ (HB3.out.trans (P.below.mono HB3.out.size))).2.2.2.1 HU.out (by omega) (by omega)).mono (fun e w' ⟨⟨b, he, hb⟩, hbl⟩ => ⟨by rw [he, decB_iff hb], hbl⟩)
  have hne := past_some y3
  cases hf : foldU (scanR X) with
  | none =>
    have HF : Hid (¬ SOk X Y ep nx (l.map UE.u)) := fun h => by have := h.2.2.1; rw [hf] at this; cases this
    rw [hf] at hm3
    try dsimp only [Option.isSome]
    refine wp_region_pastO (by kernel_rfl) (by kernel_rfl) fun ops HO => ?_
    iterate 3 (quiet_step ((first | (go_at_call 102; with_reducible exact calls_past (HSm.out _)) | fail)))
    iterate 5 (refine quiet_past (by rw [HO.out]; kernel_rfl) ?_)
    iterate 2 (quiet_step ((first | (go_at_call 102; with_reducible exact calls_past (HSm.out _)) | fail)))
    iterate 5 (refine quiet_past (by rw [HO.out]; kernel_rfl) ?_)
    iterate 2 (quiet_step ((first | (go_at_call 102; with_reducible exact calls_past (HSm.out _)) | fail)))
    iterate 4 (refine quiet_past (by rw [HO.out]; kernel_rfl) ?_)
    iterate 10 (refine quiet_past (by rw [HO.out]; kernel_rfl) ?_)
    iterate 1 (refine quiet_past (by rw [HO.out]; kernel_rfl) ?_)
    iterate 1 (quiet_step ((first | (go_at_call 102; with_reducible exact calls_past (HSm.out _)) | fail)))
    refine wpQuiet_nil ?_
    rintro _ ⟨z, rfl⟩
    have HBz : Hid (Below w.heap.size w z.world) := (HX.out _ (HB3.out.trans (z.below.mono HB3.out.size))).2.2.2.2
    go_wp2_with fail
    go_ret
    exact ⟨⟨false, rfl, no_store HF.out⟩, HBz.out⟩
  | some us =>
    rw [hf] at hm3
    try dsimp only [Option.isSome]
    have HUs : Hid (l3.map UE.u = us) := hm3
    have HFo : Hid (foldU (scanR X) = some us) := hf
    clear hm3 hf
    by_cases hsame : l3.map UE.u = l.map UE.u
    case neg =>
      have HF : Hid (¬ SOk X Y ep nx (l.map UE.u)) := fun h => by
        have h1 := h.2.2.1
        rw [HFo.out] at h1
        injection h1 with h1
        exact hsame (by rw [HUs.out, h1])
      rw [decB_false hsame] at HSm
      clear hsame
      refine wp_region_pastO (by kernel_rfl) (by kernel_rfl) fun ops HO => ?_
      iterate 3 (quiet_step ((first | (go_at_call 102; with_reducible exact calls_past (HSm.out _)) | fail)))
      iterate 5 (refine quiet_do (by rw [HO.out]; kernel_rfl) (fun K hK => ?_); go_simp; first | (refine hK _ ?_; clear hK K) | (apply Exists.intro; refine ⟨fun _ => ?_, hK _ ?_⟩; (first | (go_at_call 102; with_reducible exact calls_past (HSm.out _)) | fail); clear hK K))
      iterate 2 (quiet_step ((first | (go_at_call 102; with_reducible exact calls_past (HSm.out _)) | fail)))
      iterate 5 (refine quiet_past (by rw [HO.out]; kernel_rfl) ?_)
      iterate 2 (quiet_step ((first | (go_at_call 102; with_reducible exact calls_past (HSm.out _)) | fail)))
      iterate 4 (refine quiet_past (by rw [HO.out]; kernel_rfl) ?_)
      iterate 10 (refine quiet_past (by rw [HO.out]; kernel_rfl) ?_)
      iterate 1 (refine quiet_past (by rw [HO.out]; kernel_rfl) ?_)
      iterate 1 (quiet_step ((first | (go_at_call 102; with_reducible exact calls_past (HSm.out _)) | fail)))
      refine wpQuiet_nil ?_
      rintro _ ⟨z, rfl⟩
      have HBz : Hid (Below w.heap.size w z.world) := (HX.out _ (HB3.out.trans (z.below.mono HB3.out.size))).2.2.2.2
      go_wp2_with fail
      go_ret
      exact ⟨⟨false, rfl, no_store HF.out⟩, HBz.out⟩
    rw [decB_true hsame] at HSm
    have HFl : Hid (foldU (scanR X) = some (l.map UE.u)) := by show _ = _; rw [HFo.out, ← HUs.out, hsame]
    clear hsame
    have HMs : Hid ((scanR X).length = M) := by
      show _ = _
      have h3 := congrArg List.length HLm.out
      rw [List.length_map, ← HM.out] at h3
      exact h3.symm
    by_cases hnx : nx = (M : Int)
    case neg =>
      have HF : Hid (¬ SOk X Y ep nx (l.map UE.u)) := fun h => hnx (by rw [h.2.2.2.1, HMs.out])
      have hnb : (nx != (M : Int)) = true := by simpa using hnx
      refine wp_region_pastO (by kernel_rfl) (by kernel_rfl) fun ops HO => ?_
      iterate 3 (quiet_step ((first | (go_at_call 102; with_reducible exact calls_past (HSm.out _)) | fail)))
      iterate 5 (refine quiet_do (by rw [HO.out]; kernel_rfl) (fun K hK => ?_); go_simp; first | (refine hK _ ?_; clear hK K) | (apply Exists.intro; refine ⟨fun _ => ?_, hK _ ?_⟩; (first | (go_at_call 102; with_reducible exact calls_past (HSm.out _)) | fail); clear hK K))
      iterate 2 (quiet_step ((first | (go_at_call 102; with_reducible exact calls_past (HSm.out _)) | fail)))
      iterate 5 (refine quiet_do (by rw [HO.out]; kernel_rfl) (fun K hK => ?_); go_simp; first | (refine hK _ ?_; clear hK K) | (apply Exists.intro; refine ⟨fun _ => ?_, hK _ ?_⟩; (first | (go_at_call 102; with_reducible exact calls_past (HSm.out _)) | fail); clear hK K))
      iterate 2 (quiet_step ((first | (go_at_call 102; with_reducible exact calls_past (HSm.out _)) | fail)))
      iterate 4 (refine quiet_past (by rw [HO.out]; kernel_rfl) ?_)
      iterate 10 (refine quiet_past (by rw [HO.out]; kernel_rfl) ?_)
      iterate 1 (refine quiet_past (by rw [HO.out]; kernel_rfl) ?_)
      iterate 1 (quiet_step ((first | (go_at_call 102; with_reducible exact calls_past (HSm.out _)) | fail)))
      refine wpQuiet_nil ?_
      rintro _ ⟨z, rfl⟩
      have HBz : Hid (Below w.heap.size w z.world) := (HX.out _ (HB3.out.trans (z.below.mono HB3.out.size))).2.2.2.2
      go_wp2_with fail
      go_ret
      exact ⟨⟨false, rfl, no_store HF.out⟩, HBz.out⟩
    subst hnx
    by_cases hM0 : M = 0
    · subst hM0
      have HLa : Hid (∀ r, (scanR X).getLast? = some r → r.e ≤ ep) := fun r h => by rw [List.eq_nil_of_length_eq_zero HMs.out] at h; cases h
      refine wp_region_pastO (by kernel_rfl) (by kernel_rfl) fun ops HO => ?_
      iterate 3 (quiet_step ((first | (go_at_call 102; with_reducible exact calls_past (HSm.out _)) | fail)))
      iterate 5 (refine quiet_do (by rw [HO.out]; kernel_rfl) (fun K hK => ?_); go_simp; first | (refine hK _ ?_; clear hK K) | (apply Exists.intro; refine ⟨fun _ => ?_, hK _ ?_⟩; (first | (go_at_call 102; with_reducible exact calls_past (HSm.out _)) | fail); clear hK K))
      iterate 2 (quiet_step ((first | (go_at_call 102; with_reducible exact calls_past (HSm.out _)) | fail)))
      iterate 5 (refine quiet_do (by rw [HO.out]; kernel_rfl) (fun K hK => ?_); go_simp; first | (refine hK _ ?_; clear hK K) | (apply Exists.intro; refine ⟨fun _ => ?_, hK _ ?_⟩; (first | (go_at_call 102; with_reducible exact calls_past (HSm.out _)) | fail); clear hK K))
      iterate 2 (quiet_step ((first | (go_at_call 102; with_reducible exact calls_past (HSm.out _)) | fail)))
      iterate 4 (refine quiet_do (by rw [HO.out]; kernel_rfl) (fun K hK => ?_); go_simp; first | (refine hK _ ?_; clear hK K) | (apply Exists.intro; refine ⟨fun _ => ?_, hK _ ?_⟩; (first | (go_at_call 102; with_reducible exact calls_past (HSm.out _)) | fail); clear hK K))
      iterate 10 (refine quiet_past (by rw [HO.out]; kernel_rfl) ?_)
      iterate 1 (refine quiet_do (by rw [HO.out]; kernel_rfl) (fun K hK => ?_); go_simp; first | (refine hK _ ?_; clear hK K) | (apply Exists.intro; refine ⟨fun _ => ?_, hK _ ?_⟩; (first | (go_at_call 102; with_reducible exact calls_past (HSm.out _)) | fail); clear hK K))
      iterate 1 (quiet_step ((first | (go_at_call 102; with_reducible exact calls_past (HSm.out _)) | fail)))
      refine wpQuiet_nil ?_
      rintro _ ⟨z, rfl⟩
      have HBz : Hid (Below w0.heap.size w0 z.world) := HB3.out.trans (z.below.mono HB3.out.size)
      obtain ⟨c0, c1, c2, c3, c4⟩ := (show _ ∧ _ ∧ _ ∧ _ ∧ _ from ⟨(HX.out _ HBz.out).1.cell 0 rfl, (HX.out _ HBz.out).1.cell 1 rfl, (HX.out _ HBz.out).1.cell 2 rfl, (HX.out _ HBz.out).1.cell 3 rfl, (HX.out _ HBz.out).1.cell 4 rfl⟩)
      have hMn2 : 0 ≤ n := by
        have h1 := scanFrom_ok X 0 0
        have h2 := (HX.out _ HBz.out).2.1.1
        have h4 : (scanR X).length = (scanFrom 0 0 X).length := rfl
        have h5 := HMs.out
        omega
      clear x2 x3 x4 HSm HR3 HRr 
      go_wp2_with fail
      clear c0 c1 c2 c3 c4
      go_loopw [6] (fun v wr => ∃ k : Nat, v = .int .i64 (k : Int) ∧ 0 ≤ k ∧ k ≤ n ∧ Hid (∀ (j : Nat) (x : ByteArray) (r : R), 0 ≤ j → j < k → X[j]? = some x → recOf x = some r → r.e < ep) ∧ Hid (Below w0.heap.size w0 wr)) (fun v _ => n - (intOf v).toNat)
      case atStart => exact ⟨0, by first | rfl | go_num, Nat.le_refl _, hMn2, (fun j x r q1 q2 => absurd q2 (by omega)), HBz⟩
      case round =>
        obtain ⟨k, rfl, hMk, hkn, HJ, HW⟩ := hrel
        obtain ⟨c0, c1, c2, c3, c4⟩ := (show _ ∧ _ ∧ _ ∧ _ ∧ _ from ⟨(HX.out _ HW.out).1.cell 0 rfl, (HX.out _ HW.out).1.cell 1 rfl, (HX.out _ HW.out).1.cell 2 rfl, (HX.out _ HW.out).1.cell 3 rfl, (HX.out _ HW.out).1.cell 4 rfl⟩)
        by_cases hlt : k < n
        case neg =>
          obtain rfl : k = n := by omega
          have HF : Hid (SOk X Y ep ((0 : Nat) : Int) (l.map UE.u)) := ⟨HOk.out, HEp.out, HFl.out, by rw [HMs.out], HLa.out, fun j x r q1 q2 q3 => HJ.out j x r (by rw [HMs.out] at q1; exact q1) (by have q4 := (List.getElem?_eq_some_iff.1 q2).1; have q5 := (HX.out _ HW.out).2.1.1; omega) q2 q3⟩
          have HBw : Hid (Below w.heap.size w wr) := (HX.out _ HW.out).2.2.2.2
          go_wp2_with fail
          go_ret
          exact ⟨⟨true, rfl, ⟨fun _ => HF.out, fun _ => rfl⟩⟩, HBw.out⟩
        have HBw : Hid (∀ W, Below wr.heap.size wr W → Below w.heap.size w W ∧ Below w0.heap.size w0 W) := fun W hb => ⟨(HX.out _ (HW.out.trans (hb.mono HW.out.size))).2.2.2.2, HW.out.trans (hb.mono HW.out.size)⟩
        obtain ⟨p, po, x, hpe, _, hkx, hp⟩ := (HX.out _ HW.out).2.1.at hlt
        rw [hpe] at c0
        have HK : Hid (X[k]? = some x) := hkx
        have hxz : x.size ≤ 1048576 := HZ.out x (List.mem_of_getElem? hkx)
        have hki : (k : Int) < (n : Int) := by omega
        have hk0 : (0 : Int) ≤ (k : Int) := by omega
        clear hkx hpe
        go_wp2_with fail
        refine (specGetR_any x wr (by omega)).mono ?_
        rintro _ v1 ⟨⟨v, rfl, hgot⟩, hb1⟩
        rcases hgot with ⟨hr, rfl⟩ | ⟨r, Ag, Cg, hr, rfl, _⟩
        · have HW2 : Hid (Below w0.heap.size w0 (v1.alloc (.cells #[.int .i64 0, .int .i64 0, .int .i64 0, .string ⟨#[]⟩, .int .i64 0, .slice none 0 0] 107))) := (HBw.out _ hb1).2.alloc (HBw.out _ hb1).2.size _
          have HJ2 : Hid (∀ (j : Nat) (x : ByteArray) (r : R), 0 ≤ j → j < k + 1 → X[j]? = some x → recOf x = some r → r.e < ep) := fun j y r q1 q2 q3 q4 => by
            by_cases hj : j = k
            · subst hj
              rw [HK.out] at q3
              injection q3 with q3
              subst q3
              rw [hr] at q4
              cases q4
            · exact HJ.out j y r q1 (by omega) q3 q4
          clear hr hb1 HJ HBw c0 c1 c2 c3 c4
          go_wp2_with fail
          go_roundw
          case rel => exact ⟨k + 1, by go_num, by omega, by omega, HJ2, HW2⟩
          case measure => simp [intOf]; omega
        · have hbA := hb1.trans (((Below.refl v1.heap.size v1).alloc (Nat.le_refl _) (.cells #[.int .i64 r.e, .int .i64 r.q, .int .i64 r.k, .string r.id, .int .i64 r.n, .slice Ag r.zs.length Cg] 107)).mono hb1.size)
          have HW2 : Hid (Below w0.heap.size w0 (v1.alloc (.cells #[.int .i64 r.e, .int .i64 r.q, .int .i64 r.k, .string r.id, .int .i64 r.n, .slice Ag r.zs.length Cg] 107))) := (HBw.out _ hbA).2
          have HBf : Hid (Below w.heap.size w (v1.alloc (.cells #[.int .i64 r.e, .int .i64 r.q, .int .i64 r.k, .string r.id, .int .i64 r.n, .slice Ag r.zs.length Cg] 107))) := (HBw.out _ hbA).1
          have d2 := (HX.out _ HW2.out).1.cell 2 rfl
          have HRr : Hid (recOf x = some r) := hr
          clear hr hb1 hbA HBw c0 c1 c2 c3 c4 hp
          by_cases hge : ep ≤ r.e
          · have HF : Hid (¬ SOk X Y ep ((0 : Nat) : Int) (l.map UE.u)) := fun h => by
              have q := h.2.2.2.2.2 k x r (by rw [HMs.out]; exact hMk) HK.out HRr.out
              omega
            go_wp2_with fail
            go_ret
            exact ⟨⟨false, rfl, no_store HF.out⟩, HBf.out⟩
          · have hgd : decide (ep ≤ r.e) = false := decide_eq_false hge
            have HJ2 : Hid (∀ (j : Nat) (x : ByteArray) (r : R), 0 ≤ j → j < k + 1 → X[j]? = some x → recOf x = some r → r.e < ep) := fun j y r' q1 q2 q3 q4 => by
              by_cases hj : j = k
              · subst hj
                rw [HK.out] at q3
                injection q3 with q3
                subst q3
                rw [HRr.out] at q4
                injection q4 with q4
                subst q4
                omega
              · exact HJ.out j y r' q1 (by omega) q3 q4
            clear HJ
            go_wp2_with fail
            go_roundw
            case rel => exact ⟨k + 1, by go_num, by omega, by omega, HJ2, HW2⟩
            case measure => simp [intOf]; omega
    obtain ⟨m, rfl⟩ : ∃ m, M = m + 1 := ⟨M - 1, by omega⟩
    have hml : m < rs.length := by rw [← HM.out]; omega
    obtain ⟨g, rfl, _⟩ := (HRr.out ⟨y3, Below.refl _ _⟩).at HM.out hml
    obtain ⟨ev, hev⟩ : ∃ ev, (rs[m]).r.e = ev := ⟨_, rfl⟩
    have xl : ∀ P : Past y3, P.world.cell? ⟨g, m * 6, none⟩ = some (.int .i64 ev) := fun P => by
      obtain ⟨g2, q1, q2, _⟩ := (HRr.out P).at HM.out hml
      injection q1 with q1
      injection q1 with q1 _ _
      subst q1
      rw [← hev]
      exact q2
    have HLt : Hid ((scanR X).getLast? = some (rs[m]).r) := by
      show _ = _
      rw [List.getLast?_eq_getElem?, HMs.out, ← HLm.out, List.getElem?_map, show m + 1 - 1 = m by omega, List.getElem?_eq_getElem hml]
      rfl
    have hjw : IntKind.i64.wrap (((m + 1 : Nat) : Int) - 1) = (m : Int) := by rw [IntWalk.i64_in _ (by omega)]; omega
    have hmw : IntKind.i64.wrap (m : Int) = (m : Int) := IntWalk.i64_in _ (by omega)
    have hm2 : (m : Int) < (m : Int) + 1 := by omega
    have hm0 : (0 : Int) ≤ (m : Int) := by omega
    have hm1 : (m : Int) < ((m + 1 : Nat) : Int) := by omega
    have hmp : (0 : Int) < ((m + 1 : Nat) : Int) := by omega
    by_cases hgt : ep < ev
    · have HF : Hid (¬ SOk X Y ep ((m + 1 : Nat) : Int) (l.map UE.u)) := fun h => by
        have q := h.2.2.2.2.1 _ HLt.out
        omega
      have hgd : decide (ep < ev) = true := decide_eq_true hgt
      clear hM0
      refine wp_region_pastO (by kernel_rfl) (by kernel_rfl) fun ops HO => ?_
      iterate 3 (quiet_step ((first | (go_at_call 102; with_reducible exact calls_past (HSm.out _)) | fail)))
      iterate 5 (refine quiet_do (by rw [HO.out]; kernel_rfl) (fun K hK => ?_); go_simp; first | (refine hK _ ?_; clear hK K) | (apply Exists.intro; refine ⟨fun _ => ?_, hK _ ?_⟩; (first | (go_at_call 102; with_reducible exact calls_past (HSm.out _)) | fail); clear hK K))
      iterate 2 (quiet_step ((first | (go_at_call 102; with_reducible exact calls_past (HSm.out _)) | fail)))
      iterate 5 (refine quiet_do (by rw [HO.out]; kernel_rfl) (fun K hK => ?_); go_simp; first | (refine hK _ ?_; clear hK K) | (apply Exists.intro; refine ⟨fun _ => ?_, hK _ ?_⟩; (first | (go_at_call 102; with_reducible exact calls_past (HSm.out _)) | fail); clear hK K))
      iterate 2 (quiet_step ((first | (go_at_call 102; with_reducible exact calls_past (HSm.out _)) | fail)))
      iterate 4 (refine quiet_do (by rw [HO.out]; kernel_rfl) (fun K hK => ?_); go_simp; first | (refine hK _ ?_; clear hK K) | (apply Exists.intro; refine ⟨fun _ => ?_, hK _ ?_⟩; (first | (go_at_call 102; with_reducible exact calls_past (HSm.out _)) | fail); clear hK K))
      iterate 10 (refine quiet_do (by rw [HO.out]; kernel_rfl) (fun K hK => ?_); go_simp; first | (refine hK _ ?_; clear hK K) | (apply Exists.intro; refine ⟨fun _ => ?_, hK _ ?_⟩; (first | (go_at_call 102; with_reducible exact calls_past (HSm.out _)) | fail); clear hK K))
      iterate 1 (refine quiet_do (by rw [HO.out]; kernel_rfl) (fun K hK => ?_); go_simp; first | (refine hK _ ?_; clear hK K) | (apply Exists.intro; refine ⟨fun _ => ?_, hK _ ?_⟩; (first | (go_at_call 102; with_reducible exact calls_past (HSm.out _)) | fail); clear hK K))
      iterate 1 (quiet_step ((first | (go_at_call 102; with_reducible exact calls_past (HSm.out _)) | fail)))
      refine wpQuiet_nil ?_
      rintro _ ⟨z, rfl⟩
      have HBz : Hid (Below w.heap.size w z.world) := (HX.out _ (HB3.out.trans (z.below.mono HB3.out.size))).2.2.2.2
      go_wp2_with fail
      go_ret
      first | exact ⟨⟨false, rfl, no_store HF.out⟩, HBz.out⟩ | exact ⟨.inl ⟨rfl, fun q => HF.out (by simpa using q)⟩, HBz.out⟩ | exact ⟨.inr ⟨rfl, fun q => HF.out (by simpa using q)⟩, HBz.out⟩
    have hgd : decide (ep < ev) = false := decide_eq_false hgt
    have HLa : Hid (∀ r, (scanR X).getLast? = some r → r.e ≤ ep) := fun r q => by
      rw [HLt.out] at q
      injection q with q
      subst q
      omega
    clear hM0 hgt
    refine wp_region_pastO (by kernel_rfl) (by kernel_rfl) fun ops HO => ?_
    iterate 3 (quiet_step ((first | (go_at_call 102; with_reducible exact calls_past (HSm.out _)) | fail)))
    iterate 5 (refine quiet_do (by rw [HO.out]; kernel_rfl) (fun K hK => ?_); go_simp; first | (refine hK _ ?_; clear hK K) | (apply Exists.intro; refine ⟨fun _ => ?_, hK _ ?_⟩; (first | (go_at_call 102; with_reducible exact calls_past (HSm.out _)) | fail); clear hK K))
    iterate 2 (quiet_step ((first | (go_at_call 102; with_reducible exact calls_past (HSm.out _)) | fail)))
    iterate 5 (refine quiet_do (by rw [HO.out]; kernel_rfl) (fun K hK => ?_); go_simp; first | (refine hK _ ?_; clear hK K) | (apply Exists.intro; refine ⟨fun _ => ?_, hK _ ?_⟩; (first | (go_at_call 102; with_reducible exact calls_past (HSm.out _)) | fail); clear hK K))
    iterate 2 (quiet_step ((first | (go_at_call 102; with_reducible exact calls_past (HSm.out _)) | fail)))
    iterate 4 (refine quiet_do (by rw [HO.out]; kernel_rfl) (fun K hK => ?_); go_simp; first | (refine hK _ ?_; clear hK K) | (apply Exists.intro; refine ⟨fun _ => ?_, hK _ ?_⟩; (first | (go_at_call 102; with_reducible exact calls_past (HSm.out _)) | fail); clear hK K))
    iterate 10 (refine quiet_do (by rw [HO.out]; kernel_rfl) (fun K hK => ?_); go_simp; first | (refine hK _ ?_; clear hK K) | (apply Exists.intro; refine ⟨fun _ => ?_, hK _ ?_⟩; (first | (go_at_call 102; with_reducible exact calls_past (HSm.out _)) | fail); clear hK K))
    iterate 1 (refine quiet_do (by rw [HO.out]; kernel_rfl) (fun K hK => ?_); go_simp; first | (refine hK _ ?_; clear hK K) | (apply Exists.intro; refine ⟨fun _ => ?_, hK _ ?_⟩; (first | (go_at_call 102; with_reducible exact calls_past (HSm.out _)) | fail); clear hK K))
    iterate 1 (quiet_step ((first | (go_at_call 102; with_reducible exact calls_past (HSm.out _)) | fail)))
    refine wpQuiet_nil ?_
    rintro _ ⟨z, rfl⟩
    have HBz : Hid (Below w0.heap.size w0 z.world) := HB3.out.trans (z.below.mono HB3.out.size)
    obtain ⟨c0, c1, c2, c3, c4⟩ := (show _ ∧ _ ∧ _ ∧ _ ∧ _ from ⟨(HX.out _ HBz.out).1.cell 0 rfl, (HX.out _ HBz.out).1.cell 1 rfl, (HX.out _ HBz.out).1.cell 2 rfl, (HX.out _ HBz.out).1.cell 3 rfl, (HX.out _ HBz.out).1.cell 4 rfl⟩)
    have hMn2 : (m + 1) ≤ n := by
      have h1 := scanFrom_ok X 0 0
      have h2 := (HX.out _ HBz.out).2.1.1
      have h4 : (scanR X).length = (scanFrom 0 0 X).length := rfl
      have h5 := HMs.out
      omega
    clear x2 x3 x4 HSm HR3 HRr xl
    go_wp2_with fail
    clear c0 c1 c2 c3 c4
    go_loopw [6] (fun v wr => ∃ k : Nat, v = .int .i64 (k : Int) ∧ (m + 1) ≤ k ∧ k ≤ n ∧ Hid (∀ (j : Nat) (x : ByteArray) (r : R), (m + 1) ≤ j → j < k → X[j]? = some x → recOf x = some r → r.e < ep) ∧ Hid (Below w0.heap.size w0 wr)) (fun v _ => n - (intOf v).toNat)
    case atStart => exact ⟨(m + 1), by first | rfl | go_num, Nat.le_refl _, hMn2, (fun j x r q1 q2 => absurd q2 (by omega)), HBz⟩
    case round =>
      obtain ⟨k, rfl, hMk, hkn, HJ, HW⟩ := hrel
      obtain ⟨c0, c1, c2, c3, c4⟩ := (show _ ∧ _ ∧ _ ∧ _ ∧ _ from ⟨(HX.out _ HW.out).1.cell 0 rfl, (HX.out _ HW.out).1.cell 1 rfl, (HX.out _ HW.out).1.cell 2 rfl, (HX.out _ HW.out).1.cell 3 rfl, (HX.out _ HW.out).1.cell 4 rfl⟩)
      by_cases hlt : k < n
      case neg =>
        obtain rfl : k = n := by omega
        have HF : Hid (SOk X Y ep (((m + 1) : Nat) : Int) (l.map UE.u)) := ⟨HOk.out, HEp.out, HFl.out, by rw [HMs.out], HLa.out, fun j x r q1 q2 q3 => HJ.out j x r (by rw [HMs.out] at q1; exact q1) (by have q4 := (List.getElem?_eq_some_iff.1 q2).1; have q5 := (HX.out _ HW.out).2.1.1; omega) q2 q3⟩
        have HBw : Hid (Below w.heap.size w wr) := (HX.out _ HW.out).2.2.2.2
        go_wp2_with fail
        go_ret
        exact ⟨⟨true, rfl, ⟨fun _ => HF.out, fun _ => rfl⟩⟩, HBw.out⟩
      have HBw : Hid (∀ W, Below wr.heap.size wr W → Below w.heap.size w W ∧ Below w0.heap.size w0 W) := fun W hb => ⟨(HX.out _ (HW.out.trans (hb.mono HW.out.size))).2.2.2.2, HW.out.trans (hb.mono HW.out.size)⟩
      obtain ⟨p, po, x, hpe, _, hkx, hp⟩ := (HX.out _ HW.out).2.1.at hlt
      rw [hpe] at c0
      have HK : Hid (X[k]? = some x) := hkx
      have hxz : x.size ≤ 1048576 := HZ.out x (List.mem_of_getElem? hkx)
      have hki : (k : Int) < (n : Int) := by omega
      have hk0 : (0 : Int) ≤ (k : Int) := by omega
      clear hkx hpe
      go_wp2_with fail
      refine (specGetR_any x wr (by omega)).mono ?_
      rintro _ v1 ⟨⟨v, rfl, hgot⟩, hb1⟩
      rcases hgot with ⟨hr, rfl⟩ | ⟨r, Ag, Cg, hr, rfl, _⟩
      · have HW2 : Hid (Below w0.heap.size w0 (v1.alloc (.cells #[.int .i64 0, .int .i64 0, .int .i64 0, .string ⟨#[]⟩, .int .i64 0, .slice none 0 0] 107))) := (HBw.out _ hb1).2.alloc (HBw.out _ hb1).2.size _
        have HJ2 : Hid (∀ (j : Nat) (x : ByteArray) (r : R), (m + 1) ≤ j → j < k + 1 → X[j]? = some x → recOf x = some r → r.e < ep) := fun j y r q1 q2 q3 q4 => by
          by_cases hj : j = k
          · subst hj
            rw [HK.out] at q3
            injection q3 with q3
            subst q3
            rw [hr] at q4
            cases q4
          · exact HJ.out j y r q1 (by omega) q3 q4
        clear hr hb1 HJ HBw c0 c1 c2 c3 c4
        go_wp2_with fail
        go_roundw
        case rel => exact ⟨k + 1, by go_num, by omega, by omega, HJ2, HW2⟩
        case measure => simp [intOf]; omega
      · have hbA := hb1.trans (((Below.refl v1.heap.size v1).alloc (Nat.le_refl _) (.cells #[.int .i64 r.e, .int .i64 r.q, .int .i64 r.k, .string r.id, .int .i64 r.n, .slice Ag r.zs.length Cg] 107)).mono hb1.size)
        have HW2 : Hid (Below w0.heap.size w0 (v1.alloc (.cells #[.int .i64 r.e, .int .i64 r.q, .int .i64 r.k, .string r.id, .int .i64 r.n, .slice Ag r.zs.length Cg] 107))) := (HBw.out _ hbA).2
        have HBf : Hid (Below w.heap.size w (v1.alloc (.cells #[.int .i64 r.e, .int .i64 r.q, .int .i64 r.k, .string r.id, .int .i64 r.n, .slice Ag r.zs.length Cg] 107))) := (HBw.out _ hbA).1
        have d2 := (HX.out _ HW2.out).1.cell 2 rfl
        have HRr : Hid (recOf x = some r) := hr
        clear hr hb1 hbA HBw c0 c1 c2 c3 c4 hp
        by_cases hge : ep ≤ r.e
        · have HF : Hid (¬ SOk X Y ep (((m + 1) : Nat) : Int) (l.map UE.u)) := fun h => by
            have q := h.2.2.2.2.2 k x r (by rw [HMs.out]; exact hMk) HK.out HRr.out
            omega
          go_wp2_with fail
          go_ret
          exact ⟨⟨false, rfl, no_store HF.out⟩, HBf.out⟩
        · have hgd : decide (ep ≤ r.e) = false := decide_eq_false hge
          have HJ2 : Hid (∀ (j : Nat) (x : ByteArray) (r : R), (m + 1) ≤ j → j < k + 1 → X[j]? = some x → recOf x = some r → r.e < ep) := fun j y r' q1 q2 q3 q4 => by
            by_cases hj : j = k
            · subst hj
              rw [HK.out] at q3
              injection q3 with q3
              subst q3
              rw [HRr.out] at q4
              injection q4 with q4
              subst q4
              omega
            · exact HJ.out j y r' q1 (by omega) q3 q4
          clear HJ
          go_wp2_with fail
          go_roundw
          case rel => exact ⟨k + 1, by go_num, by omega, by omega, HJ2, HW2⟩
          case measure => simp [intOf]; omega

end Go.Proofs.YtlkgopoicpnacaaGreatDoor
