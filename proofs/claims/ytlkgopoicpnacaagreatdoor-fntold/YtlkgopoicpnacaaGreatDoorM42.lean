/- What the program's StoreOk answers. -/
import Derived.Test.YtlkgopoicpnacaaGreatDoorM38
import Derived.Test.YtlkgopoicpnacaaGreatDoorM38
import Derived.Test.YtlkgopoicpnacaaGreatDoorM38
import Derived.Test.YtlkgopoicpnacaaGreatDoorM41
import Derived.Test.YtlkgopoicpnacaaGreatDoorM41
import Derived.Test.YtlkgopoicpnacaaGreatDoorM15
import Derived.Test.YtlkgopoicpnacaaGreatDoorM03
import Derived.Test.YtlkgopoicpnacaaGreatDoorM05
import Derived.Test.YtlkgopoicpnacaaGreatDoorM05
import Derived.Test.YtlkgopoicpnacaaGreatDoorM21
import Derived.Deep.RegionHeld3
namespace Go.Proofs.YtlkgopoicpnacaaGreatDoor
open Go.RowKit
set_option linter.unusedVariables false

set_option maxRecDepth 10000 in
set_option maxHeartbeats 1600000 in
theorem implSok_any (a : Option Addr) (n ca : Nat) (X : List ByteArray) (a' : Option Addr) (n' ca' : Nat) (Y : List ByteArray) (ep nx : Int) (ua : Option Addr) (un uc lo : Nat) (l : List UE) (w : World) (h1 : Strs w a n X) (h2 : Strs w a' n' Y) (hn : n ≤ 1048576) (hn' : n' ≤ 1048576) (hz : ∀ x ∈ X, x.size ≤ 1048576) (hu : UpRow w lo (.slice ua un uc) l) (hun : un = l.length) (hul : un ≤ 1048576) (hsl : SlOk a n ca) (ht : RecT w) (he : ErrN w) :
    Calls Tryz.prog 24 #[.agg #[.slice a n ca, .slice a' n' ca', .int .i64 ep, .int .i64 nx, .slice ua un uc]] w fun e w' => e = .returned (.bool (decB (SOk X Y ep nx (l.map UE.u)))) ∧ Below w.heap.size w w' := by
  have hmm : maxLen < 9223372036854775808 := by decide
  obtain ⟨w0, hw0⟩ : ∃ w0, w.alloc (.cells #[.slice a n ca, .slice a' n' ca', .int .i64 ep, .int .i64 nx, .slice ua un uc] 29) = w0 := ⟨_, rfl⟩
  have HE : Hid (w.alloc (.cells #[.slice a n ca, .slice a' n' ca', .int .i64 ep, .int .i64 nx, .slice ua un uc] 29) = w0) := hw0
  have HQ : Hid (BoxN w0 w.heap.size 29 [.slice a n ca, .slice a' n' ca', .int .i64 ep, .int .i64 nx, .slice ua un uc]) := by show BoxN _ _ _ _; rw [← hw0]; exact BoxN.new _ _ _
  have HB : Hid (Below w.heap.size w w0) := by show Below _ _ _; rw [← hw0]; exact (Below.refl _ _).alloc (Nat.le_refl _) _
  have HX : Hid (∀ W, Below w0.heap.size w0 W → BoxN W w.heap.size 29 [.slice a n ca, .slice a' n' ca', .int .i64 ep, .int .i64 nx, .slice ua un uc] ∧ Strs W a n X ∧ Strs W a' n' Y ∧ UpRow W lo (.slice ua un uc) l ∧ Below w.heap.size w W ∧ RecT W ∧ ErrN W) := fun W hb => ⟨HQ.out.stays hb, (h1.below HB.out).below hb, (h2.below HB.out).below hb, (hu.stays HB.out).stays hb, HB.out.trans (hb.mono HB.out.size), (ht.below HB.out).below hb, (he.below HB.out).below hb⟩
  have HZ : Hid (∀ x ∈ X, x.size ≤ 1048576) := hz
  have HU : Hid (un = l.length) := hun
  have HSl : Hid (SlOk a n ca) := hsl
  have hww : w.heap.size < w0.heap.size := HQ.out.lt
  clear hw0 h1 h2 hu hz hun HB HQ hsl ht he
  have HA0 : Hid (Below w0.heap.size w0 w0) := Below.refl _ _
  obtain ⟨B, hB⟩ : ∃ B, decB (SOk X Y ep nx (l.map UE.u)) = B := ⟨_, rfl⟩
  have HBd : Hid (decB (SOk X Y ep nx (l.map UE.u)) = B) := hB
  have HNo : Hid (¬ SOk X Y ep nx (l.map UE.u) → false = B) := fun h => by rw [← hB]; exact (decB_false h).symm
  rw [hB]
  clear hB
  obtain ⟨c0, c1, c2, c3, c4⟩ := (show _ ∧ _ ∧ _ ∧ _ ∧ _ from ⟨(HX.out _ HA0.out).1.cell 0 rfl, (HX.out _ HA0.out).1.cell 1 rfl, (HX.out _ HA0.out).1.cell 2 rfl, (HX.out _ HA0.out).1.cell 3 rfl, (HX.out _ HA0.out).1.cell 4 rfl⟩)
  go_enter Tryz.func24, Tryz.ntmps24
  go_upto_region 1 with fail
  rw [HE.out]
  clear HE
  go_wp2_with fail
  refine (implDok_any a n ca X a' n' ca' Y w0 (HX.out _ HA0.out).2.1 (HX.out _ HA0.out).2.2.1 (by omega) (by omega)).mono ?_
  rintro _ y1 ⟨rfl, hb1⟩
  have HB1 : Hid (Below w0.heap.size w0 y1) := hb1
  clear hb1 c0 c1 c2 c3 c4
  obtain ⟨c0, c1, c2, c3, c4⟩ := (show _ ∧ _ ∧ _ ∧ _ ∧ _ from ⟨(HX.out _ HB1.out).1.cell 0 rfl, (HX.out _ HB1.out).1.cell 1 rfl, (HX.out _ HB1.out).1.cell 2 rfl, (HX.out _ HB1.out).1.cell 3 rfl, (HX.out _ HB1.out).1.cell 4 rfl⟩)
  cases hok : okD X Y
  · have HF : Hid (false = B) := HNo.out fun h => by have := h.1; rw [hok] at this; cases this
    have HBw : Hid (Below w.heap.size w y1) := (HX.out y1 HB1.out).2.2.2.2.1
    clear hok
    go_wp2_with fail
    go_ret
    exact ⟨by rw [← HF.out]; rfl, HBw.out⟩
  have HOk : Hid (okD X Y = true) := hok
  clear hok
  by_cases hep0 : ep < 0
  · have HF : Hid (false = B) := HNo.out fun h => by have := h.2.1.1; omega
    have HBw : Hid (Below w.heap.size w y1) := (HX.out y1 HB1.out).2.2.2.2.1
    have d1 : decide (ep < 0) = true := by simpa using hep0
    go_wp2_with fail
    go_ret
    exact ⟨by rw [← HF.out]; rfl, HBw.out⟩
  have d1 : decide (ep < 0) = false := by simpa using hep0
  by_cases hep1 : 10000 < ep
  · have HF : Hid (false = B) := HNo.out fun h => by have := h.2.1.2; omega
    have HBw : Hid (Below w.heap.size w y1) := (HX.out y1 HB1.out).2.2.2.2.1
    have d2 : decide (10000 < ep) = true := by simpa using hep1
    go_wp2_with fail
    go_ret
    exact ⟨by rw [← HF.out]; rfl, HBw.out⟩
  have d2 : decide (10000 < ep) = false := by simpa using hep1
  have HEp : Hid (0 ≤ ep ∧ ep ≤ 10000) := ⟨by omega, by omega⟩
  go_wp2_with fail
  refine (implScan_any a n ca X a' n' ca' y1 (HX.out _ HB1.out).2.1 (by omega) HZ.out (HX.out _ HB1.out).2.2.2.2.2.1).mono ?_
  rintro _ y2 ⟨⟨v2, rs, rfl, hrow, hlm⟩, hb2⟩
  have HB2 : Hid (Below w0.heap.size w0 y2) := HB1.out.trans (hb2.mono HB1.out.size)
  obtain ⟨ra, rc, rfl⟩ := hrow.shape
  obtain ⟨M, hM⟩ : ∃ M, rs.length = M := ⟨_, rfl⟩
  rw [hM] at hrow ⊢
  have HM : Hid (M = rs.length) := hM.symm
  have HLm : Hid (rs.map RE.r = scanR X) := hlm
  have HR2 : Hid (∀ W, Below y2.heap.size y2 W → RcRow W y1.heap.size (.slice ra M rc) rs) := fun W h => hrow.stays h
  have HSh : Hid (∀ e ∈ rs, e.n ≤ 24) := rows_short hrow hlm (scanFrom_ok X 0 0).2
  have hMn : M ≤ n := by
    have h1 := (scanFrom_ok X 0 0).1
    have h2 := (HX.out _ HB2.out).2.1.1
    have h3 := congrArg List.length hlm
    rw [List.length_map, hM] at h3
    have h4 : (scanR X).length = (scanFrom 0 0 X).length := rfl
    omega
  clear hrow hlm hM hb2 c0 c1 c2 c3 c4
  go_wp2_with fail
  refine (implFold_any ra M rc y1.heap.size rs 24 y2 (HR2.out _ (Below.refl _ _)) HM.out (by omega) HSh.out (by omega) (by omega) (rows_ns HLm.out) (HX.out _ HB2.out).2.2.2.2.2.2).mono ?_
  rintro _ y3 ⟨⟨x3, l3, rfl, hrow3, hm3, h310⟩, hb3⟩
  rw [HLm.out, foldP_ok] at hm3 ⊢
  have HB3 : Hid (Below w0.heap.size w0 y3) := HB2.out.trans (hb3.mono HB2.out.size)
  obtain ⟨xa, xc, rfl⟩ := hrow3.shape
  have HR3 : Hid (UpRow y3 y2.heap.size (.slice xa l3.length xc) l3) := hrow3
  clear hb3 hrow3
  obtain ⟨c0, c1, c2, c3, c4⟩ := (show _ ∧ _ ∧ _ ∧ _ ∧ _ from ⟨(HX.out _ HB3.out).1.cell 0 rfl, (HX.out _ HB3.out).1.cell 1 rfl, (HX.out _ HB3.out).1.cell 2 rfl, (HX.out _ HB3.out).1.cell 3 rfl, (HX.out _ HB3.out).1.cell 4 rfl⟩)
  have HBw : Hid (Below w.heap.size w y3) := (HX.out y3 HB3.out).2.2.2.2.1
  cases hf : foldU (scanR X) with
  | none =>
    have HF : Hid (false = B) := HNo.out fun h => by have := h.2.2.1; rw [hf] at this; cases this
    clear hm3 hf
    try dsimp only [Option.isSome]
    go_wp2_with fail
    go_ret
    exact ⟨by rw [← HF.out]; rfl, HBw.out⟩
  | some us =>
    rw [hf] at hm3
    try dsimp only [Option.isSome]
    have HUs : Hid (l3.map UE.u = us) := hm3
    have HFo : Hid (foldU (scanR X) = some us) := hf
    clear hm3 hf
    have HMs : Hid ((scanR X).length = M) := by
      show _ = _
      have h3 := congrArg List.length HLm.out
      rw [List.length_map, ← HM.out] at h3
      exact h3.symm
    by_cases hnx : nx = (M : Int)
    case neg =>
      have HF : Hid (false = B) := HNo.out fun h => hnx (by rw [h.2.2.2.1, HMs.out])
      have hnb : (nx != (M : Int)) = true := by simpa using hnx
      clear hnx
      go_wp2_with fail
      go_ret
      exact ⟨by rw [← HF.out]; rfl, HBw.out⟩
    subst hnx
    have hnb : ((M : Int) != (M : Int)) = false := by simp
    have HSm : Hid (Calls Tryz.prog 44 #[.slice ua un uc, .slice xa l3.length xc, .func (.func 45) #[] #[]] y3 fun e w' => (∃ b : Bool, e = .returned (.bool b) ∧ (b = true ↔ l.map UE.u = l3.map UE.u)) ∧ Below y3.heap.size y3 w') := implEqualU_any ua un uc lo l xa l3.length xc y2.heap.size l3 y3 (HX.out _ HB3.out).2.2.2.1 HU.out HR3.out rfl (by omega) (by omega)
    go_wp2_with fail
    refine HSm.out.mono ?_
    rintro _ y4 ⟨⟨b, rfl, hb⟩, hb4⟩
    have HB4 : Hid (Below w0.heap.size w0 y4) := HB3.out.trans (hb4.mono HB3.out.size)
    have HBw4 : Hid (Below w.heap.size w y4) := (HX.out y4 HB4.out).2.2.2.2.1
    clear hb4 HSm c0 c1 c2 c3 c4
    cases b with
    | false =>
      have HF : Hid (false = B) := HNo.out fun h => by
        have h1 := h.2.2.1
        rw [HFo.out] at h1
        injection h1 with h1
        have := hb.2 (by rw [HUs.out, h1])
        cases this
      clear hb
      go_wp2_with fail
      go_ret
      exact ⟨by rw [← HF.out]; rfl, HBw4.out⟩
    | true =>
      have HFl : Hid (foldU (scanR X) = some (l.map UE.u)) := by show _ = _; rw [HFo.out, ← HUs.out, hb.1 rfl]
      have HT : Hid (SOk X Y ep (M : Int) (l.map UE.u) ↔ topE (X.take M) ≤ ep ∧ topE (X.drop M) < ep) := SOk_top M HOk.out HEp.out HFl.out (by rw [HMs.out]) HMs.out
      obtain ⟨t1, ht1⟩ : ∃ t1, topE (X.take M) = t1 := ⟨_, rfl⟩
      obtain ⟨t2, ht2⟩ : ∃ t2, topE (X.drop M) = t2 := ⟨_, rfl⟩
      have HE1 : Hid (topE (X.take M) = t1) := ht1
      have HE2 : Hid (topE (X.drop M) = t2) := ht2
      rw [ht1, ht2] at HT
      clear hb ht1 ht2
      go_upto_region 7 with fail
      have c0 := (HX.out _ HB4.out).1.cell 0 rfl
      have c3 := (HX.out _ HB4.out).1.cell 3 rfl
      have hMi : (M : Int) ≤ (ca : Int) := by have := HSl.out.1; omega
      have hMn' : (M : Int) ≤ (n : Int) := by omega
      have hM0 : (0 : Int) ≤ (M : Int) := by omega
      rcases HSl.out.2.2 with ⟨rfl, rfl⟩ | ⟨b, off, rfl⟩
      · obtain rfl : n = 0 := by have := HSl.out.1; omega
        obtain rfl : M = 0 := by omega
        have hX : X = [] := List.eq_nil_of_length_eq_zero (HX.out _ HB4.out).2.1.1
        obtain rfl : t1 = t2 := by rw [← HE1.out, ← HE2.out, hX]; rfl
        clear hX
        go_region_held3 (fun W => W.cell? ⟨w.heap.size, 0, none⟩ = some (.slice none 0 0) ∧ W.cell? ⟨w.heap.size, 3, none⟩ = some (.int .i64 0)) (refine ⟨?_, ?_⟩ <;> first | assumption | go_keep) (fail)
        · obtain ⟨W8, hW8⟩ : ∃ W8, ((y4.alloc (.cells #[.slice none 0 0, .slice none 0 0] 26)).alloc (.cells #[.slice none 0 0, .slice none 0 0] 26)).drew = W8 := ⟨_, rfl⟩
          have HF1 : Hid (BoxN W8 y4.heap.size 26 [.slice none 0 0, .slice none 0 0]) := by show BoxN _ _ _ _; rw [← hW8]; exact (BoxN.new _ _ _).alloc _
          have HF2 : Hid (BoxN W8 (y4.heap.size + 1) 26 [.slice none 0 0, .slice none 0 0]) := by
            show BoxN _ _ _ _
            rw [← hW8]
            have := BoxN.new (y4.alloc (.cells #[.slice none 0 0, .slice none 0 0] 26)) 26 [.slice none 0 0, .slice none 0 0]
            rw [World.size_alloc] at this
            exact this
          have hb8 : Below y4.heap.size y4 W8 := by rw [← hW8]; exact (((Below.refl _ _).alloc (Nat.le_refl _) _).alloc (by simp) _).drew
          have HB8 : Hid (Below w0.heap.size w0 W8) := HB4.out.trans (hb8.mono HB4.out.size)
          rw [hW8]
          clear hW8 hb8 c0 c3
          go_upto_region 8 with fail
          have hne := past_some W8
          have y2 : ∀ P : Past W8, P.world.cell? ⟨w.heap.size, 2, none⟩ = some (.int .i64 ep) := fun P => (HX.out _ (HB8.out.trans (P.below.mono HB8.out.size))).1.cell 2 rfl
          have l0 : ∀ P : Past W8, P.world.cell? ⟨y4.heap.size, 0, none⟩ = some (.slice none 0 0) := fun P => (HF1.out.stays P.below).cell 0 rfl
          have l1 : ∀ P : Past W8, P.world.cell? ⟨y4.heap.size, 1, none⟩ = some (.slice none 0 0) := fun P => (HF1.out.stays P.below).cell 1 rfl
          have s0 : ∀ P : Past W8, P.world.cell? ⟨y4.heap.size + 1, 0, none⟩ = some (.slice none 0 0) := fun P => (HF2.out.stays P.below).cell 0 rfl
          have s1 : ∀ P : Past W8, P.world.cell? ⟨y4.heap.size + 1, 1, none⟩ = some (.slice none 0 0) := fun P => (HF2.out.stays P.below).cell 1 rfl
          have HT1 : Hid (∀ P : Past W8, Calls Tryz.prog 40 #[.agg #[.slice none 0 0, .slice none 0 0]] P.world fun e w' => e = .returned (.int .i64 t1) ∧ Below P.world.heap.size P.world w') := fun P => by
            have hx := HX.out _ (HB8.out.trans (P.below.mono HB8.out.size))
            rw [← HE1.out]
            exact implTop_any none 0 0 (X.take 0) none 0 0 P.world (hx.2.1.take (Nat.le_refl _)) (by omega) (fun x hx => HZ.out x (List.mem_of_mem_take hx)) hx.2.2.2.2.2.1
          have HT2 : Hid (∀ P : Past W8, Calls Tryz.prog 40 #[.agg #[.slice none 0 0, .slice none 0 0]] P.world fun e w' => e = .returned (.int .i64 t1) ∧ Below P.world.heap.size P.world w') := fun P => by
            have hx := HX.out _ (HB8.out.trans (P.below.mono HB8.out.size))
            rw [← HE2.out]
            exact implTop_any none 0 0 (X.drop 0) none 0 0 P.world (hx.2.1.gone none (Nat.le_refl _)) (by omega) (fun x hx => HZ.out x (List.mem_of_mem_drop hx)) hx.2.2.2.2.2.1
          by_cases hT1 : t1 ≤ ep
          case neg =>
            have HF : Hid (false = B) := HNo.out fun h => hT1 (HT.out.1 h).1
            have d3 : decide (t1 ≤ ep) = false := by simpa using hT1
            refine wp_region_pastO (by kernel_rfl) (by kernel_rfl) fun ops HO => ?_
            iterate 6 (quiet_step ((first | (go_at_call 40; with_reducible exact calls_past (HT1.out _)) | (go_at_call 40; with_reducible exact calls_past (HT2.out _)) | fail)))
            iterate 5 (refine quiet_past (by rw [HO.out]; kernel_rfl) ?_)
            iterate 2 (quiet_step ((first | (go_at_call 40; with_reducible exact calls_past (HT1.out _)) | (go_at_call 40; with_reducible exact calls_past (HT2.out _)) | fail)))
            refine wpQuiet_nil ?_
            rintro _ ⟨z, rfl⟩
            have HBz : Hid (Below w.heap.size w z.world) := (HX.out _ (HB8.out.trans (z.below.mono HB8.out.size))).2.2.2.2.1
            go_wp2_with fail
            go_ret
            exact ⟨by rw [← HF.out]; rfl, HBz.out⟩
          have d3 : decide (t1 ≤ ep) = true := by simpa using hT1
          have HF : Hid (decide (t1 < ep) = B) := by
            show _ = _
            rw [← HBd.out]
            refine decB_iff ?_
            rw [decide_eq_true_eq, HT.out]
            exact ⟨fun h => ⟨hT1, h⟩, fun h => h.2⟩
          clear HT
          refine wp_region_pastO (by kernel_rfl) (by kernel_rfl) fun ops HO => ?_
          iterate 6 (quiet_step ((first | (go_at_call 40; with_reducible exact calls_past (HT1.out _)) | (go_at_call 40; with_reducible exact calls_past (HT2.out _)) | fail)))
          iterate 5 (refine quiet_do (by rw [HO.out]; kernel_rfl) (fun K hK => ?_); go_simp; first | (refine hK _ ?_; clear hK K) | (apply Exists.intro; refine ⟨fun _ => ?_, hK _ ?_⟩; (first | (go_at_call 40; with_reducible exact calls_past (HT1.out _)) | (go_at_call 40; with_reducible exact calls_past (HT2.out _)) | fail); clear hK K))
          iterate 2 (quiet_step ((first | (go_at_call 40; with_reducible exact calls_past (HT1.out _)) | (go_at_call 40; with_reducible exact calls_past (HT2.out _)) | fail)))
          refine wpQuiet_nil ?_
          rintro _ ⟨z, rfl⟩
          have HBz : Hid (Below w.heap.size w z.world) := (HX.out _ (HB8.out.trans (z.below.mono HB8.out.size))).2.2.2.2.1
          go_wp2_with fail
          go_ret
          exact ⟨by rw [← HF.out]; rfl, HBz.out⟩
        · obtain ⟨W8, hW8⟩ : ∃ W8, ((y4.alloc (.cells #[.slice none 0 0, .slice none 0 0] 26)).alloc (.cells #[.slice none 0 0, .slice none 0 0] 26)).drew = W8 := ⟨_, rfl⟩
          have HF1 : Hid (BoxN W8 y4.heap.size 26 [.slice none 0 0, .slice none 0 0]) := by show BoxN _ _ _ _; rw [← hW8]; exact (BoxN.new _ _ _).alloc _
          have HF2 : Hid (BoxN W8 (y4.heap.size + 1) 26 [.slice none 0 0, .slice none 0 0]) := by
            show BoxN _ _ _ _
            rw [← hW8]
            have := BoxN.new (y4.alloc (.cells #[.slice none 0 0, .slice none 0 0] 26)) 26 [.slice none 0 0, .slice none 0 0]
            rw [World.size_alloc] at this
            exact this
          have hb8 : Below y4.heap.size y4 W8 := by rw [← hW8]; exact (((Below.refl _ _).alloc (Nat.le_refl _) _).alloc (by simp) _).drew
          have HB8 : Hid (Below w0.heap.size w0 W8) := HB4.out.trans (hb8.mono HB4.out.size)
          rw [hW8]
          clear hW8 hb8 c0 c3
          go_upto_region 8 with fail
          have hne := past_some W8
          have y2 : ∀ P : Past W8, P.world.cell? ⟨w.heap.size, 2, none⟩ = some (.int .i64 ep) := fun P => (HX.out _ (HB8.out.trans (P.below.mono HB8.out.size))).1.cell 2 rfl
          have l0 : ∀ P : Past W8, P.world.cell? ⟨y4.heap.size + 1, 0, none⟩ = some (.slice none 0 0) := fun P => (HF2.out.stays P.below).cell 0 rfl
          have l1 : ∀ P : Past W8, P.world.cell? ⟨y4.heap.size + 1, 1, none⟩ = some (.slice none 0 0) := fun P => (HF2.out.stays P.below).cell 1 rfl
          have s0 : ∀ P : Past W8, P.world.cell? ⟨y4.heap.size, 0, none⟩ = some (.slice none 0 0) := fun P => (HF1.out.stays P.below).cell 0 rfl
          have s1 : ∀ P : Past W8, P.world.cell? ⟨y4.heap.size, 1, none⟩ = some (.slice none 0 0) := fun P => (HF1.out.stays P.below).cell 1 rfl
          have HT1 : Hid (∀ P : Past W8, Calls Tryz.prog 40 #[.agg #[.slice none 0 0, .slice none 0 0]] P.world fun e w' => e = .returned (.int .i64 t1) ∧ Below P.world.heap.size P.world w') := fun P => by
            have hx := HX.out _ (HB8.out.trans (P.below.mono HB8.out.size))
            rw [← HE1.out]
            exact implTop_any none 0 0 (X.take 0) none 0 0 P.world (hx.2.1.take (Nat.le_refl _)) (by omega) (fun x hx => HZ.out x (List.mem_of_mem_take hx)) hx.2.2.2.2.2.1
          have HT2 : Hid (∀ P : Past W8, Calls Tryz.prog 40 #[.agg #[.slice none 0 0, .slice none 0 0]] P.world fun e w' => e = .returned (.int .i64 t1) ∧ Below P.world.heap.size P.world w') := fun P => by
            have hx := HX.out _ (HB8.out.trans (P.below.mono HB8.out.size))
            rw [← HE2.out]
            exact implTop_any none 0 0 (X.drop 0) none 0 0 P.world (hx.2.1.gone none (Nat.le_refl _)) (by omega) (fun x hx => HZ.out x (List.mem_of_mem_drop hx)) hx.2.2.2.2.2.1
          by_cases hT1 : t1 ≤ ep
          case neg =>
            have HF : Hid (false = B) := HNo.out fun h => hT1 (HT.out.1 h).1
            have d3 : decide (t1 ≤ ep) = false := by simpa using hT1
            refine wp_region_pastO (by kernel_rfl) (by kernel_rfl) fun ops HO => ?_
            iterate 6 (quiet_step ((first | (go_at_call 40; with_reducible exact calls_past (HT1.out _)) | (go_at_call 40; with_reducible exact calls_past (HT2.out _)) | fail)))
            iterate 5 (refine quiet_past (by rw [HO.out]; kernel_rfl) ?_)
            iterate 2 (quiet_step ((first | (go_at_call 40; with_reducible exact calls_past (HT1.out _)) | (go_at_call 40; with_reducible exact calls_past (HT2.out _)) | fail)))
            refine wpQuiet_nil ?_
            rintro _ ⟨z, rfl⟩
            have HBz : Hid (Below w.heap.size w z.world) := (HX.out _ (HB8.out.trans (z.below.mono HB8.out.size))).2.2.2.2.1
            go_wp2_with fail
            go_ret
            exact ⟨by rw [← HF.out]; rfl, HBz.out⟩
          have d3 : decide (t1 ≤ ep) = true := by simpa using hT1
          have HF : Hid (decide (t1 < ep) = B) := by
            show _ = _
            rw [← HBd.out]
            refine decB_iff ?_
            rw [decide_eq_true_eq, HT.out]
            exact ⟨fun h => ⟨hT1, h⟩, fun h => h.2⟩
          clear HT
          refine wp_region_pastO (by kernel_rfl) (by kernel_rfl) fun ops HO => ?_
          iterate 6 (quiet_step ((first | (go_at_call 40; with_reducible exact calls_past (HT1.out _)) | (go_at_call 40; with_reducible exact calls_past (HT2.out _)) | fail)))
          iterate 5 (refine quiet_do (by rw [HO.out]; kernel_rfl) (fun K hK => ?_); go_simp; first | (refine hK _ ?_; clear hK K) | (apply Exists.intro; refine ⟨fun _ => ?_, hK _ ?_⟩; (first | (go_at_call 40; with_reducible exact calls_past (HT1.out _)) | (go_at_call 40; with_reducible exact calls_past (HT2.out _)) | fail); clear hK K))
          iterate 2 (quiet_step ((first | (go_at_call 40; with_reducible exact calls_past (HT1.out _)) | (go_at_call 40; with_reducible exact calls_past (HT2.out _)) | fail)))
          refine wpQuiet_nil ?_
          rintro _ ⟨z, rfl⟩
          have HBz : Hid (Below w.heap.size w z.world) := (HX.out _ (HB8.out.trans (z.below.mono HB8.out.size))).2.2.2.2.1
          go_wp2_with fail
          go_ret
          exact ⟨by rw [← HF.out]; rfl, HBz.out⟩
      · by_cases hcM : ca = M
        · subst hcM
          obtain rfl : n = ca := by have := HSl.out.1; omega
          go_region_held3 (fun W => W.cell? ⟨w.heap.size, 0, none⟩ = some (.slice (some ⟨b, off, none⟩) n n) ∧ W.cell? ⟨w.heap.size, 3, none⟩ = some (.int .i64 (n : Int))) (refine ⟨?_, ?_⟩ <;> first | assumption | go_keep) (fail)
          · obtain ⟨W8, hW8⟩ : ∃ W8, ((y4.alloc (.cells #[.slice (some ⟨b, off, none⟩) n n, .slice none 0 0] 26)).alloc (.cells #[.slice (some ⟨b, off, none⟩) 0 0, .slice none 0 0] 26)).drew = W8 := ⟨_, rfl⟩
            have HF1 : Hid (BoxN W8 y4.heap.size 26 [.slice (some ⟨b, off, none⟩) n n, .slice none 0 0]) := by show BoxN _ _ _ _; rw [← hW8]; exact (BoxN.new _ _ _).alloc _
            have HF2 : Hid (BoxN W8 (y4.heap.size + 1) 26 [.slice (some ⟨b, off, none⟩) 0 0, .slice none 0 0]) := by
              show BoxN _ _ _ _
              rw [← hW8]
              have := BoxN.new (y4.alloc (.cells #[.slice (some ⟨b, off, none⟩) n n, .slice none 0 0] 26)) 26 [.slice (some ⟨b, off, none⟩) 0 0, .slice none 0 0]
              rw [World.size_alloc] at this
              exact this
            have hb8 : Below y4.heap.size y4 W8 := by rw [← hW8]; exact (((Below.refl _ _).alloc (Nat.le_refl _) _).alloc (by simp) _).drew
            have HB8 : Hid (Below w0.heap.size w0 W8) := HB4.out.trans (hb8.mono HB4.out.size)
            rw [hW8]
            clear hW8 hb8 c0 c3
            go_upto_region 8 with fail
            have hne := past_some W8
            have y2 : ∀ P : Past W8, P.world.cell? ⟨w.heap.size, 2, none⟩ = some (.int .i64 ep) := fun P => (HX.out _ (HB8.out.trans (P.below.mono HB8.out.size))).1.cell 2 rfl
            have l0 : ∀ P : Past W8, P.world.cell? ⟨y4.heap.size, 0, none⟩ = some (.slice (some ⟨b, off, none⟩) n n) := fun P => (HF1.out.stays P.below).cell 0 rfl
            have l1 : ∀ P : Past W8, P.world.cell? ⟨y4.heap.size, 1, none⟩ = some (.slice none 0 0) := fun P => (HF1.out.stays P.below).cell 1 rfl
            have s0 : ∀ P : Past W8, P.world.cell? ⟨y4.heap.size + 1, 0, none⟩ = some (.slice (some ⟨b, off, none⟩) 0 0) := fun P => (HF2.out.stays P.below).cell 0 rfl
            have s1 : ∀ P : Past W8, P.world.cell? ⟨y4.heap.size + 1, 1, none⟩ = some (.slice none 0 0) := fun P => (HF2.out.stays P.below).cell 1 rfl
            have HT1 : Hid (∀ P : Past W8, Calls Tryz.prog 40 #[.agg #[.slice (some ⟨b, off, none⟩) n n, .slice none 0 0]] P.world fun e w' => e = .returned (.int .i64 t1) ∧ Below P.world.heap.size P.world w') := fun P => by
              have hx := HX.out _ (HB8.out.trans (P.below.mono HB8.out.size))
              rw [← HE1.out]
              exact implTop_any (some ⟨b, off, none⟩) n n (X.take n) none 0 0 P.world (hx.2.1.take (Nat.le_refl _)) (by omega) (fun x hx => HZ.out x (List.mem_of_mem_take hx)) hx.2.2.2.2.2.1
            have HT2 : Hid (∀ P : Past W8, Calls Tryz.prog 40 #[.agg #[.slice (some ⟨b, off, none⟩) 0 0, .slice none 0 0]] P.world fun e w' => e = .returned (.int .i64 t2) ∧ Below P.world.heap.size P.world w') := fun P => by
              have hx := HX.out _ (HB8.out.trans (P.below.mono HB8.out.size))
              rw [← HE2.out]
              exact implTop_any (some ⟨b, off, none⟩) 0 0 (X.drop n) none 0 0 P.world (hx.2.1.gone _ (Nat.le_refl _)) (by omega) (fun x hx => HZ.out x (List.mem_of_mem_drop hx)) hx.2.2.2.2.2.1
            by_cases hT1 : t1 ≤ ep
            case neg =>
              have HF : Hid (false = B) := HNo.out fun h => hT1 (HT.out.1 h).1
              have d3 : decide (t1 ≤ ep) = false := by simpa using hT1
              refine wp_region_pastO (by kernel_rfl) (by kernel_rfl) fun ops HO => ?_
              iterate 6 (quiet_step ((first | (go_at_call 40; with_reducible exact calls_past (HT1.out _)) | (go_at_call 40; with_reducible exact calls_past (HT2.out _)) | fail)))
              iterate 5 (refine quiet_past (by rw [HO.out]; kernel_rfl) ?_)
              iterate 2 (quiet_step ((first | (go_at_call 40; with_reducible exact calls_past (HT1.out _)) | (go_at_call 40; with_reducible exact calls_past (HT2.out _)) | fail)))
              refine wpQuiet_nil ?_
              rintro _ ⟨z, rfl⟩
              have HBz : Hid (Below w.heap.size w z.world) := (HX.out _ (HB8.out.trans (z.below.mono HB8.out.size))).2.2.2.2.1
              go_wp2_with fail
              go_ret
              exact ⟨by rw [← HF.out]; rfl, HBz.out⟩
            have d3 : decide (t1 ≤ ep) = true := by simpa using hT1
            have HF : Hid (decide (t2 < ep) = B) := by
              show _ = _
              rw [← HBd.out]
              refine decB_iff ?_
              rw [decide_eq_true_eq, HT.out]
              exact ⟨fun h => ⟨hT1, h⟩, fun h => h.2⟩
            clear HT
            refine wp_region_pastO (by kernel_rfl) (by kernel_rfl) fun ops HO => ?_
            iterate 6 (quiet_step ((first | (go_at_call 40; with_reducible exact calls_past (HT1.out _)) | (go_at_call 40; with_reducible exact calls_past (HT2.out _)) | fail)))
            iterate 5 (refine quiet_do (by rw [HO.out]; kernel_rfl) (fun K hK => ?_); go_simp; first | (refine hK _ ?_; clear hK K) | (apply Exists.intro; refine ⟨fun _ => ?_, hK _ ?_⟩; (first | (go_at_call 40; with_reducible exact calls_past (HT1.out _)) | (go_at_call 40; with_reducible exact calls_past (HT2.out _)) | fail); clear hK K))
            iterate 2 (quiet_step ((first | (go_at_call 40; with_reducible exact calls_past (HT1.out _)) | (go_at_call 40; with_reducible exact calls_past (HT2.out _)) | fail)))
            refine wpQuiet_nil ?_
            rintro _ ⟨z, rfl⟩
            have HBz : Hid (Below w.heap.size w z.world) := (HX.out _ (HB8.out.trans (z.below.mono HB8.out.size))).2.2.2.2.1
            go_wp2_with fail
            go_ret
            exact ⟨by rw [← HF.out]; rfl, HBz.out⟩
          · obtain ⟨W8, hW8⟩ : ∃ W8, ((y4.alloc (.cells #[.slice (some ⟨b, off, none⟩) 0 0, .slice none 0 0] 26)).alloc (.cells #[.slice (some ⟨b, off, none⟩) n n, .slice none 0 0] 26)).drew = W8 := ⟨_, rfl⟩
            have HF1 : Hid (BoxN W8 y4.heap.size 26 [.slice (some ⟨b, off, none⟩) 0 0, .slice none 0 0]) := by show BoxN _ _ _ _; rw [← hW8]; exact (BoxN.new _ _ _).alloc _
            have HF2 : Hid (BoxN W8 (y4.heap.size + 1) 26 [.slice (some ⟨b, off, none⟩) n n, .slice none 0 0]) := by
              show BoxN _ _ _ _
              rw [← hW8]
              have := BoxN.new (y4.alloc (.cells #[.slice (some ⟨b, off, none⟩) 0 0, .slice none 0 0] 26)) 26 [.slice (some ⟨b, off, none⟩) n n, .slice none 0 0]
              rw [World.size_alloc] at this
              exact this
            have hb8 : Below y4.heap.size y4 W8 := by rw [← hW8]; exact (((Below.refl _ _).alloc (Nat.le_refl _) _).alloc (by simp) _).drew
            have HB8 : Hid (Below w0.heap.size w0 W8) := HB4.out.trans (hb8.mono HB4.out.size)
            rw [hW8]
            clear hW8 hb8 c0 c3
            go_upto_region 8 with fail
            have hne := past_some W8
            have y2 : ∀ P : Past W8, P.world.cell? ⟨w.heap.size, 2, none⟩ = some (.int .i64 ep) := fun P => (HX.out _ (HB8.out.trans (P.below.mono HB8.out.size))).1.cell 2 rfl
            have l0 : ∀ P : Past W8, P.world.cell? ⟨y4.heap.size + 1, 0, none⟩ = some (.slice (some ⟨b, off, none⟩) n n) := fun P => (HF2.out.stays P.below).cell 0 rfl
            have l1 : ∀ P : Past W8, P.world.cell? ⟨y4.heap.size + 1, 1, none⟩ = some (.slice none 0 0) := fun P => (HF2.out.stays P.below).cell 1 rfl
            have s0 : ∀ P : Past W8, P.world.cell? ⟨y4.heap.size, 0, none⟩ = some (.slice (some ⟨b, off, none⟩) 0 0) := fun P => (HF1.out.stays P.below).cell 0 rfl
            have s1 : ∀ P : Past W8, P.world.cell? ⟨y4.heap.size, 1, none⟩ = some (.slice none 0 0) := fun P => (HF1.out.stays P.below).cell 1 rfl
            have HT1 : Hid (∀ P : Past W8, Calls Tryz.prog 40 #[.agg #[.slice (some ⟨b, off, none⟩) n n, .slice none 0 0]] P.world fun e w' => e = .returned (.int .i64 t1) ∧ Below P.world.heap.size P.world w') := fun P => by
              have hx := HX.out _ (HB8.out.trans (P.below.mono HB8.out.size))
              rw [← HE1.out]
              exact implTop_any (some ⟨b, off, none⟩) n n (X.take n) none 0 0 P.world (hx.2.1.take (Nat.le_refl _)) (by omega) (fun x hx => HZ.out x (List.mem_of_mem_take hx)) hx.2.2.2.2.2.1
            have HT2 : Hid (∀ P : Past W8, Calls Tryz.prog 40 #[.agg #[.slice (some ⟨b, off, none⟩) 0 0, .slice none 0 0]] P.world fun e w' => e = .returned (.int .i64 t2) ∧ Below P.world.heap.size P.world w') := fun P => by
              have hx := HX.out _ (HB8.out.trans (P.below.mono HB8.out.size))
              rw [← HE2.out]
              exact implTop_any (some ⟨b, off, none⟩) 0 0 (X.drop n) none 0 0 P.world (hx.2.1.gone _ (Nat.le_refl _)) (by omega) (fun x hx => HZ.out x (List.mem_of_mem_drop hx)) hx.2.2.2.2.2.1
            by_cases hT1 : t1 ≤ ep
            case neg =>
              have HF : Hid (false = B) := HNo.out fun h => hT1 (HT.out.1 h).1
              have d3 : decide (t1 ≤ ep) = false := by simpa using hT1
              refine wp_region_pastO (by kernel_rfl) (by kernel_rfl) fun ops HO => ?_
              iterate 6 (quiet_step ((first | (go_at_call 40; with_reducible exact calls_past (HT1.out _)) | (go_at_call 40; with_reducible exact calls_past (HT2.out _)) | fail)))
              iterate 5 (refine quiet_past (by rw [HO.out]; kernel_rfl) ?_)
              iterate 2 (quiet_step ((first | (go_at_call 40; with_reducible exact calls_past (HT1.out _)) | (go_at_call 40; with_reducible exact calls_past (HT2.out _)) | fail)))
              refine wpQuiet_nil ?_
              rintro _ ⟨z, rfl⟩
              have HBz : Hid (Below w.heap.size w z.world) := (HX.out _ (HB8.out.trans (z.below.mono HB8.out.size))).2.2.2.2.1
              go_wp2_with fail
              go_ret
              exact ⟨by rw [← HF.out]; rfl, HBz.out⟩
            have d3 : decide (t1 ≤ ep) = true := by simpa using hT1
            have HF : Hid (decide (t2 < ep) = B) := by
              show _ = _
              rw [← HBd.out]
              refine decB_iff ?_
              rw [decide_eq_true_eq, HT.out]
              exact ⟨fun h => ⟨hT1, h⟩, fun h => h.2⟩
            clear HT
            refine wp_region_pastO (by kernel_rfl) (by kernel_rfl) fun ops HO => ?_
            iterate 6 (quiet_step ((first | (go_at_call 40; with_reducible exact calls_past (HT1.out _)) | (go_at_call 40; with_reducible exact calls_past (HT2.out _)) | fail)))
            iterate 5 (refine quiet_do (by rw [HO.out]; kernel_rfl) (fun K hK => ?_); go_simp; first | (refine hK _ ?_; clear hK K) | (apply Exists.intro; refine ⟨fun _ => ?_, hK _ ?_⟩; (first | (go_at_call 40; with_reducible exact calls_past (HT1.out _)) | (go_at_call 40; with_reducible exact calls_past (HT2.out _)) | fail); clear hK K))
            iterate 2 (quiet_step ((first | (go_at_call 40; with_reducible exact calls_past (HT1.out _)) | (go_at_call 40; with_reducible exact calls_past (HT2.out _)) | fail)))
            refine wpQuiet_nil ?_
            rintro _ ⟨z, rfl⟩
            have HBz : Hid (Below w.heap.size w z.world) := (HX.out _ (HB8.out.trans (z.below.mono HB8.out.size))).2.2.2.2.1
            go_wp2_with fail
            go_ret
            exact ⟨by rw [← HF.out]; rfl, HBz.out⟩
        · have hcM2 : ¬ M = ca := fun e => hcM e.symm
          go_region_held3 (fun W => W.cell? ⟨w.heap.size, 0, none⟩ = some (.slice (some ⟨b, off, none⟩) n ca) ∧ W.cell? ⟨w.heap.size, 3, none⟩ = some (.int .i64 (M : Int))) (refine ⟨?_, ?_⟩ <;> first | assumption | go_keep) (fail)
          · obtain ⟨W8, hW8⟩ : ∃ W8, ((y4.alloc (.cells #[.slice (some ⟨b, off, none⟩) M ca, .slice none 0 0] 26)).alloc (.cells #[.slice (some ⟨b, off + M, none⟩) (n - M) (ca - M), .slice none 0 0] 26)).drew = W8 := ⟨_, rfl⟩
            have HF1 : Hid (BoxN W8 y4.heap.size 26 [.slice (some ⟨b, off, none⟩) M ca, .slice none 0 0]) := by show BoxN _ _ _ _; rw [← hW8]; exact (BoxN.new _ _ _).alloc _
            have HF2 : Hid (BoxN W8 (y4.heap.size + 1) 26 [.slice (some ⟨b, off + M, none⟩) (n - M) (ca - M), .slice none 0 0]) := by
              show BoxN _ _ _ _
              rw [← hW8]
              have := BoxN.new (y4.alloc (.cells #[.slice (some ⟨b, off, none⟩) M ca, .slice none 0 0] 26)) 26 [.slice (some ⟨b, off + M, none⟩) (n - M) (ca - M), .slice none 0 0]
              rw [World.size_alloc] at this
              exact this
            have hb8 : Below y4.heap.size y4 W8 := by rw [← hW8]; exact (((Below.refl _ _).alloc (Nat.le_refl _) _).alloc (by simp) _).drew
            have HB8 : Hid (Below w0.heap.size w0 W8) := HB4.out.trans (hb8.mono HB4.out.size)
            rw [hW8]
            clear hW8 hb8 c0 c3
            go_upto_region 8 with fail
            have hne := past_some W8
            have y2 : ∀ P : Past W8, P.world.cell? ⟨w.heap.size, 2, none⟩ = some (.int .i64 ep) := fun P => (HX.out _ (HB8.out.trans (P.below.mono HB8.out.size))).1.cell 2 rfl
            have l0 : ∀ P : Past W8, P.world.cell? ⟨y4.heap.size, 0, none⟩ = some (.slice (some ⟨b, off, none⟩) M ca) := fun P => (HF1.out.stays P.below).cell 0 rfl
            have l1 : ∀ P : Past W8, P.world.cell? ⟨y4.heap.size, 1, none⟩ = some (.slice none 0 0) := fun P => (HF1.out.stays P.below).cell 1 rfl
            have s0 : ∀ P : Past W8, P.world.cell? ⟨y4.heap.size + 1, 0, none⟩ = some (.slice (some ⟨b, off + M, none⟩) (n - M) (ca - M)) := fun P => (HF2.out.stays P.below).cell 0 rfl
            have s1 : ∀ P : Past W8, P.world.cell? ⟨y4.heap.size + 1, 1, none⟩ = some (.slice none 0 0) := fun P => (HF2.out.stays P.below).cell 1 rfl
            have HT1 : Hid (∀ P : Past W8, Calls Tryz.prog 40 #[.agg #[.slice (some ⟨b, off, none⟩) M ca, .slice none 0 0]] P.world fun e w' => e = .returned (.int .i64 t1) ∧ Below P.world.heap.size P.world w') := fun P => by
              have hx := HX.out _ (HB8.out.trans (P.below.mono HB8.out.size))
              rw [← HE1.out]
              exact implTop_any (some ⟨b, off, none⟩) M ca (X.take M) none 0 0 P.world (hx.2.1.take hMn) (by omega) (fun x hx => HZ.out x (List.mem_of_mem_take hx)) hx.2.2.2.2.2.1
            have HT2 : Hid (∀ P : Past W8, Calls Tryz.prog 40 #[.agg #[.slice (some ⟨b, off + M, none⟩) (n - M) (ca - M), .slice none 0 0]] P.world fun e w' => e = .returned (.int .i64 t2) ∧ Below P.world.heap.size P.world w') := fun P => by
              have hx := HX.out _ (HB8.out.trans (P.below.mono HB8.out.size))
              rw [← HE2.out]
              exact implTop_any (some ⟨b, off + M, none⟩) (n - M) (ca - M) (X.drop M) none 0 0 P.world (hx.2.1.drop hMn) (by omega) (fun x hx => HZ.out x (List.mem_of_mem_drop hx)) hx.2.2.2.2.2.1
            by_cases hT1 : t1 ≤ ep
            case neg =>
              have HF : Hid (false = B) := HNo.out fun h => hT1 (HT.out.1 h).1
              have d3 : decide (t1 ≤ ep) = false := by simpa using hT1
              refine wp_region_pastO (by kernel_rfl) (by kernel_rfl) fun ops HO => ?_
              iterate 6 (quiet_step ((first | (go_at_call 40; with_reducible exact calls_past (HT1.out _)) | (go_at_call 40; with_reducible exact calls_past (HT2.out _)) | fail)))
              iterate 5 (refine quiet_past (by rw [HO.out]; kernel_rfl) ?_)
              iterate 2 (quiet_step ((first | (go_at_call 40; with_reducible exact calls_past (HT1.out _)) | (go_at_call 40; with_reducible exact calls_past (HT2.out _)) | fail)))
              refine wpQuiet_nil ?_
              rintro _ ⟨z, rfl⟩
              have HBz : Hid (Below w.heap.size w z.world) := (HX.out _ (HB8.out.trans (z.below.mono HB8.out.size))).2.2.2.2.1
              go_wp2_with fail
              go_ret
              exact ⟨by rw [← HF.out]; rfl, HBz.out⟩
            have d3 : decide (t1 ≤ ep) = true := by simpa using hT1
            have HF : Hid (decide (t2 < ep) = B) := by
              show _ = _
              rw [← HBd.out]
              refine decB_iff ?_
              rw [decide_eq_true_eq, HT.out]
              exact ⟨fun h => ⟨hT1, h⟩, fun h => h.2⟩
            clear HT
            refine wp_region_pastO (by kernel_rfl) (by kernel_rfl) fun ops HO => ?_
            iterate 6 (quiet_step ((first | (go_at_call 40; with_reducible exact calls_past (HT1.out _)) | (go_at_call 40; with_reducible exact calls_past (HT2.out _)) | fail)))
            iterate 5 (refine quiet_do (by rw [HO.out]; kernel_rfl) (fun K hK => ?_); go_simp; first | (refine hK _ ?_; clear hK K) | (apply Exists.intro; refine ⟨fun _ => ?_, hK _ ?_⟩; (first | (go_at_call 40; with_reducible exact calls_past (HT1.out _)) | (go_at_call 40; with_reducible exact calls_past (HT2.out _)) | fail); clear hK K))
            iterate 2 (quiet_step ((first | (go_at_call 40; with_reducible exact calls_past (HT1.out _)) | (go_at_call 40; with_reducible exact calls_past (HT2.out _)) | fail)))
            refine wpQuiet_nil ?_
            rintro _ ⟨z, rfl⟩
            have HBz : Hid (Below w.heap.size w z.world) := (HX.out _ (HB8.out.trans (z.below.mono HB8.out.size))).2.2.2.2.1
            go_wp2_with fail
            go_ret
            exact ⟨by rw [← HF.out]; rfl, HBz.out⟩
          · obtain ⟨W8, hW8⟩ : ∃ W8, ((y4.alloc (.cells #[.slice (some ⟨b, off + M, none⟩) (n - M) (ca - M), .slice none 0 0] 26)).alloc (.cells #[.slice (some ⟨b, off, none⟩) M ca, .slice none 0 0] 26)).drew = W8 := ⟨_, rfl⟩
            have HF1 : Hid (BoxN W8 y4.heap.size 26 [.slice (some ⟨b, off + M, none⟩) (n - M) (ca - M), .slice none 0 0]) := by show BoxN _ _ _ _; rw [← hW8]; exact (BoxN.new _ _ _).alloc _
            have HF2 : Hid (BoxN W8 (y4.heap.size + 1) 26 [.slice (some ⟨b, off, none⟩) M ca, .slice none 0 0]) := by
              show BoxN _ _ _ _
              rw [← hW8]
              have := BoxN.new (y4.alloc (.cells #[.slice (some ⟨b, off + M, none⟩) (n - M) (ca - M), .slice none 0 0] 26)) 26 [.slice (some ⟨b, off, none⟩) M ca, .slice none 0 0]
              rw [World.size_alloc] at this
              exact this
            have hb8 : Below y4.heap.size y4 W8 := by rw [← hW8]; exact (((Below.refl _ _).alloc (Nat.le_refl _) _).alloc (by simp) _).drew
            have HB8 : Hid (Below w0.heap.size w0 W8) := HB4.out.trans (hb8.mono HB4.out.size)
            rw [hW8]
            clear hW8 hb8 c0 c3
            go_upto_region 8 with fail
            have hne := past_some W8
            have y2 : ∀ P : Past W8, P.world.cell? ⟨w.heap.size, 2, none⟩ = some (.int .i64 ep) := fun P => (HX.out _ (HB8.out.trans (P.below.mono HB8.out.size))).1.cell 2 rfl
            have l0 : ∀ P : Past W8, P.world.cell? ⟨y4.heap.size + 1, 0, none⟩ = some (.slice (some ⟨b, off, none⟩) M ca) := fun P => (HF2.out.stays P.below).cell 0 rfl
            have l1 : ∀ P : Past W8, P.world.cell? ⟨y4.heap.size + 1, 1, none⟩ = some (.slice none 0 0) := fun P => (HF2.out.stays P.below).cell 1 rfl
            have s0 : ∀ P : Past W8, P.world.cell? ⟨y4.heap.size, 0, none⟩ = some (.slice (some ⟨b, off + M, none⟩) (n - M) (ca - M)) := fun P => (HF1.out.stays P.below).cell 0 rfl
            have s1 : ∀ P : Past W8, P.world.cell? ⟨y4.heap.size, 1, none⟩ = some (.slice none 0 0) := fun P => (HF1.out.stays P.below).cell 1 rfl
            have HT1 : Hid (∀ P : Past W8, Calls Tryz.prog 40 #[.agg #[.slice (some ⟨b, off, none⟩) M ca, .slice none 0 0]] P.world fun e w' => e = .returned (.int .i64 t1) ∧ Below P.world.heap.size P.world w') := fun P => by
              have hx := HX.out _ (HB8.out.trans (P.below.mono HB8.out.size))
              rw [← HE1.out]
              exact implTop_any (some ⟨b, off, none⟩) M ca (X.take M) none 0 0 P.world (hx.2.1.take hMn) (by omega) (fun x hx => HZ.out x (List.mem_of_mem_take hx)) hx.2.2.2.2.2.1
            have HT2 : Hid (∀ P : Past W8, Calls Tryz.prog 40 #[.agg #[.slice (some ⟨b, off + M, none⟩) (n - M) (ca - M), .slice none 0 0]] P.world fun e w' => e = .returned (.int .i64 t2) ∧ Below P.world.heap.size P.world w') := fun P => by
              have hx := HX.out _ (HB8.out.trans (P.below.mono HB8.out.size))
              rw [← HE2.out]
              exact implTop_any (some ⟨b, off + M, none⟩) (n - M) (ca - M) (X.drop M) none 0 0 P.world (hx.2.1.drop hMn) (by omega) (fun x hx => HZ.out x (List.mem_of_mem_drop hx)) hx.2.2.2.2.2.1
            by_cases hT1 : t1 ≤ ep
            case neg =>
              have HF : Hid (false = B) := HNo.out fun h => hT1 (HT.out.1 h).1
              have d3 : decide (t1 ≤ ep) = false := by simpa using hT1
              refine wp_region_pastO (by kernel_rfl) (by kernel_rfl) fun ops HO => ?_
              iterate 6 (quiet_step ((first | (go_at_call 40; with_reducible exact calls_past (HT1.out _)) | (go_at_call 40; with_reducible exact calls_past (HT2.out _)) | fail)))
              iterate 5 (refine quiet_past (by rw [HO.out]; kernel_rfl) ?_)
              iterate 2 (quiet_step ((first | (go_at_call 40; with_reducible exact calls_past (HT1.out _)) | (go_at_call 40; with_reducible exact calls_past (HT2.out _)) | fail)))
              refine wpQuiet_nil ?_
              rintro _ ⟨z, rfl⟩
              have HBz : Hid (Below w.heap.size w z.world) := (HX.out _ (HB8.out.trans (z.below.mono HB8.out.size))).2.2.2.2.1
              go_wp2_with fail
              go_ret
              exact ⟨by rw [← HF.out]; rfl, HBz.out⟩
            have d3 : decide (t1 ≤ ep) = true := by simpa using hT1
            have HF : Hid (decide (t2 < ep) = B) := by
              show _ = _
              rw [← HBd.out]
              refine decB_iff ?_
              rw [decide_eq_true_eq, HT.out]
              exact ⟨fun h => ⟨hT1, h⟩, fun h => h.2⟩
            clear HT
            refine wp_region_pastO (by kernel_rfl) (by kernel_rfl) fun ops HO => ?_
            iterate 6 (quiet_step ((first | (go_at_call 40; with_reducible exact calls_past (HT1.out _)) | (go_at_call 40; with_reducible exact calls_past (HT2.out _)) | fail)))
            iterate 5 (refine quiet_do (by rw [HO.out]; kernel_rfl) (fun K hK => ?_); go_simp; first | (refine hK _ ?_; clear hK K) | (apply Exists.intro; refine ⟨fun _ => ?_, hK _ ?_⟩; (first | (go_at_call 40; with_reducible exact calls_past (HT1.out _)) | (go_at_call 40; with_reducible exact calls_past (HT2.out _)) | fail); clear hK K))
            iterate 2 (quiet_step ((first | (go_at_call 40; with_reducible exact calls_past (HT1.out _)) | (go_at_call 40; with_reducible exact calls_past (HT2.out _)) | fail)))
            refine wpQuiet_nil ?_
            rintro _ ⟨z, rfl⟩
            have HBz : Hid (Below w.heap.size w z.world) := (HX.out _ (HB8.out.trans (z.below.mono HB8.out.size))).2.2.2.2.1
            go_wp2_with fail
            go_ret
            exact ⟨by rw [← HF.out]; rfl, HBz.out⟩

end Go.Proofs.YtlkgopoicpnacaaGreatDoor
