/- Servers for whom nothing waits: held against each other, marked, and the marks asked for. -/
import Derived.Test.YtogopmngbjkcjauSvVar
import Derived.Test.YtogopmngbjkcjauStoEq
import Derived.Test.YtogopmngbjkcjauStoHd
namespace Go.Proofs.Ytogopmngbjkcjau
open Go.RowKit
set_option linter.unusedVariables false

set_option maxRecDepth 10000 in
set_option maxHeartbeats 800000 in
theorem eqHeldS_nil (w : World) : Calls Try.prog 35 #[.slice none 0 0, .slice none 0 0] w fun r w' => r = .returned (.bool true) ∧ Below w.heap.size w w' := by
  have HB : Hid (Below w.heap.size w w) := Below.refl _ _
  go_enter Try.func35, Try.ntmps35
  go_wp2
  go_loopw [5] (fun i wr => i = .int .i64 0 ∧ Hid (Below w.heap.size w wr)) (fun _ _ => 0)
  case atStart => exact ⟨rfl, HB⟩
  case round =>
    obtain ⟨rfl, HB1⟩ := hrel
    go_wp2
    go_ret
    exact ⟨rfl, HB1.out⟩

set_option maxRecDepth 10000 in
set_option maxHeartbeats 800000 in
theorem markHeldS_nil (k : Int) (w : World) : Calls Try.prog 36 #[.slice none 0 0, .int .i64 k] w fun r w' => r = .returned (.int .i64 k) ∧ Below w.heap.size w w' := by
  have HB : Hid (Below w.heap.size w w) := Below.refl _ _
  go_enter Try.func36, Try.ntmps36
  go_wp2
  go_loopw [1, 5] (fun v i wr => i = .int .i64 0 ∧ v = .int .i64 k ∧ Hid (Below w.heap.size w wr)) (fun _ _ _ => 0)
  case atStart => exact ⟨rfl, rfl, HB⟩
  case round =>
    obtain ⟨rfl, rfl, HB1⟩ := hrel
    go_wp2
    go_ret
    exact ⟨rfl, HB1.out⟩

set_option maxRecDepth 10000 in
set_option maxHeartbeats 800000 in
theorem heldHeldS_nil (k : Int) (w : World) : Calls Try.prog 38 #[.slice none 0 0, .int .i64 k] w fun r w' => r = .returned (.int .i64 k) ∧ Below w.heap.size w w' := by
  have HB : Hid (Below w.heap.size w w) := Below.refl _ _
  go_enter Try.func38, Try.ntmps38
  go_wp2
  go_loopw [1, 5] (fun v i wr => i = .int .i64 0 ∧ v = .int .i64 k ∧ Hid (Below w.heap.size w wr)) (fun _ _ _ => 0)
  case atStart => exact ⟨rfl, rfl, HB⟩
  case round =>
    obtain ⟨rfl, rfl, HB1⟩ := hrel
    go_wp2
    go_ret
    exact ⟨rfl, HB1.out⟩

set_option maxRecDepth 10000 in
set_option maxHeartbeats 1600000 in
theorem eqServer_nil (a b : Option Addr) (n ca cb : Nat) (X : List ByteArray) (a' b' : Option Addr) (n' ca' cb' : Nat) (Y : List ByteArray) (ep nx : Int) (ua : Option Addr) (un uc lo : Nat) (l : List UE) (va : Option Addr) (vn vc lo' : Nat) (l' : List UE) (w : World) (h1 : StoAt w lo a n ca X a' n' ca' Y ua un uc l) (h2 : StoAt w lo' b n cb X b' n' cb' Y va vn vc l') (he : l.map UE.u = l'.map UE.u) (hn : n ≤ 1099511627776) (hn' : n' ≤ 1099511627776) (hul : un ≤ 1099511627776) (hz : ∀ e ∈ l, e.n ≤ 1099511627776) :
    Calls Try.prog 16 #[.agg #[.slice a n ca, .slice a' n' ca', .int .i64 ep, .int .i64 nx, .slice ua un uc, .slice none 0 0], .agg #[.slice b n cb, .slice b' n' cb', .int .i64 ep, .int .i64 nx, .slice va vn vc, .slice none 0 0]] w fun r w' => r = .returned (.bool true) ∧ Below w.heap.size w w' := by
  obtain ⟨w0, hw0⟩ : ∃ w0, (w.alloc (.cells #[.slice a n ca, .slice a' n' ca', .int .i64 ep, .int .i64 nx, .slice ua un uc, .slice none 0 0] 46)).alloc (.cells #[.slice b n cb, .slice b' n' cb', .int .i64 ep, .int .i64 nx, .slice va vn vc, .slice none 0 0] 46) = w0 := ⟨_, rfl⟩
  have HE : Hid ((w.alloc (.cells #[.slice a n ca, .slice a' n' ca', .int .i64 ep, .int .i64 nx, .slice ua un uc, .slice none 0 0] 46)).alloc (.cells #[.slice b n cb, .slice b' n' cb', .int .i64 ep, .int .i64 nx, .slice va vn vc, .slice none 0 0] 46) = w0) := hw0
  have HB : Hid (Below w.heap.size w w0) := by show Below _ _ _; rw [← hw0]; exact ((Below.refl _ _).alloc (Nat.le_refl _) _).alloc (by simp) _
  have HP : Hid (BoxN w0 w.heap.size 46 [.slice a n ca, .slice a' n' ca', .int .i64 ep, .int .i64 nx, .slice ua un uc, .slice none 0 0]) := by show BoxN _ _ _ _; rw [← hw0]; exact (BoxN.new _ _ _).alloc _
  have HQ : Hid (BoxN w0 (w.heap.size + 1) 46 [.slice b n cb, .slice b' n' cb', .int .i64 ep, .int .i64 nx, .slice va vn vc, .slice none 0 0]) := by
    show BoxN _ _ _ _
    rw [← hw0]
    have := BoxN.new (w.alloc (.cells #[.slice a n ca, .slice a' n' ca', .int .i64 ep, .int .i64 nx, .slice ua un uc, .slice none 0 0] 46)) 46 [.slice b n cb, .slice b' n' cb', .int .i64 ep, .int .i64 nx, .slice va vn vc, .slice none 0 0]
    rw [World.size_alloc] at this
    exact this
  have HX : Hid (∀ W, Below w0.heap.size w0 W → BoxN W w.heap.size 46 [.slice a n ca, .slice a' n' ca', .int .i64 ep, .int .i64 nx, .slice ua un uc, .slice none 0 0] ∧ BoxN W (w.heap.size + 1) 46 [.slice b n cb, .slice b' n' cb', .int .i64 ep, .int .i64 nx, .slice va vn vc, .slice none 0 0] ∧ StoAt W lo a n ca X a' n' ca' Y ua un uc l ∧ StoAt W lo' b n cb X b' n' cb' Y va vn vc l' ∧ Below w.heap.size w W) := fun W hb => ⟨HP.out.stays hb, HQ.out.stays hb, (h1.stays HB.out).stays hb, (h2.stays HB.out).stays hb, HB.out.trans (hb.mono HB.out.size)⟩
  have HU : Hid (l.map UE.u = l'.map UE.u ∧ ∀ e ∈ l, e.n ≤ 1099511627776) := ⟨he, hz⟩
  clear hw0 HB HP HQ h1 h2 he hz
  have HA0 : Hid (Below w0.heap.size w0 w0) := Below.refl _ _
  obtain ⟨x0, x1, x2, x3, x4⟩ := (show _ ∧ _ ∧ _ ∧ _ ∧ _ from ⟨(HX.out _ HA0.out).1.cell 0 rfl, (HX.out _ HA0.out).1.cell 1 rfl, (HX.out _ HA0.out).1.cell 2 rfl, (HX.out _ HA0.out).1.cell 3 rfl, (HX.out _ HA0.out).1.cell 4 rfl⟩)
  obtain ⟨y0, y1, y2, y3, y4⟩ := (show _ ∧ _ ∧ _ ∧ _ ∧ _ from ⟨(HX.out _ HA0.out).2.1.cell 0 rfl, (HX.out _ HA0.out).2.1.cell 1 rfl, (HX.out _ HA0.out).2.1.cell 2 rfl, (HX.out _ HA0.out).2.1.cell 3 rfl, (HX.out _ HA0.out).2.1.cell 4 rfl⟩)
  go_enter Try.func16, Try.ntmps16
  go_upto_region 1 with fail
  rw [HE.out]
  clear HE
  go_wp2_with fail
  refine (eqStore_same a b n ca cb X a' b' n' ca' cb' Y ep nx ua un uc lo l va vn vc lo' l' w0 (HX.out _ HA0.out).2.2.1.now.strs (HX.out _ HA0.out).2.2.2.1.now.strs (HX.out _ HA0.out).2.2.1.sure.strs (HX.out _ HA0.out).2.2.2.1.sure.strs (HX.out _ HA0.out).2.2.1.ups (HX.out _ HA0.out).2.2.2.1.ups (HX.out _ HA0.out).2.2.1.len (HX.out _ HA0.out).2.2.2.1.len HU.out.1 hn hn' hul HU.out.2).mono ?_
  rintro _ W1 ⟨rfl, hb1⟩
  have HB1 : Hid (Below w0.heap.size w0 W1) := hb1
  clear hb1 x0 x1 x2 x3 x4 y0 y1 y2 y3 y4
  have c5 := (HX.out _ HB1.out).1.cell 5 rfl
  have d5 := (HX.out _ HB1.out).2.1.cell 5 rfl
  go_wp2_with fail
  refine (eqHeldS_nil W1).mono ?_
  rintro _ W2 ⟨rfl, hb2⟩
  have HB2 : Hid (Below w.heap.size w W2) := (HX.out _ (HB1.out.trans (hb2.mono HB1.out.size))).2.2.2.2
  clear hb2
  go_wp2_with fail
  go_ret
  exact ⟨rfl, HB2.out⟩

set_option maxRecDepth 10000 in
set_option maxHeartbeats 1600000 in
theorem markServer_nil (base : Nat) (a : Option Addr) (n ca : Nat) (X : List ByteArray) (a' : Option Addr) (n' ca' : Nat) (Y : List ByteArray) (ep nx : Int) (ua : Option Addr) (un uc : Nat) (l : List UE) (k : Nat) (w : World) (h : StoAt w base a n ca X a' n' ca' Y ua un uc l) (hn : n ≤ 2097152) (hn' : n' ≤ 2097152) (hk : k ≤ 1073741824) (hul : un ≤ 1099511627776) (hkE : mkUEnd (k + n + n') l ≤ 2199023255552) (hi : Nat) (hwi : StoIn a a' ua l hi) (hhi : hi ≤ w.heap.size) :
    Calls Try.prog 17 #[.agg #[.slice a n ca, .slice a' n' ca', .int .i64 ep, .int .i64 nx, .slice ua un uc, .slice none 0 0], .int .i64 (k : Int)] w fun r w' => r = .returned (.int .i64 (mkUEnd (k + n + n') l : Int)) ∧ StoMkd w' base k a n ca a' n' ca' ua un uc l ∧ Within w w' base hi := by
  have HI : Hid (StoIn a a' ua l hi ∧ hi ≤ w.heap.size) := ⟨hwi, hhi⟩
  have HS : Hid (StoAt w base a n ca X a' n' ca' Y ua un uc l) := h
  have HK : Hid (mkUEnd (k + n + n') l ≤ 2199023255552) := hkE
  clear h hkE hwi hhi
  have HA : Hid (BoxN (w.alloc (.cells #[.slice a n ca, .slice a' n' ca', .int .i64 ep, .int .i64 nx, .slice ua un uc, .slice none 0 0] 46)) w.heap.size 46 [.slice a n ca, .slice a' n' ca', .int .i64 ep, .int .i64 nx, .slice ua un uc, .slice none 0 0]) := BoxN.new _ _ _
  have HB : Hid (Below w.heap.size w (w.alloc (.cells #[.slice a n ca, .slice a' n' ca', .int .i64 ep, .int .i64 nx, .slice ua un uc, .slice none 0 0] 46))) := (Below.refl _ _).alloc (Nat.le_refl _) _
  obtain ⟨x0, x1, x2, x3, x4⟩ := (show _ ∧ _ ∧ _ ∧ _ ∧ _ from ⟨HA.out.cell 0 rfl, HA.out.cell 1 rfl, HA.out.cell 2 rfl, HA.out.cell 3 rfl, HA.out.cell 4 rfl⟩)
  go_enter Try.func17, Try.ntmps17
  go_wp2_with fail
  obtain ⟨w0, hw0⟩ : ∃ w0, w.alloc (.cells #[.slice a n ca, .slice a' n' ca', .int .i64 ep, .int .i64 nx, .slice ua un uc, .slice none 0 0] 46) = w0 := ⟨_, rfl⟩
  rw [hw0] at HA HB ⊢
  clear hw0 x0 x1 x2 x3 x4
  refine (markStore_any base a n ca X a' n' ca' Y ep nx ua un uc l k w0 (HS.out.stays HB.out) hn hn' hk hul HK.out hi HI.out.1).mono ?_
  rintro _ W1 ⟨rfl, hm1, hw1⟩
  have HM : Hid (StoMkd W1 base k a n ca a' n' ca' ua un uc l ∧ Within w W1 base hi) := ⟨hm1, (within_below HB.out).trans hw1⟩
  have hb1 : BoxN W1 w.heap.size 46 [.slice a n ca, .slice a' n' ca', .int .i64 ep, .int .i64 nx, .slice ua un uc, .slice none 0 0] := (hw1.block _ HA.out.lt (.inr HI.out.2)).trans HA.out
  have c5 := hb1.cell 5 rfl
  obtain ⟨E, hE⟩ : ∃ E, ((mkUEnd (k + n + n') l : Nat) : Int) = E := ⟨_, rfl⟩
  have HEe : Hid (((mkUEnd (k + n + n') l : Nat) : Int) = E) := hE
  rw [hE]
  clear hE hm1 hw1 hb1
  go_wp2_with fail
  refine (markHeldS_nil E W1).mono ?_
  rintro _ W2 ⟨rfl, hb2⟩
  have HM2 : Hid (StoMkd W2 base k a n ca a' n' ca' ua un uc l ∧ Within w W2 base hi) := ⟨StoAt.stays HM.out.1 hb2, HM.out.2.trans (within_below hb2)⟩
  clear hb2
  go_wp2_with fail
  go_ret
  exact ⟨ret_i64 (by rw [HEe.out]), HM2.out⟩

set_option maxRecDepth 10000 in
set_option maxHeartbeats 1600000 in
theorem heldServer_nil (base : Nat) (a : Option Addr) (n ca : Nat) (a' : Option Addr) (n' ca' : Nat) (ep nx : Int) (ua : Option Addr) (un uc : Nat) (l : List UE) (k : Nat) (w : World) (h : StoMkd w base k a n ca a' n' ca' ua un uc l) (hn : n ≤ 2097152) (hn' : n' ≤ 2097152) (hk : k ≤ 1073741824) (hul : un ≤ 1099511627776) (hkE : mkUEnd (k + n + n') l ≤ 2199023255552) :
    Calls Try.prog 18 #[.agg #[.slice a n ca, .slice a' n' ca', .int .i64 ep, .int .i64 nx, .slice ua un uc, .slice none 0 0], .int .i64 (k : Int)] w fun r w' => r = .returned (.int .i64 (mkUEnd (k + n + n') l : Int)) ∧ Below w.heap.size w w' := by
  have HS : Hid (StoMkd w base k a n ca a' n' ca' ua un uc l) := h
  have HK : Hid (mkUEnd (k + n + n') l ≤ 2199023255552) := hkE
  clear h hkE
  have HA : Hid (BoxN (w.alloc (.cells #[.slice a n ca, .slice a' n' ca', .int .i64 ep, .int .i64 nx, .slice ua un uc, .slice none 0 0] 46)) w.heap.size 46 [.slice a n ca, .slice a' n' ca', .int .i64 ep, .int .i64 nx, .slice ua un uc, .slice none 0 0]) := BoxN.new _ _ _
  have HB : Hid (Below w.heap.size w (w.alloc (.cells #[.slice a n ca, .slice a' n' ca', .int .i64 ep, .int .i64 nx, .slice ua un uc, .slice none 0 0] 46))) := (Below.refl _ _).alloc (Nat.le_refl _) _
  obtain ⟨x0, x1, x2, x3, x4⟩ := (show _ ∧ _ ∧ _ ∧ _ ∧ _ from ⟨HA.out.cell 0 rfl, HA.out.cell 1 rfl, HA.out.cell 2 rfl, HA.out.cell 3 rfl, HA.out.cell 4 rfl⟩)
  go_enter Try.func18, Try.ntmps18
  go_wp2_with fail
  obtain ⟨w0, hw0⟩ : ∃ w0, w.alloc (.cells #[.slice a n ca, .slice a' n' ca', .int .i64 ep, .int .i64 nx, .slice ua un uc, .slice none 0 0] 46) = w0 := ⟨_, rfl⟩
  rw [hw0] at HA HB ⊢
  clear hw0 x0 x1 x2 x3 x4
  refine (heldStore_any base a n ca a' n' ca' ep nx ua un uc l k w0 (StoAt.stays HS.out HB.out) hn hn' hk hul HK.out).mono ?_
  rintro _ W1 ⟨rfl, hb1⟩
  have HB1 : Hid (Below w.heap.size w W1) := HB.out.trans (hb1.mono HB.out.size)
  have c5 := (HA.out.stays hb1).cell 5 rfl
  obtain ⟨E, hE⟩ : ∃ E, ((mkUEnd (k + n + n') l : Nat) : Int) = E := ⟨_, rfl⟩
  have HEe : Hid (((mkUEnd (k + n + n') l : Nat) : Int) = E) := hE
  have hp : ¬ E < 0 := by omega
  have hpd : decide (E < 0) = false := by simp; omega
  rw [hE]
  clear hE hb1
  go_wp2_with fail
  refine (heldHeldS_nil E W1).mono ?_
  rintro _ W2 ⟨rfl, hb2⟩
  have HB2 : Hid (Below w.heap.size w W2) := HB1.out.trans (hb2.mono HB1.out.size)
  clear hb2
  go_wp2_with fail
  go_ret
  exact ⟨ret_i64 (by rw [HEe.out]), HB2.out⟩

end Go.Proofs.Ytogopmngbjkcjau
