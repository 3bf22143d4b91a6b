/- How long the bytes of the records ahead are. No statement of the program but its table of types. A region that draws its order, whose operations only read and whose callees leave all that was there: walked once, in the order of the text. No program in it. What the specification's StoreOk answers. A region that draws its order: operations that only read and callees that leave all that was there, and behind all of them a few that come one by one: walked once, in the order of the text. No program in it. What the specification's l14Write does to a store in a variable. -/
import Derived.Test.YtogopmngbjkcjafDoorM10
import Derived.Test.YtogopmngbjkcjafDoorM08
import Derived.Test.YtogopmngbjkcjafDoorM01
import Derived.Deep.QuietTactic
import Derived.Test.YtogopmngbjkcjafDoorM18
import Derived.Test.YtogopmngbjkcjafDoorM19
import Derived.Test.YtogopmngbjkcjafDoorM20
import Derived.Test.YtogopmngbjkcjafDoorM22
import Derived.Test.YtogopmngbjkcjafDoorM09
import Derived.StillTail
import Derived.Test.YtogopmngbjkcjafDoorM07
import Derived.Test.YtogopmngbjkcjafDoorM17
import Derived.Test.YtogopmngbjkcjafDoorM21
import Derived.Deep.CutBlock
namespace Go.Proofs.YtogopmngbjkcjafDoor
open Go.RowKit
set_option linter.unusedVariables false

theorem scanFrom_ok (l : List ByteArray) : ∀ (i : Nat) (last : Int), (scanFrom i last l).length ≤ l.length ∧ ∀ r ∈ scanFrom i last l, r.zs.length ≤ 24 := by
  induction l with
  | nil => intro i last; simp [scanFrom]
  | cons s l ih =>
    intro i last
    rw [scanFrom]
    cases hr : nextR i last s with
    | none => simp
    | some r =>
      have h1 := ih (i + 1) r.e
      refine ⟨by simp only [List.length_cons]; omega, fun x hx => ?_⟩
      rcases List.mem_cons.1 hx with rfl | hx
      · exact (okRec_iff (recOf_iff.1 (nextR_ok hr).1).1).2.2.2.2.2
      · exact h1.2 x hx

theorem rows_short {W : World} {lo : Nat} {v : Value} {l : List RE} {L : List R} (h : RcRow W lo v l) (hl : l.map RE.r = L) (hL : ∀ r ∈ L, r.zs.length ≤ 24) : ∀ e ∈ l, e.n ≤ 24 := by
  intro e he
  have h1 := (h.2.1 e he).seg.1
  have h2 := hL e.r (by rw [← hl]; exact List.mem_map_of_mem he)
  omega

end Go.Proofs.YtogopmngbjkcjafDoor

namespace Go.Proofs.YtogopmngbjkcjafDoor
open Go.RowKit

/-- A world in which all that lay in w is as it was. -/
structure Past (w : World) where
  world : World
  below : Below w.heap.size w world

theorem wp_region_past {P : Program} {id : Nat} {Q : Exit → Act → World → Prop} {a : Act} {w : World} {l : List Oper} (hm : P.follows .mixedOrders = true) (hB : Region.lexB .any l.toArray = true)
    (h : wpQuiet P l.toArray (fun w' => ∃ p : Past w, w' = p.world) (fun a' => ∀ w', (∃ p : Past w, w' = p.world) → Q .normal a' w') l a) : (Code.region id l.toArray true).wp P Q a w :=
  wp_region_quiet (C := fun w' => ∃ p : Past w, w' = p.world) hm hB ⟨⟨w.drew, (Below.refl _ _).drew⟩, rfl⟩ (by simpa using h)

theorem calls_past {P : Program} {f : FuncId} {args : Array Value} {w : World} {p : Past w} {v : Value}
    (h : Calls P f args p.world fun e w' => e = .returned v ∧ Below p.world.heap.size p.world w') : Calls P f args p.world fun e w'' => e = .returned v ∧ ∃ p : Past w, w'' = p.world :=
  h.mono fun _ w' ⟨he, hb⟩ => ⟨he, ⟨w', p.below.trans (hb.mono p.below.size)⟩, rfl⟩

/-- One operation that is wanted. -/
theorem quiet_do {P : Program} {ops : Array Oper} {C : World → Prop} {Q : Act → Prop} {a : Act} {o : Oper} {rest : List Oper} (hw : Region.wanted o (yielded ops a.tmps) = true)
    (h : ∀ K : Act → Prop, (∀ a, wpQuiet P ops C Q rest a → K a) → o.quiet P a C K) : wpQuiet P ops C Q (o :: rest) a :=
  wpQuiet_step fun K hK => by rw [if_pos hw]; exact h K hK

/-- One that is not. -/
theorem quiet_skip {P : Program} {ops : Array Oper} {C : World → Prop} {Q : Act → Prop} {a : Act} {o : Oper} {rest : List Oper} (hw : Region.wanted o (yielded ops a.tmps) = false)
    (h : ∀ K : Act → Prop, (∀ a, wpQuiet P ops C Q rest a → K a) → K (a.put o.dst undef)) : wpQuiet P ops C Q (o :: rest) a :=
  wpQuiet_step fun K hK => by rw [if_neg (by rw [hw]; simp)]; exact h K hK

/-- One that is not: what is behind it. -/
theorem quiet_past {P : Program} {ops : Array Oper} {C : World → Prop} {Q : Act → Prop} {a : Act} {o : Oper} {rest : List Oper} (hw : Region.wanted o (yielded ops a.tmps) = false) (h : wpQuiet P ops C Q rest (a.put o.dst undef)) : wpQuiet P ops C Q (o :: rest) a :=
  quiet_skip hw fun _ hK => hK _ h

/-- As wp_region_past, the region's row hidden behind a name: then what an unwanted operation would do is not looked at. -/
theorem wp_region_pastO {P : Program} {id : Nat} {Q : Exit → Act → World → Prop} {a : Act} {w : World} {l : List Oper} (hm : P.follows .mixedOrders = true) (hB : Region.lexB .any l.toArray = true)
    (h : ∀ ops : Array Oper, Hid (ops = l.toArray) → wpQuiet P ops (fun w' => ∃ p : Past w, w' = p.world) (fun a' => ∀ w', (∃ p : Past w, w' = p.world) → Q .normal a' w') l a) : (Code.region id l.toArray true).wp P Q a w :=
  wp_region_past hm hB (h _ rfl)

theorem past_some (w : World) : Nonempty (Past w) := ⟨⟨w, Below.refl _ _⟩⟩

theorem Past.cell {w : World} (p : Past w) {a : Addr} {v : Value} (hb : a.block < w.heap.size) (h : w.cell? a = some v) : p.world.cell? a = some v := (p.below.cell hb).trans h

end Go.Proofs.YtogopmngbjkcjafDoor

namespace Go.Proofs.YtogopmngbjkcjafDoor
open Go.RowKit
set_option linter.unusedVariables false

set_option maxRecDepth 10000 in
set_option maxHeartbeats 1600000 in
theorem specSok_any (a : Option Addr) (n ca : Nat) (X : List ByteArray) (a' : Option Addr) (n' ca' : Nat) (Y : List ByteArray) (ep nx : Int) (ua : Option Addr) (un uc lo : Nat) (l : List UE) (w : World) (h1 : Strs w a n X) (h2 : Strs w a' n' Y) (hn : n ≤ 1048576) (hn' : n' ≤ 1048576) (hz : ∀ x ∈ X, x.size ≤ 1048576) (hu : UpRow w lo (.slice ua un uc) l) (hun : un = l.length) (hul : un ≤ 1048576) :
    Calls Tryd.prog 54 #[.agg #[.slice a n ca, .slice a' n' ca', .int .i64 ep, .int .i64 nx, .slice ua un uc]] w fun e w' => (∃ b : Bool, e = .returned (.bool b) ∧ (b = true ↔ SOk X Y ep nx (l.map UE.u))) ∧ Below w.heap.size w w' := by
  have hmm : maxLen < 9223372036854775808 := by decide
  obtain ⟨w0, hw0⟩ : ∃ w0, w.alloc (.cells #[.slice a n ca, .slice a' n' ca', .int .i64 ep, .int .i64 nx, .slice ua un uc] 37) = w0 := ⟨_, rfl⟩
  have HE : Hid (w.alloc (.cells #[.slice a n ca, .slice a' n' ca', .int .i64 ep, .int .i64 nx, .slice ua un uc] 37) = w0) := hw0
  have HQ : Hid (BoxN w0 w.heap.size 37 [.slice a n ca, .slice a' n' ca', .int .i64 ep, .int .i64 nx, .slice ua un uc]) := by show BoxN _ _ _ _; rw [← hw0]; exact BoxN.new _ _ _
  have HB : Hid (Below w.heap.size w w0) := by show Below _ _ _; rw [← hw0]; exact (Below.refl _ _).alloc (Nat.le_refl _) _
  have HX : Hid (∀ W, Below w0.heap.size w0 W → BoxN W w.heap.size 37 [.slice a n ca, .slice a' n' ca', .int .i64 ep, .int .i64 nx, .slice ua un uc] ∧ Strs W a n X ∧ Strs W a' n' Y ∧ UpRow W lo (.slice ua un uc) l ∧ Below w.heap.size w W) := fun W hb => ⟨HQ.out.stays hb, (h1.below HB.out).below hb, (h2.below HB.out).below hb, (hu.stays HB.out).stays hb, HB.out.trans (hb.mono HB.out.size)⟩
  have HZ : Hid (∀ x ∈ X, x.size ≤ 1048576) := hz
  have HU : Hid (un = l.length) := hun
  have hww : w.heap.size < w0.heap.size := HQ.out.lt
  clear hw0 h1 h2 hu hz hun HB HQ
  have HA0 : Hid (Below w0.heap.size w0 w0) := Below.refl _ _
  obtain ⟨c0, c1, c2, c3, c4⟩ := (show _ ∧ _ ∧ _ ∧ _ ∧ _ from ⟨(HX.out _ HA0.out).1.cell 0 rfl, (HX.out _ HA0.out).1.cell 1 rfl, (HX.out _ HA0.out).1.cell 2 rfl, (HX.out _ HA0.out).1.cell 3 rfl, (HX.out _ HA0.out).1.cell 4 rfl⟩)
  go_enter Tryd.func54, Tryd.ntmps54
  go_upto_region 1 with fail
  rw [HE.out]
  clear HE
  go_wp2_with fail
  refine (specDok_any a n ca X a' n' ca' Y w0 (HX.out _ HA0.out).2.1 (HX.out _ HA0.out).2.2.1 (by omega) (by omega)).mono ?_
  rintro _ y1 ⟨rfl, hb1⟩
  have HB1 : Hid (Below w0.heap.size w0 y1) := hb1
  clear hb1 c0 c1 c2 c3 c4
  obtain ⟨c0, c1, c2, c3, c4⟩ := (show _ ∧ _ ∧ _ ∧ _ ∧ _ from ⟨(HX.out _ HB1.out).1.cell 0 rfl, (HX.out _ HB1.out).1.cell 1 rfl, (HX.out _ HB1.out).1.cell 2 rfl, (HX.out _ HB1.out).1.cell 3 rfl, (HX.out _ HB1.out).1.cell 4 rfl⟩)
  cases hok : okD X Y
  · have HF : Hid (¬ SOk X Y ep nx (l.map UE.u)) := fun h => by have := h.1; rw [hok] at this; cases this
    have HBw : Hid (Below w.heap.size w y1) := (HX.out y1 HB1.out).2.2.2.2
    clear hok
    go_wp2_with fail
    go_ret
    exact ⟨⟨false, rfl, no_store HF.out⟩, HBw.out⟩
  have HOk : Hid (okD X Y = true) := hok
  clear hok
  go_wp2_with fail
  refine (l1In_any ep 0 10000 y1).mono ?_
  rintro _ y ⟨rfl, hy⟩
  rw [hy]
  clear hy y
  by_cases hep : 0 ≤ ep ∧ ep ≤ 10000
  case neg =>
    have HF : Hid (¬ SOk X Y ep nx (l.map UE.u)) := fun h => hep h.2.1
    have HBw : Hid (Below w.heap.size w y1) := (HX.out y1 HB1.out).2.2.2.2
    rw [decide_eq_false hep]
    go_wp2_with fail
    go_ret
    exact ⟨⟨false, rfl, no_store HF.out⟩, HBw.out⟩
  rw [decide_eq_true hep]
  have HEp : Hid (0 ≤ ep ∧ ep ≤ 10000) := hep
  clear hep
  go_wp2_with fail
  refine (specScan_any a n ca X a' n' ca' y1 (HX.out _ HB1.out).2.1 (by omega) HZ.out).mono ?_
  rintro _ y2 ⟨⟨v2, rs, rfl, hrow, hlm⟩, hb2⟩
  have HB2 : Hid (Below w0.heap.size w0 y2) := HB1.out.trans (hb2.mono HB1.out.size)
  obtain ⟨ra, rc, rfl⟩ := hrow.shape
  obtain ⟨M, hM⟩ : ∃ M, rs.length = M := ⟨_, rfl⟩
  rw [hM] at hrow ⊢
  have HM : Hid (M = rs.length) := hM.symm
  have HLm : Hid (rs.map RE.r = scanR X) := hlm
  have HR2 : Hid (∀ W, Below y2.heap.size y2 W → RcRow W y1.heap.size (.slice ra M rc) rs) := fun W h => hrow.stays h
  have HSh : Hid (∀ e ∈ rs, e.n ≤ 24) := rows_short hrow hlm (scanFrom_ok X 0 0).2
  have hMn : M ≤ 1048576 := by
    have h1 := (scanFrom_ok X 0 0).1
    have h2 := (HX.out _ HB2.out).2.1.1
    have h3 := congrArg List.length hlm
    rw [List.length_map, hM] at h3
    have h4 : (scanR X).length = (scanFrom 0 0 X).length := rfl
    omega
  clear hrow hlm hM hb2 c0 c1 c2 c3 c4
  go_wp2_with fail
  refine (specFold_any ra M rc y1.heap.size rs 24 y2 (HR2.out _ (Below.refl _ _)) HM.out (by omega) HSh.out (by omega) (by omega)).mono ?_
  rintro _ y3 ⟨⟨x3, l3, rfl, hrow3, hm3, h310⟩, hb3⟩
  rw [HLm.out] at hm3 ⊢
  have HB3 : Hid (Below w0.heap.size w0 y3) := HB2.out.trans (hb3.mono HB2.out.size)
  obtain ⟨xa, xc, rfl⟩ := hrow3.shape
  have HR3 : Hid (∀ P : Past y3, UpRow P.world y2.heap.size (.slice xa l3.length xc) l3) := fun P => hrow3.stays P.below
  have HRr : Hid (∀ P : Past y3, RcRow P.world y1.heap.size (.slice ra M rc) rs) := fun P => HR2.out _ (hb3.trans (P.below.mono hb3.size))
  clear hb3 hrow3
  go_upto_region 5 with fail
  have x2 : ∀ P : Past y3, P.world.cell? ⟨w.heap.size, 2, none⟩ = some (.int .i64 ep) := fun P => (HX.out _ (HB3.out.trans (P.below.mono HB3.out.size))).1.cell 2 rfl
  have x3 : ∀ P : Past y3, P.world.cell? ⟨w.heap.size, 3, none⟩ = some (.int .i64 nx) := fun P => (HX.out _ (HB3.out.trans (P.below.mono HB3.out.size))).1.cell 3 rfl
  have x4 : ∀ P : Past y3, P.world.cell? ⟨w.heap.size, 4, none⟩ = some (.slice ua un uc) := fun P => (HX.out _ (HB3.out.trans (P.below.mono HB3.out.size))).1.cell 4 rfl
  have HSm : Hid (∀ P : Past y3, Calls Tryd.prog 67 #[.slice xa l3.length xc, .slice ua un uc] P.world fun e w' => e = .returned (.bool (decB (l3.map UE.u = l.map UE.u))) ∧ Below P.world.heap.size P.world w') := fun P => (specSameU_any xa l3.length xc y2.heap.size l3 ua un uc lo l P.world (HR3.out P) rfl (HX.out _ (HB3.out.trans (P.below.mono HB3.out.size))).2.2.2.1 HU.out (by omega) (by omega)).mono (fun e w' ⟨⟨b, he, hb⟩, hbl⟩ => ⟨by rw [he, decB_iff hb], hbl⟩)
  have hne := past_some y3
  cases hf : foldU (scanR X) with
  | none =>
    have HF : Hid (¬ SOk X Y ep nx (l.map UE.u)) := fun h => by have := h.2.2.1; rw [hf] at this; cases this
    rw [hf] at hm3
    try dsimp only [Option.isSome]
    refine wp_region_pastO (by kernel_rfl) (by kernel_rfl) fun ops HO => ?_
    iterate 3 (quiet_step ((first | (go_at_call 67; with_reducible exact calls_past (HSm.out _)) | fail)))
    iterate 5 (refine quiet_past (by rw [HO.out]; kernel_rfl) ?_)
    iterate 2 (quiet_step ((first | (go_at_call 67; with_reducible exact calls_past (HSm.out _)) | fail)))
    iterate 5 (refine quiet_past (by rw [HO.out]; kernel_rfl) ?_)
    iterate 2 (quiet_step ((first | (go_at_call 67; with_reducible exact calls_past (HSm.out _)) | fail)))
    iterate 4 (refine quiet_past (by rw [HO.out]; kernel_rfl) ?_)
    iterate 10 (refine quiet_past (by rw [HO.out]; kernel_rfl) ?_)
    iterate 1 (refine quiet_past (by rw [HO.out]; kernel_rfl) ?_)
    iterate 1 (quiet_step ((first | (go_at_call 67; with_reducible exact calls_past (HSm.out _)) | fail)))
    refine wpQuiet_nil ?_
    rintro _ ⟨z, rfl⟩
    have HBz : Hid (Below w.heap.size w z.world) := (HX.out _ (HB3.out.trans (z.below.mono HB3.out.size))).2.2.2.2
    go_wp2_with fail
    go_ret
    exact ⟨⟨false, rfl, no_store HF.out⟩, HBz.out⟩
  | some us =>
    rw [hf] at hm3
    try dsimp only [Option.isSome]
    have HUs : Hid (l3.map UE.u = us) := hm3
    have HFo : Hid (foldU (scanR X) = some us) := hf
    clear hm3 hf
    by_cases hsame : l3.map UE.u = l.map UE.u
    case neg =>
      have HF : Hid (¬ SOk X Y ep nx (l.map UE.u)) := fun h => by
        have h1 := h.2.2.1
        rw [HFo.out] at h1
        injection h1 with h1
        exact hsame (by rw [HUs.out, h1])
      rw [decB_false hsame] at HSm
      clear hsame
      refine wp_region_pastO (by kernel_rfl) (by kernel_rfl) fun ops HO => ?_
      iterate 3 (quiet_step ((first | (go_at_call 67; with_reducible exact calls_past (HSm.out _)) | fail)))
      iterate 5 (refine quiet_do (by rw [HO.out]; kernel_rfl) (fun K hK => ?_); go_simp; first | (refine hK _ ?_; clear hK K) | (apply Exists.intro; refine ⟨fun _ => ?_, hK _ ?_⟩; (first | (go_at_call 67; with_reducible exact calls_past (HSm.out _)) | fail); clear hK K))
      iterate 2 (quiet_step ((first | (go_at_call 67; with_reducible exact calls_past (HSm.out _)) | fail)))
      iterate 5 (refine quiet_past (by rw [HO.out]; kernel_rfl) ?_)
      iterate 2 (quiet_step ((first | (go_at_call 67; with_reducible exact calls_past (HSm.out _)) | fail)))
      iterate 4 (refine quiet_past (by rw [HO.out]; kernel_rfl) ?_)
      iterate 10 (refine quiet_past (by rw [HO.out]; kernel_rfl) ?_)
      iterate 1 (refine quiet_past (by rw [HO.out]; kernel_rfl) ?_)
      iterate 1 (quiet_step ((first | (go_at_call 67; with_reducible exact calls_past (HSm.out _)) | fail)))
      refine wpQuiet_nil ?_
      rintro _ ⟨z, rfl⟩
      have HBz : Hid (Below w.heap.size w z.world) := (HX.out _ (HB3.out.trans (z.below.mono HB3.out.size))).2.2.2.2
      go_wp2_with fail
      go_ret
      exact ⟨⟨false, rfl, no_store HF.out⟩, HBz.out⟩
    rw [decB_true hsame] at HSm
    have HFl : Hid (foldU (scanR X) = some (l.map UE.u)) := by show _ = _; rw [HFo.out, ← HUs.out, hsame]
    clear hsame
    have HMs : Hid ((scanR X).length = M) := by
      show _ = _
      have h3 := congrArg List.length HLm.out
      rw [List.length_map, ← HM.out] at h3
      exact h3.symm
    by_cases hnx : nx = (M : Int)
    case neg =>
      have HF : Hid (¬ SOk X Y ep nx (l.map UE.u)) := fun h => hnx (by rw [h.2.2.2.1, HMs.out])
      have hnb : (nx != (M : Int)) = true := by simpa using hnx
      refine wp_region_pastO (by kernel_rfl) (by kernel_rfl) fun ops HO => ?_
      iterate 3 (quiet_step ((first | (go_at_call 67; with_reducible exact calls_past (HSm.out _)) | fail)))
      iterate 5 (refine quiet_do (by rw [HO.out]; kernel_rfl) (fun K hK => ?_); go_simp; first | (refine hK _ ?_; clear hK K) | (apply Exists.intro; refine ⟨fun _ => ?_, hK _ ?_⟩; (first | (go_at_call 67; with_reducible exact calls_past (HSm.out _)) | fail); clear hK K))
      iterate 2 (quiet_step ((first | (go_at_call 67; with_reducible exact calls_past (HSm.out _)) | fail)))
      iterate 5 (refine quiet_do (by rw [HO.out]; kernel_rfl) (fun K hK => ?_); go_simp; first | (refine hK _ ?_; clear hK K) | (apply Exists.intro; refine ⟨fun _ => ?_, hK _ ?_⟩; (first | (go_at_call 67; with_reducible exact calls_past (HSm.out _)) | fail); clear hK K))
      iterate 2 (quiet_step ((first | (go_at_call 67; with_reducible exact calls_past (HSm.out _)) | fail)))
      iterate 4 (refine quiet_past (by rw [HO.out]; kernel_rfl) ?_)
      iterate 10 (refine quiet_past (by rw [HO.out]; kernel_rfl) ?_)
      iterate 1 (refine quiet_past (by rw [HO.out]; kernel_rfl) ?_)
      iterate 1 (quiet_step ((first | (go_at_call 67; with_reducible exact calls_past (HSm.out _)) | fail)))
      refine wpQuiet_nil ?_
      rintro _ ⟨z, rfl⟩
      have HBz : Hid (Below w.heap.size w z.world) := (HX.out _ (HB3.out.trans (z.below.mono HB3.out.size))).2.2.2.2
      go_wp2_with fail
      go_ret
      exact ⟨⟨false, rfl, no_store HF.out⟩, HBz.out⟩
    subst hnx
    by_cases hM0 : M = 0
    · subst hM0
      have HLa : Hid (∀ r, (scanR X).getLast? = some r → r.e ≤ ep) := fun r h => by rw [List.eq_nil_of_length_eq_zero HMs.out] at h; cases h
      refine wp_region_pastO (by kernel_rfl) (by kernel_rfl) fun ops HO => ?_
      iterate 3 (quiet_step ((first | (go_at_call 67; with_reducible exact calls_past (HSm.out _)) | fail)))
      iterate 5 (refine quiet_do (by rw [HO.out]; kernel_rfl) (fun K hK => ?_); go_simp; first | (refine hK _ ?_; clear hK K) | (apply Exists.intro; refine ⟨fun _ => ?_, hK _ ?_⟩; (first | (go_at_call 67; with_reducible exact calls_past (HSm.out _)) | fail); clear hK K))
      iterate 2 (quiet_step ((first | (go_at_call 67; with_reducible exact calls_past (HSm.out _)) | fail)))
      iterate 5 (refine quiet_do (by rw [HO.out]; kernel_rfl) (fun K hK => ?_); go_simp; first | (refine hK _ ?_; clear hK K) | (apply Exists.intro; refine ⟨fun _ => ?_, hK _ ?_⟩; (first | (go_at_call 67; with_reducible exact calls_past (HSm.out _)) | fail); clear hK K))
      iterate 2 (quiet_step ((first | (go_at_call 67; with_reducible exact calls_past (HSm.out _)) | fail)))
      iterate 4 (refine quiet_do (by rw [HO.out]; kernel_rfl) (fun K hK => ?_); go_simp; first | (refine hK _ ?_; clear hK K) | (apply Exists.intro; refine ⟨fun _ => ?_, hK _ ?_⟩; (first | (go_at_call 67; with_reducible exact calls_past (HSm.out _)) | fail); clear hK K))
      iterate 10 (refine quiet_past (by rw [HO.out]; kernel_rfl) ?_)
      iterate 1 (refine quiet_do (by rw [HO.out]; kernel_rfl) (fun K hK => ?_); go_simp; first | (refine hK _ ?_; clear hK K) | (apply Exists.intro; refine ⟨fun _ => ?_, hK _ ?_⟩; (first | (go_at_call 67; with_reducible exact calls_past (HSm.out _)) | fail); clear hK K))
      iterate 1 (quiet_step ((first | (go_at_call 67; with_reducible exact calls_past (HSm.out _)) | fail)))
      refine wpQuiet_nil ?_
      rintro _ ⟨z, rfl⟩
      have HBz : Hid (Below w0.heap.size w0 z.world) := HB3.out.trans (z.below.mono HB3.out.size)
      obtain ⟨c0, c1, c2, c3, c4⟩ := (show _ ∧ _ ∧ _ ∧ _ ∧ _ from ⟨(HX.out _ HBz.out).1.cell 0 rfl, (HX.out _ HBz.out).1.cell 1 rfl, (HX.out _ HBz.out).1.cell 2 rfl, (HX.out _ HBz.out).1.cell 3 rfl, (HX.out _ HBz.out).1.cell 4 rfl⟩)
      have hMn2 : 0 ≤ n := by
        have h1 := scanFrom_ok X 0 0
        have h2 := (HX.out _ HBz.out).2.1.1
        have h4 : (scanR X).length = (scanFrom 0 0 X).length := rfl
        have h5 := HMs.out
        omega
      clear x2 x3 x4 HSm HR3 HRr 
      go_wp2_with fail
      clear c0 c1 c2 c3 c4
      go_loopw [6] (fun v wr => ∃ k : Nat, v = .int .i64 (k : Int) ∧ 0 ≤ k ∧ k ≤ n ∧ Hid (∀ (j : Nat) (x : ByteArray) (r : R), 0 ≤ j → j < k → X[j]? = some x → recOf x = some r → r.e < ep) ∧ Hid (Below w0.heap.size w0 wr)) (fun v _ => n - (intOf v).toNat)
      case atStart => exact ⟨0, by first | rfl | go_num, Nat.le_refl _, hMn2, (fun j x r q1 q2 => absurd q2 (by omega)), HBz⟩
      case round =>
        obtain ⟨k, rfl, hMk, hkn, HJ, HW⟩ := hrel
        obtain ⟨c0, c1, c2, c3, c4⟩ := (show _ ∧ _ ∧ _ ∧ _ ∧ _ from ⟨(HX.out _ HW.out).1.cell 0 rfl, (HX.out _ HW.out).1.cell 1 rfl, (HX.out _ HW.out).1.cell 2 rfl, (HX.out _ HW.out).1.cell 3 rfl, (HX.out _ HW.out).1.cell 4 rfl⟩)
        by_cases hlt : k < n
        case neg =>
          obtain rfl : k = n := by omega
          have HF : Hid (SOk X Y ep ((0 : Nat) : Int) (l.map UE.u)) := ⟨HOk.out, HEp.out, HFl.out, by rw [HMs.out], HLa.out, fun j x r q1 q2 q3 => HJ.out j x r (by rw [HMs.out] at q1; exact q1) (by have q4 := (List.getElem?_eq_some_iff.1 q2).1; have q5 := (HX.out _ HW.out).2.1.1; omega) q2 q3⟩
          have HBw : Hid (Below w.heap.size w wr) := (HX.out _ HW.out).2.2.2.2
          go_wp2_with fail
          go_ret
          exact ⟨⟨true, rfl, ⟨fun _ => HF.out, fun _ => rfl⟩⟩, HBw.out⟩
        have HBw : Hid (∀ W, Below wr.heap.size wr W → Below w.heap.size w W ∧ Below w0.heap.size w0 W) := fun W hb => ⟨(HX.out _ (HW.out.trans (hb.mono HW.out.size))).2.2.2.2, HW.out.trans (hb.mono HW.out.size)⟩
        obtain ⟨p, po, x, hpe, _, hkx, hp⟩ := (HX.out _ HW.out).2.1.at hlt
        rw [hpe] at c0
        have HK : Hid (X[k]? = some x) := hkx
        have hxz : x.size ≤ 1048576 := HZ.out x (List.mem_of_getElem? hkx)
        have hki : (k : Int) < (n : Int) := by omega
        have hk0 : (0 : Int) ≤ (k : Int) := by omega
        clear hkx hpe
        go_wp2_with fail
        refine (specGetR_any x wr (by omega)).mono ?_
        rintro _ v1 ⟨⟨v, rfl, hgot⟩, hb1⟩
        rcases hgot with ⟨hr, rfl⟩ | ⟨r, Ag, Cg, hr, rfl, _⟩
        · have HW2 : Hid (Below w0.heap.size w0 (v1.alloc (.cells #[.int .i64 0, .int .i64 0, .int .i64 0, .string ⟨#[]⟩, .int .i64 0, .slice none 0 0] 43))) := (HBw.out _ hb1).2.alloc (HBw.out _ hb1).2.size _
          have HJ2 : Hid (∀ (j : Nat) (x : ByteArray) (r : R), 0 ≤ j → j < k + 1 → X[j]? = some x → recOf x = some r → r.e < ep) := fun j y r q1 q2 q3 q4 => by
            by_cases hj : j = k
            · subst hj
              rw [HK.out] at q3
              injection q3 with q3
              subst q3
              rw [hr] at q4
              cases q4
            · exact HJ.out j y r q1 (by omega) q3 q4
          clear hr hb1 HJ HBw c0 c1 c2 c3 c4
          go_wp2_with fail
          go_roundw
          case rel => exact ⟨k + 1, by go_num, by omega, by omega, HJ2, HW2⟩
          case measure => simp [intOf]; omega
        · have hbA := hb1.trans (((Below.refl v1.heap.size v1).alloc (Nat.le_refl _) (.cells #[.int .i64 r.e, .int .i64 r.q, .int .i64 r.k, .string r.id, .int .i64 r.n, .slice Ag r.zs.length Cg] 43)).mono hb1.size)
          have HW2 : Hid (Below w0.heap.size w0 (v1.alloc (.cells #[.int .i64 r.e, .int .i64 r.q, .int .i64 r.k, .string r.id, .int .i64 r.n, .slice Ag r.zs.length Cg] 43))) := (HBw.out _ hbA).2
          have HBf : Hid (Below w.heap.size w (v1.alloc (.cells #[.int .i64 r.e, .int .i64 r.q, .int .i64 r.k, .string r.id, .int .i64 r.n, .slice Ag r.zs.length Cg] 43))) := (HBw.out _ hbA).1
          have d2 := (HX.out _ HW2.out).1.cell 2 rfl
          have HRr : Hid (recOf x = some r) := hr
          clear hr hb1 hbA HBw c0 c1 c2 c3 c4 hp
          by_cases hge : ep ≤ r.e
          · have HF : Hid (¬ SOk X Y ep ((0 : Nat) : Int) (l.map UE.u)) := fun h => by
              have q := h.2.2.2.2.2 k x r (by rw [HMs.out]; exact hMk) HK.out HRr.out
              omega
            go_wp2_with fail
            go_ret
            exact ⟨⟨false, rfl, no_store HF.out⟩, HBf.out⟩
          · have hgd : decide (ep ≤ r.e) = false := decide_eq_false hge
            have HJ2 : Hid (∀ (j : Nat) (x : ByteArray) (r : R), 0 ≤ j → j < k + 1 → X[j]? = some x → recOf x = some r → r.e < ep) := fun j y r' q1 q2 q3 q4 => by
              by_cases hj : j = k
              · subst hj
                rw [HK.out] at q3
                injection q3 with q3
                subst q3
                rw [HRr.out] at q4
                injection q4 with q4
                subst q4
                omega
              · exact HJ.out j y r' q1 (by omega) q3 q4
            clear HJ
            go_wp2_with fail
            go_roundw
            case rel => exact ⟨k + 1, by go_num, by omega, by omega, HJ2, HW2⟩
            case measure => simp [intOf]; omega
    obtain ⟨m, rfl⟩ : ∃ m, M = m + 1 := ⟨M - 1, by omega⟩
    have hml : m < rs.length := by rw [← HM.out]; omega
    obtain ⟨g, rfl, _⟩ := (HRr.out ⟨y3, Below.refl _ _⟩).at HM.out hml
    obtain ⟨ev, hev⟩ : ∃ ev, (rs[m]).r.e = ev := ⟨_, rfl⟩
    have xl : ∀ P : Past y3, P.world.cell? ⟨g, m * 6, none⟩ = some (.int .i64 ev) := fun P => by
      obtain ⟨g2, q1, q2, _⟩ := (HRr.out P).at HM.out hml
      injection q1 with q1
      injection q1 with q1 _ _
      subst q1
      rw [← hev]
      exact q2
    have HLt : Hid ((scanR X).getLast? = some (rs[m]).r) := by
      show _ = _
      rw [List.getLast?_eq_getElem?, HMs.out, ← HLm.out, List.getElem?_map, show m + 1 - 1 = m by omega, List.getElem?_eq_getElem hml]
      rfl
    have hjw : IntKind.i64.wrap (((m + 1 : Nat) : Int) - 1) = (m : Int) := by rw [IntWalk.i64_in _ (by omega)]; omega
    have hmw : IntKind.i64.wrap (m : Int) = (m : Int) := IntWalk.i64_in _ (by omega)
    have hm2 : (m : Int) < (m : Int) + 1 := by omega
    have hm0 : (0 : Int) ≤ (m : Int) := by omega
    have hm1 : (m : Int) < ((m + 1 : Nat) : Int) := by omega
    have hmp : (0 : Int) < ((m + 1 : Nat) : Int) := by omega
    by_cases hgt : ep < ev
    · have HF : Hid (¬ SOk X Y ep ((m + 1 : Nat) : Int) (l.map UE.u)) := fun h => by
        have q := h.2.2.2.2.1 _ HLt.out
        omega
      have hgd : decide (ep < ev) = true := decide_eq_true hgt
      clear hM0
      refine wp_region_pastO (by kernel_rfl) (by kernel_rfl) fun ops HO => ?_
      iterate 3 (quiet_step ((first | (go_at_call 67; with_reducible exact calls_past (HSm.out _)) | fail)))
      iterate 5 (refine quiet_do (by rw [HO.out]; kernel_rfl) (fun K hK => ?_); go_simp; first | (refine hK _ ?_; clear hK K) | (apply Exists.intro; refine ⟨fun _ => ?_, hK _ ?_⟩; (first | (go_at_call 67; with_reducible exact calls_past (HSm.out _)) | fail); clear hK K))
      iterate 2 (quiet_step ((first | (go_at_call 67; with_reducible exact calls_past (HSm.out _)) | fail)))
      iterate 5 (refine quiet_do (by rw [HO.out]; kernel_rfl) (fun K hK => ?_); go_simp; first | (refine hK _ ?_; clear hK K) | (apply Exists.intro; refine ⟨fun _ => ?_, hK _ ?_⟩; (first | (go_at_call 67; with_reducible exact calls_past (HSm.out _)) | fail); clear hK K))
      iterate 2 (quiet_step ((first | (go_at_call 67; with_reducible exact calls_past (HSm.out _)) | fail)))
      iterate 4 (refine quiet_do (by rw [HO.out]; kernel_rfl) (fun K hK => ?_); go_simp; first | (refine hK _ ?_; clear hK K) | (apply Exists.intro; refine ⟨fun _ => ?_, hK _ ?_⟩; (first | (go_at_call 67; with_reducible exact calls_past (HSm.out _)) | fail); clear hK K))
      iterate 10 (refine quiet_do (by rw [HO.out]; kernel_rfl) (fun K hK => ?_); go_simp; first | (refine hK _ ?_; clear hK K) | (apply Exists.intro; refine ⟨fun _ => ?_, hK _ ?_⟩; (first | (go_at_call 67; with_reducible exact calls_past (HSm.out _)) | fail); clear hK K))
      iterate 1 (refine quiet_do (by rw [HO.out]; kernel_rfl) (fun K hK => ?_); go_simp; first | (refine hK _ ?_; clear hK K) | (apply Exists.intro; refine ⟨fun _ => ?_, hK _ ?_⟩; (first | (go_at_call 67; with_reducible exact calls_past (HSm.out _)) | fail); clear hK K))
      iterate 1 (quiet_step ((first | (go_at_call 67; with_reducible exact calls_past (HSm.out _)) | fail)))
      refine wpQuiet_nil ?_
      rintro _ ⟨z, rfl⟩
      have HBz : Hid (Below w.heap.size w z.world) := (HX.out _ (HB3.out.trans (z.below.mono HB3.out.size))).2.2.2.2
      go_wp2_with fail
      go_ret
      first | exact ⟨⟨false, rfl, no_store HF.out⟩, HBz.out⟩ | exact ⟨.inl ⟨rfl, fun q => HF.out (by simpa using q)⟩, HBz.out⟩ | exact ⟨.inr ⟨rfl, fun q => HF.out (by simpa using q)⟩, HBz.out⟩
    have hgd : decide (ep < ev) = false := decide_eq_false hgt
    have HLa : Hid (∀ r, (scanR X).getLast? = some r → r.e ≤ ep) := fun r q => by
      rw [HLt.out] at q
      injection q with q
      subst q
      omega
    clear hM0 hgt
    refine wp_region_pastO (by kernel_rfl) (by kernel_rfl) fun ops HO => ?_
    iterate 3 (quiet_step ((first | (go_at_call 67; with_reducible exact calls_past (HSm.out _)) | fail)))
    iterate 5 (refine quiet_do (by rw [HO.out]; kernel_rfl) (fun K hK => ?_); go_simp; first | (refine hK _ ?_; clear hK K) | (apply Exists.intro; refine ⟨fun _ => ?_, hK _ ?_⟩; (first | (go_at_call 67; with_reducible exact calls_past (HSm.out _)) | fail); clear hK K))
    iterate 2 (quiet_step ((first | (go_at_call 67; with_reducible exact calls_past (HSm.out _)) | fail)))
    iterate 5 (refine quiet_do (by rw [HO.out]; kernel_rfl) (fun K hK => ?_); go_simp; first | (refine hK _ ?_; clear hK K) | (apply Exists.intro; refine ⟨fun _ => ?_, hK _ ?_⟩; (first | (go_at_call 67; with_reducible exact calls_past (HSm.out _)) | fail); clear hK K))
    iterate 2 (quiet_step ((first | (go_at_call 67; with_reducible exact calls_past (HSm.out _)) | fail)))
    iterate 4 (refine quiet_do (by rw [HO.out]; kernel_rfl) (fun K hK => ?_); go_simp; first | (refine hK _ ?_; clear hK K) | (apply Exists.intro; refine ⟨fun _ => ?_, hK _ ?_⟩; (first | (go_at_call 67; with_reducible exact calls_past (HSm.out _)) | fail); clear hK K))
    iterate 10 (refine quiet_do (by rw [HO.out]; kernel_rfl) (fun K hK => ?_); go_simp; first | (refine hK _ ?_; clear hK K) | (apply Exists.intro; refine ⟨fun _ => ?_, hK _ ?_⟩; (first | (go_at_call 67; with_reducible exact calls_past (HSm.out _)) | fail); clear hK K))
    iterate 1 (refine quiet_do (by rw [HO.out]; kernel_rfl) (fun K hK => ?_); go_simp; first | (refine hK _ ?_; clear hK K) | (apply Exists.intro; refine ⟨fun _ => ?_, hK _ ?_⟩; (first | (go_at_call 67; with_reducible exact calls_past (HSm.out _)) | fail); clear hK K))
    iterate 1 (quiet_step ((first | (go_at_call 67; with_reducible exact calls_past (HSm.out _)) | fail)))
    refine wpQuiet_nil ?_
    rintro _ ⟨z, rfl⟩
    have HBz : Hid (Below w0.heap.size w0 z.world) := HB3.out.trans (z.below.mono HB3.out.size)
    obtain ⟨c0, c1, c2, c3, c4⟩ := (show _ ∧ _ ∧ _ ∧ _ ∧ _ from ⟨(HX.out _ HBz.out).1.cell 0 rfl, (HX.out _ HBz.out).1.cell 1 rfl, (HX.out _ HBz.out).1.cell 2 rfl, (HX.out _ HBz.out).1.cell 3 rfl, (HX.out _ HBz.out).1.cell 4 rfl⟩)
    have hMn2 : (m + 1) ≤ n := by
      have h1 := scanFrom_ok X 0 0
      have h2 := (HX.out _ HBz.out).2.1.1
      have h4 : (scanR X).length = (scanFrom 0 0 X).length := rfl
      have h5 := HMs.out
      omega
    clear x2 x3 x4 HSm HR3 HRr xl
    go_wp2_with fail
    clear c0 c1 c2 c3 c4
    go_loopw [6] (fun v wr => ∃ k : Nat, v = .int .i64 (k : Int) ∧ (m + 1) ≤ k ∧ k ≤ n ∧ Hid (∀ (j : Nat) (x : ByteArray) (r : R), (m + 1) ≤ j → j < k → X[j]? = some x → recOf x = some r → r.e < ep) ∧ Hid (Below w0.heap.size w0 wr)) (fun v _ => n - (intOf v).toNat)
    case atStart => exact ⟨(m + 1), by first | rfl | go_num, Nat.le_refl _, hMn2, (fun j x r q1 q2 => absurd q2 (by omega)), HBz⟩
    case round =>
      obtain ⟨k, rfl, hMk, hkn, HJ, HW⟩ := hrel
      obtain ⟨c0, c1, c2, c3, c4⟩ := (show _ ∧ _ ∧ _ ∧ _ ∧ _ from ⟨(HX.out _ HW.out).1.cell 0 rfl, (HX.out _ HW.out).1.cell 1 rfl, (HX.out _ HW.out).1.cell 2 rfl, (HX.out _ HW.out).1.cell 3 rfl, (HX.out _ HW.out).1.cell 4 rfl⟩)
      by_cases hlt : k < n
      case neg =>
        obtain rfl : k = n := by omega
        have HF : Hid (SOk X Y ep (((m + 1) : Nat) : Int) (l.map UE.u)) := ⟨HOk.out, HEp.out, HFl.out, by rw [HMs.out], HLa.out, fun j x r q1 q2 q3 => HJ.out j x r (by rw [HMs.out] at q1; exact q1) (by have q4 := (List.getElem?_eq_some_iff.1 q2).1; have q5 := (HX.out _ HW.out).2.1.1; omega) q2 q3⟩
        have HBw : Hid (Below w.heap.size w wr) := (HX.out _ HW.out).2.2.2.2
        go_wp2_with fail
        go_ret
        exact ⟨⟨true, rfl, ⟨fun _ => HF.out, fun _ => rfl⟩⟩, HBw.out⟩
      have HBw : Hid (∀ W, Below wr.heap.size wr W → Below w.heap.size w W ∧ Below w0.heap.size w0 W) := fun W hb => ⟨(HX.out _ (HW.out.trans (hb.mono HW.out.size))).2.2.2.2, HW.out.trans (hb.mono HW.out.size)⟩
      obtain ⟨p, po, x, hpe, _, hkx, hp⟩ := (HX.out _ HW.out).2.1.at hlt
      rw [hpe] at c0
      have HK : Hid (X[k]? = some x) := hkx
      have hxz : x.size ≤ 1048576 := HZ.out x (List.mem_of_getElem? hkx)
      have hki : (k : Int) < (n : Int) := by omega
      have hk0 : (0 : Int) ≤ (k : Int) := by omega
      clear hkx hpe
      go_wp2_with fail
      refine (specGetR_any x wr (by omega)).mono ?_
      rintro _ v1 ⟨⟨v, rfl, hgot⟩, hb1⟩
      rcases hgot with ⟨hr, rfl⟩ | ⟨r, Ag, Cg, hr, rfl, _⟩
      · have HW2 : Hid (Below w0.heap.size w0 (v1.alloc (.cells #[.int .i64 0, .int .i64 0, .int .i64 0, .string ⟨#[]⟩, .int .i64 0, .slice none 0 0] 43))) := (HBw.out _ hb1).2.alloc (HBw.out _ hb1).2.size _
        have HJ2 : Hid (∀ (j : Nat) (x : ByteArray) (r : R), (m + 1) ≤ j → j < k + 1 → X[j]? = some x → recOf x = some r → r.e < ep) := fun j y r q1 q2 q3 q4 => by
          by_cases hj : j = k
          · subst hj
            rw [HK.out] at q3
            injection q3 with q3
            subst q3
            rw [hr] at q4
            cases q4
          · exact HJ.out j y r q1 (by omega) q3 q4
        clear hr hb1 HJ HBw c0 c1 c2 c3 c4
        go_wp2_with fail
        go_roundw
        case rel => exact ⟨k + 1, by go_num, by omega, by omega, HJ2, HW2⟩
        case measure => simp [intOf]; omega
      · have hbA := hb1.trans (((Below.refl v1.heap.size v1).alloc (Nat.le_refl _) (.cells #[.int .i64 r.e, .int .i64 r.q, .int .i64 r.k, .string r.id, .int .i64 r.n, .slice Ag r.zs.length Cg] 43)).mono hb1.size)
        have HW2 : Hid (Below w0.heap.size w0 (v1.alloc (.cells #[.int .i64 r.e, .int .i64 r.q, .int .i64 r.k, .string r.id, .int .i64 r.n, .slice Ag r.zs.length Cg] 43))) := (HBw.out _ hbA).2
        have HBf : Hid (Below w.heap.size w (v1.alloc (.cells #[.int .i64 r.e, .int .i64 r.q, .int .i64 r.k, .string r.id, .int .i64 r.n, .slice Ag r.zs.length Cg] 43))) := (HBw.out _ hbA).1
        have d2 := (HX.out _ HW2.out).1.cell 2 rfl
        have HRr : Hid (recOf x = some r) := hr
        clear hr hb1 hbA HBw c0 c1 c2 c3 c4 hp
        by_cases hge : ep ≤ r.e
        · have HF : Hid (¬ SOk X Y ep (((m + 1) : Nat) : Int) (l.map UE.u)) := fun h => by
            have q := h.2.2.2.2.2 k x r (by rw [HMs.out]; exact hMk) HK.out HRr.out
            omega
          go_wp2_with fail
          go_ret
          exact ⟨⟨false, rfl, no_store HF.out⟩, HBf.out⟩
        · have hgd : decide (ep ≤ r.e) = false := decide_eq_false hge
          have HJ2 : Hid (∀ (j : Nat) (x : ByteArray) (r : R), (m + 1) ≤ j → j < k + 1 → X[j]? = some x → recOf x = some r → r.e < ep) := fun j y r' q1 q2 q3 q4 => by
            by_cases hj : j = k
            · subst hj
              rw [HK.out] at q3
              injection q3 with q3
              subst q3
              rw [HRr.out] at q4
              injection q4 with q4
              subst q4
              omega
            · exact HJ.out j y r' q1 (by omega) q3 q4
          clear HJ
          go_wp2_with fail
          go_roundw
          case rel => exact ⟨k + 1, by go_num, by omega, by omega, HJ2, HW2⟩
          case measure => simp [intOf]; omega

end Go.Proofs.YtogopmngbjkcjafDoor

namespace Go.Proofs.YtogopmngbjkcjafDoor
open Go.RowKit
set_option linter.unusedVariables false

section
variable {P : Program} {ops : Array Oper} {md : Region.Mode} {C : World → Prop}

/-- Each operation from the m-th to the n-th is waited for by a later one of these, or by the n-th. -/
def sinkFrom (md : Region.Mode) (ops : Array Oper) (m n : Nat) : Bool :=
  (List.range n).all fun i => decide (i < m) || (List.range (n + 1)).any fun j => decide (i < j) && Region.waitsFor md ops j i

theorem tail_waitsF {m n : Nat} {listed : Array Bool} (hs : sinkFrom md ops m n = true) (hc : Region.chainB md ops n = true) (hn : n < ops.size) (inv : HeadInv md ops n listed) :
    ∀ (d i : Nat), n - i = d → m ≤ i → i < n → listed.getD i true = false → ∀ t, n ≤ t → t ∉ Region.ready md ops listed := by
  intro d
  induction d using Nat.strongRecOn with
  | _ d ih =>
    intro i hd hmi hi hun t ht hr
    obtain ⟨_, ot, hot, hall⟩ := mem_ready.1 hr
    have htlt : t < ops.size := (Array.getElem?_eq_some_iff.1 hot).1
    by_cases htn : t = n
    · subst htn
      have h1 := List.all_eq_true.1 hs i (List.mem_range.2 hi)
      rw [decide_eq_false (by omega), Bool.false_or] at h1
      obtain ⟨j, hj, hj2⟩ := List.any_eq_true.1 h1
      simp only [Bool.and_eq_true, decide_eq_true_eq] at hj2
      obtain ⟨oj, hoj, e, he, hb, hon⟩ := Region.waitsFor_spec hj2.2
      have hjle : j ≤ t := by have := List.mem_range.1 hj; omega
      by_cases hjt : j = t
      · subst hjt
        have : oj = ot := Option.some.inj (hoj.symm.trans hot)
        subst this
        have h2 := hall e he hb
        rw [hon, getD_both hun] at h2
        cases h2
      · cases hl : listed.getD j false with
        | true =>
          have h2 := inv.closed j oj hoj hl e he hb
          rw [hon, getD_both hun] at h2
          cases h2
        | false =>
          have hjs : j < listed.size := by rw [inv.size]; omega
          exact ih (t - j) (by omega) j rfl (by omega) (by omega) (getD_in hjs hl) t (Nat.le_refl _) hr
    · have h1 := List.all_eq_true.1 hc t (List.mem_range.2 htlt)
      simp only [Bool.or_eq_true, decide_eq_true_eq] at h1
      rcases h1 with h1 | h1
      · omega
      · obtain ⟨o', ho', e, he, hb, hon⟩ := Region.waitsFor_spec h1
        have : o' = ot := Option.some.inj (ho'.symm.trans hot)
        subst this
        have h2 := hall e he hb
        rw [hon, getD_both (inv.tail (t - 1) (by omega) (by omega))] at h2
        cases h2

/-- Whatever order is picked of the operations ahead of the n-th. -/
def wpHeadQ (P : Program) (md : Region.Mode) (ops : Array Oper) (C : World → Prop) (n : Nat) (L : Array Bool → Act → Prop) : Nat → Array Bool → Act → Prop
  | 0, listed, a => L listed a
  | f + 1, listed, a => Region.ready md ops listed ≠ [] ∧ ∀ i ∈ Region.ready md ops listed, i < n ∧ qOp P ops C i (wpHeadQ P md ops C n L f (listed.setIfInBounds i true)) a

theorem wpAny_of_headQ {n g : Nat} {L : Array Bool → Act → Prop} {Q' : Exit → Act → World → Prop} (hL : ∀ listed a w, C w → L listed a → wpAny P md ops Q' g listed a w) :
    ∀ (f : Nat) (listed : Array Bool) (a : Act) (w : World), C w → wpHeadQ P md ops C n L f listed a → wpAny P md ops Q' (f + g) listed a w
  | 0, listed, a, w, hC, h => by rw [Nat.zero_add]; exact hL _ _ _ hC h
  | f + 1, listed, a, w, hC, h => by
    rw [show f + 1 + g = (f + g) + 1 by omega]
    exact ⟨fun h0 => absurd h0 h.1, fun i hi => wpOp_of_qOp hC (fun a' w' hC' h' => wpAny_of_headQ hL f _ a' w' hC' h') (h.2 i hi).2⟩

theorem wpHeadQ_first {m n i : Nat} {oi : Oper} {v : Value} {L : Array Bool → Act → Prop} (hi : ops[i]? = some oi) (hsel : ∀ (j : Nat) (o : Oper) cs b, ops[j]? = some o → o.op ≠ .select cs b)
    (hs : sinkFrom md ops m n = true) (hc : Region.chainB md ops n = true) (hn : n < ops.size) (him : m ≤ i) (hin : i < n)
    (hdone : ∀ listed a, L listed a → ∀ j ∈ Region.ready md ops listed, n ≤ j) :
    ∀ (f : Nat) (listed : Array Bool) (a : Act), HeadInv md ops n listed →
      (∀ j oj, ops[j]? = some oj → j ≠ i → listed.getD j true = false → (∀ e ∈ oj.after, Region.binds md e = true → e.on ≠ i) → oi.apart ops oj = true) →
      i ∈ Region.ready md ops listed → YieldsIn P ops C oi v a →
      wpHeadQ P md ops C n L f (listed.setIfInBounds i true) (a.put oi.dst v) → wpHeadQ P md ops C n L (f + 1) listed a := by
  intro f
  induction f with
  | zero =>
    intro listed a inv _ hr hy H
    have hun := (mem_ready.1 hr).1
    refine ⟨fun h => (by rw [h] at hr; cases hr), fun j hj => ?_⟩
    have hjn : j < n := by
      rcases Nat.lt_or_ge j n with h | h
      · exact h
      · exact absurd hj (tail_waitsF hs hc hn inv _ i rfl him hin hun j h)
    refine ⟨hjn, ?_⟩
    by_cases hji : j = i
    · subst hji; exact hy.qOp hi H
    · have := hdone _ _ H j (ready_mono hj hji)
      omega
  | succ f ih =>
    intro listed a inv hfree hr hy H
    have hun := (mem_ready.1 hr).1
    refine ⟨fun h => (by rw [h] at hr; cases hr), fun j hj => ?_⟩
    have hjn : j < n := by
      rcases Nat.lt_or_ge j n with h | h
      · exact h
      · exact absurd hj (tail_waitsF hs hc hn inv _ i rfl him hin hun j h)
    refine ⟨hjn, ?_⟩
    by_cases hji : j = i
    · subst hji; exact hy.qOp hi H
    · have h1 := (H.2 j (ready_mono hj hji)).2
      obtain ⟨hjun, oj, hoj, hall⟩ := mem_ready.1 hj
      have hnot : ∀ e ∈ oj.after, Region.binds md e = true → e.on ≠ i := fun e he hb heq => by
        have h1 := hall e he hb
        rw [heq, getD_both hun] at h1
        cases h1
      have h2 := qOp_put hoj (hfree j oj hoj hji hjun hnot) (fun cs b => hsel i oi cs b hi) (fun cs b => hsel j oj cs b hoj) hy h1
      have hfree' : ∀ k ok, ops[k]? = some ok → k ≠ i → (listed.setIfInBounds j true).getD k true = false →
          (∀ e ∈ ok.after, Region.binds md e = true → e.on ≠ i) → oi.apart ops ok = true := fun k ok hk hki hun hno => by
        refine hfree k ok hk hki ?_ hno
        by_cases hjk : j = k
        · subst hjk; exact hjun
        · rw [getD_set_ne true hjk] at hun; exact hun
      refine qOp_mono (fun a' h3 => ih (listed.setIfInBounds j true) a' (inv.set hj hjn) hfree' (ready_mono hr (Ne.symm hji)) h3.1 ?_) h2
      rw [Array.setIfInBounds_comm _ _ hji]
      exact h3.2

theorem wpHeadQ_lex {m n g : Nat} {Lq : Act → Prop} (hsel : Region.noSelect ops = true) (hs : sinkFrom md ops m n = true) (hc : Region.chainB md ops n = true) (hn : n < ops.size) :
    ∀ (l : List Oper) (k : Nat) (listed : Array Bool) (a : Act), (∀ j, j < l.length → l[j]? = ops[k + j]?) → m ≤ k → k + l.length = n → HeadInv md ops n listed →
    Region.lexHead md ops g l.length k listed = true → wpQuiet P ops C Lq l a →
    wpHeadQ P md ops C n (fun listed' a' => Region.seqB md ops g n listed' = true ∧ Lq a') l.length listed a
  | [], k, listed, a, _, _, hk, _, hB, h => by
    have : k = n := by simpa using hk
    subst this
    exact ⟨by simpa [Region.lexHead] using hB, h⟩
  | o :: l, k, listed, a, hl, hmk, hk, inv, hB, h => by
    have h0 : ops[k]? = some o := by simpa using (hl 0 (by simp)).symm
    simp only [List.length_cons, Region.lexHead, Bool.and_eq_true] at hB
    obtain ⟨⟨hr, hf⟩, hB'⟩ := hB
    have hkn : k < n := by simp only [List.length_cons] at hk; omega
    have hr' : k ∈ Region.ready md ops listed := by simpa using hr
    have hst : qOp P ops C k (wpQuiet P ops C Lq l) a := by unfold qOp; simp only [h0]; exact h
    obtain ⟨v, hy, hK⟩ := yieldsIn_of_qOp h0 hst
    exact wpHeadQ_first h0 (Region.noSelect_spec hsel) hs hc hn hmk hkn (fun listed' a' hL => seqB_ready hL.1) l.length listed a inv (Region.free_spec h0 hf) hr' hy
      (wpHeadQ_lex hsel hs hc hn l (k + 1) _ _ (fun j hj => by have := hl (j + 1) (by simp; omega); simpa [Nat.add_assoc, Nat.add_comm 1 j] using this) (by omega) (by simp only [List.length_cons] at hk; omega) (inv.set hr' hkn) hB' hK)

/-- The bounds of a region whose first m operations are taken ahead, whose head is quiet, whose tail comes one by one. -/
def pastB (ops : Array Oper) (m n : Nat) : Bool :=
  Region.noSelect ops && decide (n < ops.size) && decide (m ≤ n) && sinkFrom .any ops m n && Region.chainB .any ops n && Region.lexHead .any ops (ops.size - n) (n - m) m ((List.range m).foldl (fun l i => l.setIfInBounds i true) (Array.replicate ops.size false))

/-- The head is quiet in the class, the tail comes one by one in whatever world of the class. -/
theorem wpAny_quiet_tail {Q : Exit → Act → World → Prop} {a : Act} {w : World} {l : List Oper} (m n : Nat) (listed : Array Bool) (hl : (List.range m).foldl (fun l i => l.setIfInBounds i true) (Array.replicate l.toArray.size false) = listed) (hB : pastB l.toArray m n = true) (inv0 : HeadInv .any l.toArray n listed) (hC : C w)
    (h : wpQuiet P l.toArray C (fun a' => ∀ w', C w' → wpList P l.toArray Q (l.drop n) a' w') ((l.take n).drop m) a) : wpAny P .any l.toArray Q (l.length - m) listed a w := by
  simp only [pastB, Bool.and_eq_true, decide_eq_true_eq] at hB
  obtain ⟨⟨⟨⟨⟨hsel, hn⟩, hmn⟩, hs⟩, hc⟩, hlex⟩ := hB
  rw [hl] at hlex
  have hn' : n < l.length := by simpa using hn
  have htl : ((l.take n).drop m).length = n - m := by simp; omega
  have hdl : (l.drop n).length = l.toArray.size - n := by simp
  have H := wpHeadQ_lex (md := .any) (g := l.toArray.size - n) (C := C) hsel hs hc hn ((l.take n).drop m) m listed a (fun j hj => by
    have hj' : m + j < n := by rw [htl] at hj; omega
    rw [List.getElem?_drop, List.getElem?_take_of_lt hj']
    simp) (Nat.le_refl _) (by rw [htl]; omega) inv0 (by rw [htl]; exact hlex) h
  have := wpAny_of_headQ (Q' := Q) (g := l.toArray.size - n) (fun listed a' w' hC' hL => by
    have := wpAny_of_seq (md := .any) (Q' := Q) (l.drop n) n listed a' w' (fun j => by simp [List.getElem?_drop]) (by rw [hdl]; exact hL.1) (hL.2 w' hC')
    rwa [hdl] at this) _ _ _ _ hC H
  rw [htl, show n - m + (l.toArray.size - n) = l.length - m by simp; omega] at this
  exact this

theorem headInv0 (l : List Oper) (n : Nat) : HeadInv .any l.toArray n (Array.replicate l.toArray.size false) :=
  ⟨by simp, fun j oj _ hl => (by rw [getD_replicate_false] at hl; cases hl), fun t _ ht => getD_in (by simpa using ht) (getD_replicate_false _ _)⟩
end

/-- All in the class of worlds in which all that lay in w is as it was; the region's row hidden behind a name. -/
theorem wp_region_past_tail {P : Program} {id : Nat} {Q : Exit → Act → World → Prop} {a : Act} {w : World} {l : List Oper} (n : Nat) (hm : P.follows .mixedOrders = true) (hB : pastB l.toArray 0 n = true)
    (h : ∀ ops : Array Oper, Hid (ops = l.toArray) → wpQuiet P ops (fun w' => ∃ p : Past w, w' = p.world) (fun a' => ∀ w', (∃ p : Past w, w' = p.world) → wpList P ops Q (l.drop n) a' w') (l.take n) a) : (Code.region id l.toArray true).wp P Q a w := by
  refine wp_region_any hm ?_
  have := wpAny_quiet_tail (C := fun w' => ∃ p : Past w, w' = p.world) (Q := Q) 0 n _ rfl hB (headInv0 l n) ⟨⟨w.drew, (Below.refl _ _).drew⟩, rfl⟩ (by rw [List.drop_zero]; exact h _ rfl)
  simpa using this

/-- The same where the first operation only moves a value, whenever it comes; nothing panics. -/
theorem wp_region_past_tail1 {P : Program} {id : Nat} {Q : Exit → Act → World → Prop} {a : Act} {w : World} {o : Oper} {l : List Oper} (n : Nat) (hm : P.follows .mixedOrders = true) (hB : pastB (o :: l).toArray 1 n = true) (hf : Region.free .any (o :: l).toArray (Array.replicate (o :: l).toArray.size false) 0 = true) (hr : (Region.ready .any (o :: l).toArray (Array.replicate (o :: l).toArray.size false)).contains 0 = true) (ha : o.after = #[]) (hg : o.guard = none) (x : Operand) (ho : o.op = .move x)
    (h : ∀ ops : Array Oper, Hid (ops = (o :: l).toArray) → wpQuiet P ops (fun w' => ∃ p : Past w, w' = p.world) (fun a' => ∀ w', (∃ p : Past w, w' = p.world) → wpList P ops (fun e a w => e = .normal ∧ Q .normal a w) ((o :: l).drop n) a' w') (((o :: l).take n).drop 1) (a.put o.dst (a.eval x))) : (Code.region id (o :: l).toArray true).wp P Q a w := by
  have hsel : Region.noSelect (o :: l).toArray = true := by
    simp only [pastB, Bool.and_eq_true] at hB
    exact hB.1.1.1.1.1
  have hn : 1 ≤ n ∧ n < (o :: l).length := by
    simp only [pastB, Bool.and_eq_true, decide_eq_true_eq] at hB
    exact ⟨hB.1.1.1.2, by simpa using hB.1.1.1.1.2⟩
  have hy : Yields P (o :: l).toArray o (a.eval x) a := .inl ⟨by simp [Region.wanted, hg], fun w => by simp [execOp, ho]⟩
  have inv1 : HeadInv .any (o :: l).toArray n ((Array.replicate (o :: l).toArray.size false).setIfInBounds 0 true) := by
    refine ⟨by simp, fun j oj hj hl e he hb => ?_, fun t ht ht' => ?_⟩
    · by_cases hj0 : 0 = j
      · subst hj0
        obtain rfl : o = oj := by simpa using hj
        rw [ha] at he
        simp at he
      · rw [getD_set_ne false hj0, getD_replicate_false] at hl
        cases hl
    · rw [getD_set_ne true (by omega)]
      exact getD_in (by simpa using ht') (getD_replicate_false _ _)
  have H := wpAny_quiet_tail (C := fun w' => ∃ p : Past w, w' = p.world) (Q := fun e a w => e = .normal ∧ Q .normal a w) 1 n _ rfl hB inv1 ⟨⟨w.drew, (Below.refl _ _).drew⟩, rfl⟩ (h _ rfl)
  have H2 : wpAny P .any (o :: l).toArray (fun e a w => e = .normal ∧ Q .normal a w) (o :: l).toArray.size (Array.replicate (o :: l).toArray.size false) a { w with drawn := w.drawn + 1 } :=
    wpAny_take (fuel := l.length) (v := a.eval x) (by simp) hsel hf hr (fun c a w h => by cases h.1) hy (by simpa using H)
  exact Code.wp_mono (fun e a w h => by obtain ⟨rfl, h⟩ := h; exact h) (wp_region_any hm H2)

end Go.Proofs.YtogopmngbjkcjafDoor

namespace Go.Proofs.YtogopmngbjkcjafDoor
open Go.RowKit
set_option linter.unusedVariables false

set_option maxRecDepth 10000 in
set_option maxHeartbeats 3200000 in
theorem specWrite_any (lo b : Nat) (a : Option Addr) (ca : Nat) (X : List ByteArray) (a' : Option Addr) (n' ca' : Nat) (Y : List ByteArray) (E M : Nat) (ua : Option Addr) (un uc : Nat) (l : List UE) (e0 q0 : Int) (k : Nat) (id : ByteArray) (rn : Nat) (A : Option Addr) (d C : Nat) (zs : List Int) (us' : List U) (w : World)
    (hq : BoxN w b 37 [.slice a X.length ca, .slice a' n' ca', .int .i64 (E : Int), .int .i64 (M : Int), .slice ua un uc]) (hst : StoAt w lo a X.length ca X a' n' ca' Y ua un uc l) (hlb : lo ≤ b) (ba : Nat) (hsg : Owns w ba A d C zs) (hM : M < X.length) (hXl : X.length ≤ 2097152) (hul : un ≤ 100000) (hz : ∀ e ∈ l, e.n ≤ 1099511627776)
    (hi : id.size ≤ 255) (hd : d ≤ 255) (hE : E ≤ 1000000) (hk : k ≤ 4) (hrn : rn ≤ 1000000000) (ho : oneU (l.map UE.u) ⟨E, M, k, id, rn, zs⟩ = some us') :
    Calls Tryd.prog 58 #[.pointer (some ⟨b, 0, none⟩), .agg #[.int .i64 e0, .int .i64 q0, .int .i64 (k : Int), .string id, .int .i64 (rn : Int), .slice A d C]] w fun e w' =>
      e = .returned (.tuple #[]) ∧ (∃ ua' un' uc' l', BoxN w' b 37 [.slice a X.length ca, .slice a' n' ca', .int .i64 (E : Int), .int .i64 ((M : Int) + 1), .slice ua' un' uc'] ∧ StoAt w' lo a X.length ca (X.set M (txU (sumB (recB E M k id rn zs)))) a' n' ca' Y ua' un' uc' l' ∧ l'.map UE.u = us') ∧ Below lo w w' := by
  have hlw : lo ≤ w.heap.size := Nat.le_of_lt (Nat.lt_of_le_of_lt hlb hq.lt)
  have hbw : b < w.heap.size := hq.lt
  have hne : b ≠ w.heap.size := by omega
  obtain ⟨g, rfl⟩ := texts_at hst.now (by omega)
  obtain ⟨w0, hw0⟩ : ∃ w0, w.alloc (.cells #[.int .i64 e0, .int .i64 q0, .int .i64 (k : Int), .string id, .int .i64 (rn : Int), .slice A d C] 43) = w0 := ⟨_, rfl⟩
  have HE0 : Hid (w.alloc (.cells #[.int .i64 e0, .int .i64 q0, .int .i64 (k : Int), .string id, .int .i64 (rn : Int), .slice A d C] 43) = w0) := hw0
  have hb0 : Below w.heap.size w w0 := by rw [← hw0]; exact (Below.refl _ _).alloc (Nat.le_refl _) _
  have hp0 : BoxN w0 w.heap.size 43 [.int .i64 e0, .int .i64 q0, .int .i64 (k : Int), .string id, .int .i64 (rn : Int), .slice A d C] := by rw [← hw0]; exact BoxN.new _ _ _
  have hq0 := hq.stays hb0
  have hs0 := hst.stays hb0
  clear hw0
  obtain ⟨w2, hw2⟩ : ∃ w2, (w0.setCell ⟨w.heap.size, 0, none⟩ (.int .i64 (E : Int))).setCell ⟨w.heap.size, 1, none⟩ (.int .i64 (M : Int)) = w2 := ⟨_, rfl⟩
  have HE2 : Hid ((w0.setCell ⟨w.heap.size, 0, none⟩ (.int .i64 (E : Int))).setCell ⟨w.heap.size, 1, none⟩ (.int .i64 (M : Int)) = w2) := hw2
  have HP2 : Hid (BoxN w2 w.heap.size 43 [.int .i64 (E : Int), .int .i64 (M : Int), .int .i64 (k : Int), .string id, .int .i64 (rn : Int), .slice A d C]) := by show BoxN _ _ _ _; rw [← hw2]; exact (hp0.set 0 _).set 1 _
  have HQ2 : Hid (BoxN w2 b 37 [.slice (some ⟨g, 0, none⟩) X.length ca, .slice a' n' ca', .int .i64 (E : Int), .int .i64 (M : Int), .slice ua un uc]) := by show BoxN _ _ _ _; rw [← hw2]; exact (hq0.other hne _).other hne _
  have HS2 : Hid (StoAt w2 lo (some ⟨g, 0, none⟩) X.length ca X a' n' ca' Y ua un uc l) := by
    show StoAt _ _ _ _ _ _ _ _ _ _ _ _ _ _
    rw [← hw2]
    exact (hs0.setBox (i := 0) hp0 _).setBox (i := 1) (hp0.set 0 _) _
  have HB2 : Hid (Below w.heap.size w w2) := by show Below _ _ _; rw [← hw2]; exact (hb0.setCell (Nat.le_refl _) _).setCell (Nat.le_refl _) _
  have HG2 : Hid (Owns w2 ba A d C zs) := hsg.below HB2.out
  have c2 := hq0.cell 2 rfl
  have c3 := (hq0.other (b' := w.heap.size) (k := 0) hne (.int .i64 (E : Int))).cell 3 rfl
  have p0 := hp0.cell 0 rfl
  have p1 := (hp0.set 0 (.int .i64 (E : Int))).cell 1 rfl
  have z0 := hp0.frozen 0
  have z1 := (hp0.set 0 (.int .i64 (E : Int))).frozen 1
  have HL : Hid (un = l.length ∧ (∀ e ∈ l, e.n ≤ 1099511627776) ∧ oneU (l.map UE.u) ⟨E, M, k, id, rn, zs⟩ = some us') := ⟨hst.len, hz, ho⟩
  clear hq hst hsg hb0 hp0 hq0 hs0 hz ho hw2
  go_enter Tryd.func58, Tryd.ntmps58
  go_upto_region 1 with fail
  rw [HE0.out]
  clear HE0
  go_upto_region 3 with fail
  rw [HE2.out]
  clear HE2 c2 c3 p0 p1 z0 z1
  have hbw2 : b < w2.heap.size := HQ2.out.lt
  have hpw2 : w.heap.size < w2.heap.size := HP2.out.lt
  have HT : Hid (∀ P : Past w2, Calls Tryd.prog 47 #[.agg #[.int .i64 (E : Int), .int .i64 (M : Int), .int .i64 (k : Int), .string id, .int .i64 (rn : Int), .slice A d C]] P.world fun e w' => e = .returned (.string (txU (sumB (recB E M k id rn zs)))) ∧ Below P.world.heap.size P.world w') := fun P => specPut13_any E M k id rn A d C zs P.world (HG2.out.below P.below).seg hi hd (by omega) (by omega) (by omega) hrn
  obtain ⟨tx, htx⟩ : ∃ tx, txU (sumB (recB E M k id rn zs)) = tx := ⟨_, rfl⟩
  have HTx : Hid (txU (sumB (recB E M k id rn zs)) = tx) := htx
  rw [htx] at HT
  have htxs : tx.size ≤ maxLen := by
    rw [← htx, txU_size, sumB, List.length_append, pbl_len, recB_len, HG2.out.seg.1]
    unfold maxLen
    omega
  clear htx
  have y0 : ∀ P : Past w2, P.world.cell? ⟨b, 0, none⟩ = some (.slice (some ⟨g, 0, none⟩) X.length ca) := fun P => P.cell hbw2 (HQ2.out.cell 0 rfl)
  have y3 : ∀ P : Past w2, P.world.cell? ⟨b, 3, none⟩ = some (.int .i64 (M : Int)) := fun P => P.cell hbw2 (HQ2.out.cell 3 rfl)
  have r0 : ∀ P : Past w2, P.world.cell? ⟨w.heap.size, 0, none⟩ = some (.int .i64 (E : Int)) := fun P => P.cell hpw2 (HP2.out.cell 0 rfl)
  have r1 : ∀ P : Past w2, P.world.cell? ⟨w.heap.size, 1, none⟩ = some (.int .i64 (M : Int)) := fun P => P.cell hpw2 (HP2.out.cell 1 rfl)
  have r2 : ∀ P : Past w2, P.world.cell? ⟨w.heap.size, 2, none⟩ = some (.int .i64 (k : Int)) := fun P => P.cell hpw2 (HP2.out.cell 2 rfl)
  have r3 : ∀ P : Past w2, P.world.cell? ⟨w.heap.size, 3, none⟩ = some (.string id) := fun P => P.cell hpw2 (HP2.out.cell 3 rfl)
  have r4 : ∀ P : Past w2, P.world.cell? ⟨w.heap.size, 4, none⟩ = some (.int .i64 (rn : Int)) := fun P => P.cell hpw2 (HP2.out.cell 4 rfl)
  have r5 : ∀ P : Past w2, P.world.cell? ⟨w.heap.size, 5, none⟩ = some (.slice A d C) := fun P => P.cell hpw2 (HP2.out.cell 5 rfl)
  have hps := past_some w2
  refine wp_region_past_tail 11 (by kernel_rfl) (by kernel_rfl) (fun ops HO => ?_)
  simp only [List.take_succ_cons, List.take_zero, List.drop_succ_cons, List.drop_zero]
  iterate 11 (quiet_step ((first | (go_at_call 47; with_reducible exact calls_past (HT.out _)) | fail)))
  refine wpQuiet_nil ?_
  rintro _ ⟨z, rfl⟩
  have HB3 : Hid (Below w2.heap.size w2 z.world) := z.below
  obtain ⟨w3, hw3⟩ : ∃ w3, z.world = w3 := ⟨_, rfl⟩
  rw [hw3] at HB3 ⊢
  clear hw3 z hps y0 y3 r0 r1 r2 r3 r4 r5 HT
  have HS3 : Hid (StoAt w3 lo (some ⟨g, 0, none⟩) X.length ca X a' n' ca' Y ua un uc l) := HS2.out.stays HB3.out
  have HQ3 : Hid (BoxN w3 b 37 [.slice (some ⟨g, 0, none⟩) X.length ca, .slice a' n' ca', .int .i64 (E : Int), .int .i64 (M : Int), .slice ua un uc]) := HQ2.out.stays HB3.out
  have HP3 : Hid (BoxN w3 w.heap.size 43 [.int .i64 (E : Int), .int .i64 (M : Int), .int .i64 (k : Int), .string id, .int .i64 (rn : Int), .slice A d C]) := HP2.out.stays HB3.out
  have HG3 : Hid (Owns w3 ba A d C zs) := HG2.out.below HB3.out
  have HW3 : Hid (Below lo w w3) := (HB2.out.mono hlw).trans (HB3.out.mono (Nat.le_trans hlw HB2.out.size))
  have hgb : b ≠ g := fun e => HQ3.out.noRow HS3.out.now.1 (by decide) (by rw [e]; rfl)
  have hgp : w.heap.size ≠ g := fun e => HP3.out.noRow HS3.out.now.1 (by decide) (by rw [e]; rfl)
  have hglo : lo ≤ g := (HS3.out.now.lt g rfl).1
  obtain ⟨x3, _, g3, g4⟩ := texts_cell HS3.out.now hM
  have hMi : (M : Int) < (X.length : Int) := by omega
  have hM0 : (0 : Int) ≤ (M : Int) := by omega
  obtain ⟨w4, hw4⟩ : ∃ w4, w3.setCell ⟨g, M, none⟩ (.string tx) = w4 := ⟨_, rfl⟩
  have HE4 : Hid (w3.setCell ⟨g, M, none⟩ (.string tx) = w4) := hw4
  have HS4 : Hid (StoAt w4 lo (some ⟨g, 0, none⟩) X.length ca (X.set M tx) a' n' ca' Y ua un uc l) := by show StoAt _ _ _ _ _ _ _ _ _ _ _ _ _ _; rw [← hw4]; exact HS3.out.putNow M tx htxs
  have HQ4 : Hid (BoxN w4 b 37 [.slice (some ⟨g, 0, none⟩) X.length ca, .slice a' n' ca', .int .i64 (E : Int), .int .i64 (M : Int), .slice ua un uc]) := by show BoxN _ _ _ _; rw [← hw4]; exact HQ3.out.other hgb _
  have HP4 : Hid (BoxN w4 w.heap.size 43 [.int .i64 (E : Int), .int .i64 (M : Int), .int .i64 (k : Int), .string id, .int .i64 (rn : Int), .slice A d C]) := by show BoxN _ _ _ _; rw [← hw4]; exact HP3.out.other hgp _
  have HG4 : Hid (Owns w4 ba A d C zs) := by
    show Owns _ _ _ _ _ _
    rw [← hw4]
    exact owns_set HG3.out (fun e => rows_apart HG3.out.1 HS3.out.now.1 (by decide) g (by rw [ownBlock_sU]; exact e) rfl)
  have HW4 : Hid (Below lo w w4) := by show Below _ _ _; rw [← hw4]; exact HW3.out.setCell hglo _
  clear hw4 HS2 HQ2 HP2 HG2 HB2 HB3 HS3 HQ3 HP3 HG3 HW3
  go_upto_region 4 with fail
  rw [HE4.out]
  clear HE4 g3 g4
  have c3 := HQ4.out.cell 3 rfl
  have f3 := HQ4.out.frozen 3
  have hM1 : (M : Int) + 1 < 9223372036854775808 := by omega
  obtain ⟨w5, hw5⟩ : ∃ w5, w4.setCell ⟨b, 3, none⟩ (.int .i64 ((M : Int) + 1)) = w5 := ⟨_, rfl⟩
  have HE5 : Hid (w4.setCell ⟨b, 3, none⟩ (.int .i64 ((M : Int) + 1)) = w5) := hw5
  have HS5 : Hid (StoAt w5 lo (some ⟨g, 0, none⟩) X.length ca (X.set M tx) a' n' ca' Y ua un uc l) := by show StoAt _ _ _ _ _ _ _ _ _ _ _ _ _ _; rw [← hw5]; exact HS4.out.setBox HQ4.out _
  have HQ5 : Hid (BoxN w5 b 37 [.slice (some ⟨g, 0, none⟩) X.length ca, .slice a' n' ca', .int .i64 (E : Int), .int .i64 ((M : Int) + 1), .slice ua un uc]) := by show BoxN _ _ _ _; rw [← hw5]; exact HQ4.out.set 3 _
  have HP5 : Hid (BoxN w5 w.heap.size 43 [.int .i64 (E : Int), .int .i64 (M : Int), .int .i64 (k : Int), .string id, .int .i64 (rn : Int), .slice A d C]) := by show BoxN _ _ _ _; rw [← hw5]; exact HP4.out.other (fun e => hne e.symm) _
  have HG5 : Hid (Owns w5 ba A d C zs) := by
    show Owns _ _ _ _ _ _
    rw [← hw5]
    exact owns_set HG4.out (fun e => HQ4.out.noRow HG4.out.1 (by decide) (by rw [ownBlock_sU]; exact e))
  have HW5 : Hid (Below lo w w5) := by show Below _ _ _; rw [← hw5]; exact HW4.out.setCell hlb _
  clear hw5 HS4 HQ4 HP4 HG4 HW4
  go_upto_region 5 with fail
  rw [HE5.out]
  clear HE5 c3 f3
  obtain ⟨p0, p1, p2, p3, p4, p5⟩ := (show _ ∧ _ ∧ _ ∧ _ ∧ _ ∧ _ from ⟨HP5.out.cell 0 rfl, HP5.out.cell 1 rfl, HP5.out.cell 2 rfl, HP5.out.cell 3 rfl, HP5.out.cell 4 rfl, HP5.out.cell 5 rfl⟩)
  have q4 := HQ5.out.cell 4 rfl
  have HBd : Hid (Below w5.heap.size w5 w5.drew) := (Below.refl _ _).drew
  have HC5 : Hid (Calls Tryd.prog 16 #[.slice ua un uc, .agg #[.int .i64 (E : Int), .int .i64 (M : Int), .int .i64 (k : Int), .string id, .int .i64 (rn : Int), .slice A d C]] w5.drew fun e y => ∃ va vc l', e = .returned (.tuple #[.slice va l'.length vc, .bool true]) ∧ UpRow y w5.heap.size (.slice va l'.length vc) l' ∧ l'.map UE.u = us' ∧ Below w5.heap.size w5 y) := by
    refine (specOne_any ua un uc lo l ⟨E, M, k, id, rn, zs⟩ A d C w5.drew (HS5.out.stays HBd.out).ups HL.out.1 hul HL.out.2.1 (HG5.out.below HBd.out).seg (by omega)).mono ?_
    rintro _ y ⟨⟨v, rfl, hv⟩, hb⟩
    rw [HL.out.2.2] at hv
    obtain ⟨x, l', rfl, hu, hm⟩ := hv
    obtain ⟨va, vc, rfl⟩ := hu.shape
    exact ⟨va, vc, l', rfl, hu, hm, HBd.out.trans (hb.mono HBd.out.size)⟩
  clear HBd
  go_region_with (first
    | (go_at_call 16; refine HC5.out.mono ?_; rintro _ y ⟨va, vc, l', rfl, hu6, hm6, hb6⟩
       have hq6 := HQ5.out.stays hb6
       have q4y := hq6.cell 4 rfl
       have f4y := hq6.frozen 4)
    | fail)
  all_goals
    have HF : Hid (BoxN (y.setCell ⟨b, 4, none⟩ (.slice va l'.length vc)) b 37 [.slice (some ⟨g, 0, none⟩) X.length ca, .slice a' n' ca', .int .i64 (E : Int), .int .i64 ((M : Int) + 1), .slice va l'.length vc] ∧ StoAt (y.setCell ⟨b, 4, none⟩ (.slice va l'.length vc)) lo (some ⟨g, 0, none⟩) X.length ca (X.set M tx) a' n' ca' Y va l'.length vc l' ∧ l'.map UE.u = us' ∧ Below lo w (y.setCell ⟨b, 4, none⟩ (.slice va l'.length vc))) := by
      have hlo5 : lo ≤ w5.heap.size := Nat.le_trans hlw HW5.out.size
      refine ⟨hq6.set 4 _, ?_, hm6, (HW5.out.trans (hb6.mono hlo5)).setCell hlb _⟩
      exact ((HS5.out.stays hb6).withUps (hu6.low hlo5) rfl).setBox hq6 _
    clear hq6 q4y f4y hu6 hm6 hb6 p0 p1 p2 p3 p4 p5 q4 HC5 HS5 HQ5 HP5 HG5 HW5
    go_wp2_with fail
    go_end0
    exact ⟨rfl, ⟨va, l'.length, vc, l', HF.out.1, by rw [HTx.out]; exact HF.out.2.1, HF.out.2.2.1⟩, HF.out.2.2.2⟩

end Go.Proofs.YtogopmngbjkcjafDoor
