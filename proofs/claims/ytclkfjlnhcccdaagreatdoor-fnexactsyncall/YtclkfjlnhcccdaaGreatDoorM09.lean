/- Answers that wait, held against themselves. Servers that say the same are the same to the laws. A server of the laws: how great it is. Blocks of one type that stay while those of others are written. No program in it but its table of types. The mark of a number as a text. What the marks do: a row of the call's own is written over with 1, 2, .., and read again; nothing else is written. For rows of at most 2^41 bytes. -/
import Derived.Test.YtclkfjlnhcccdaaGreatDoorM07
import Derived.Test.YtclkfjlnhcccdaaGreatDoorM08
import Derived.Test.YtclkfjlnhcccdaaGreatDoorM04
import Derived.Deep.RegionWith
import Derived.Test.YtclkfjlnhcccdaaGreatDoorM05
import Derived.Test.YtclkfjlnhcccdaaGreatDoorM03
import Derived.Laws.IdiomStrings
import Derived.Laws.BytesArg
import Derived.Deep.QuietTactic
import Derived.BigQuiet
namespace Go.Proofs.YtclkfjlnhcccdaaGreatDoor
open Go.RowKit
set_option linter.unusedVariables false

set_option maxRecDepth 10000 in
set_option maxHeartbeats 800000 in
theorem eqHeld_same (x y z : Int) (w : World) : Calls Tryz.prog 33 #[.agg #[.int .i64 x, .int .i64 y, .int .i64 z], .agg #[.int .i64 x, .int .i64 y, .int .i64 z]] w fun e w' => e = .returned (.bool true) ∧ Below w.heap.size w w' := by
  have hx : (x != x) = false := by simp
  have HB : Hid (Below w.heap.size w ((w.alloc (.cells #[.int .i64 x, .int .i64 y, .int .i64 z] 67)).alloc (.cells #[.int .i64 x, .int .i64 y, .int .i64 z] 67))) := ((Below.refl _ _).alloc (Nat.le_refl _) _).alloc (by simp) _
  go_enter Tryz.func33, Tryz.ntmps33
  go_wp2_with fail
  refine (eqResp_same y z _).mono ?_
  rintro e x3 ⟨rfl, hb3⟩
  have HB3 : Hid (Below w.heap.size w x3) := HB.out.trans (hb3.mono HB.out.size)
  clear hb3
  go_wp2_with fail
  go_ret
  exact ⟨rfl, HB3.out⟩

set_option maxRecDepth 10000 in
set_option maxHeartbeats 800000 in
theorem eqHeldS_same (a b : Option Addr) (len ca cb : Nat) (xs : List Hd) (w : World) (hx : Helds w a len xs) (hy : Helds w b len xs) (hla : len ≤ 1099511627776) :
    Calls Tryz.prog 10 #[.slice a len ca, .slice b len cb] w fun e w' => e = .returned (.bool true) ∧ Below w.heap.size w w' := by
  have HX : Hid (Helds w a len xs) := hx
  have HY : Hid (Helds w b len xs) := hy
  clear hx hy
  have hne : ((len : Int) != (len : Int)) = false := by simp
  go_enter Tryz.func10, Tryz.ntmps10
  go_wp2
  go_loopw [5] (fun i wr => ∃ k : Nat, k ≤ len ∧ i = .int .i64 k ∧ Hid (Below w.heap.size w wr)) (fun i _ => len - (intOf i).toNat)
  case atStart => exact ⟨0, Nat.zero_le _, rfl, Below.refl _ _⟩
  case round =>
    obtain ⟨k, hk, rfl, HW⟩ := hrel
    by_cases hlt : k < len
    · obtain ⟨ba, oa, x, y, z, rfl, hba, hfa, ha0, ha1, ha2, _⟩ := HX.out.at hlt
      obtain ⟨bb, ob, x', y', z', rfl, hbb, hfb, hb0, hb1, hb2, _⟩ := HY.out.at hlt
      obtain ⟨rfl, rfl, rfl⟩ : x = x' ∧ y = y' ∧ z = z' := by rw [hfa] at hfb; simpa using hfb
      have ga0 : wr.cell? ⟨ba, oa + k * 3, none⟩ = some (.int .i64 x) := (HW.out.cell (p := ⟨ba, _, none⟩) hba).trans ha0
      have ga1 : wr.cell? ⟨ba, oa + k * 3 + 1, none⟩ = some (.int .i64 y) := (HW.out.cell (p := ⟨ba, _, none⟩) hba).trans ha1
      have ga2 : wr.cell? ⟨ba, oa + k * 3 + 2, none⟩ = some (.int .i64 z) := (HW.out.cell (p := ⟨ba, _, none⟩) hba).trans ha2
      have gb0 : wr.cell? ⟨bb, ob + k * 3, none⟩ = some (.int .i64 x) := (HW.out.cell (p := ⟨bb, _, none⟩) hbb).trans hb0
      have gb1 : wr.cell? ⟨bb, ob + k * 3 + 1, none⟩ = some (.int .i64 y) := (HW.out.cell (p := ⟨bb, _, none⟩) hbb).trans hb1
      have gb2 : wr.cell? ⟨bb, ob + k * 3 + 2, none⟩ = some (.int .i64 z) := (HW.out.cell (p := ⟨bb, _, none⟩) hbb).trans hb2
      clear hfa hfb ha0 ha1 ha2 hb0 hb1 hb2
      have hki : (k : Int) < (len : Int) := by omega
      have hk0 : (0 : Int) ≤ (k : Int) := by omega
      go_wp2_with fail
      go_region_with (go_at_call 33; refine (eqHeld_same x y z _).mono ?_; rintro e x3 ⟨rfl, hb3⟩)
      all_goals
        have HB3 : Hid (Below w.heap.size w x3) := HW.out.drew.trans (hb3.mono HW.out.size)
        clear hb3
        go_wp2
        go_roundw
        case rel => exact ⟨k + 1, by omega, by go_num, HB3⟩
        case measure => simp [intOf]; omega
    · go_wp2
      go_ret
      exact ⟨rfl, HW.out⟩

end Go.Proofs.YtclkfjlnhcccdaaGreatDoor

namespace Go.Proofs.YtclkfjlnhcccdaaGreatDoor
open Go.RowKit
set_option linter.unusedVariables false

set_option maxRecDepth 10000 in
set_option maxHeartbeats 1600000 in
theorem eqServer_same (a b : Option Addr) (n ca cb : Nat) (X : List ByteArray) (a' b' : Option Addr) (n' ca' cb' : Nat) (Y : List ByteArray) (ep nx : Int) (ua : Option Addr) (un uc lo : Nat) (l : List UE) (va : Option Addr) (vn vc lo' : Nat) (l' : List UE) (ha hb_ : Option Addr) (hm hc hd : Nat) (hs : List Hd) (w : World) (h1 : StoAt w lo a n ca X a' n' ca' Y ua un uc l) (h2 : StoAt w lo' b n cb X b' n' cb' Y va vn vc l') (he : l.map UE.u = l'.map UE.u) (hn : n ≤ 1099511627776) (hn' : n' ≤ 1099511627776) (hul : un ≤ 1099511627776) (hz : ∀ e ∈ l, e.n ≤ 1099511627776) (k1 : Helds w ha hm hs) (k2 : Helds w hb_ hm hs) (khm : hm ≤ 1099511627776) :
    Calls Tryz.prog 9 #[.agg #[.slice a n ca, .slice a' n' ca', .int .i64 ep, .int .i64 nx, .slice ua un uc, .slice ha hm hc], .agg #[.slice b n cb, .slice b' n' cb', .int .i64 ep, .int .i64 nx, .slice va vn vc, .slice hb_ hm hd]] w fun r w' => r = .returned (.bool true) ∧ Below w.heap.size w w' := by
  obtain ⟨w0, hw0⟩ : ∃ w0, (w.alloc (.cells #[.slice a n ca, .slice a' n' ca', .int .i64 ep, .int .i64 nx, .slice ua un uc, .slice ha hm hc] 38)).alloc (.cells #[.slice b n cb, .slice b' n' cb', .int .i64 ep, .int .i64 nx, .slice va vn vc, .slice hb_ hm hd] 38) = w0 := ⟨_, rfl⟩
  have HE : Hid ((w.alloc (.cells #[.slice a n ca, .slice a' n' ca', .int .i64 ep, .int .i64 nx, .slice ua un uc, .slice ha hm hc] 38)).alloc (.cells #[.slice b n cb, .slice b' n' cb', .int .i64 ep, .int .i64 nx, .slice va vn vc, .slice hb_ hm hd] 38) = w0) := hw0
  have HB : Hid (Below w.heap.size w w0) := by show Below _ _ _; rw [← hw0]; exact ((Below.refl _ _).alloc (Nat.le_refl _) _).alloc (by simp) _
  have HP : Hid (BoxN w0 w.heap.size 38 [.slice a n ca, .slice a' n' ca', .int .i64 ep, .int .i64 nx, .slice ua un uc, .slice ha hm hc]) := by show BoxN _ _ _ _; rw [← hw0]; exact (BoxN.new _ _ _).alloc _
  have HQ : Hid (BoxN w0 (w.heap.size + 1) 38 [.slice b n cb, .slice b' n' cb', .int .i64 ep, .int .i64 nx, .slice va vn vc, .slice hb_ hm hd]) := by
    show BoxN _ _ _ _
    rw [← hw0]
    have := BoxN.new (w.alloc (.cells #[.slice a n ca, .slice a' n' ca', .int .i64 ep, .int .i64 nx, .slice ua un uc, .slice ha hm hc] 38)) 38 [.slice b n cb, .slice b' n' cb', .int .i64 ep, .int .i64 nx, .slice va vn vc, .slice hb_ hm hd]
    rw [World.size_alloc] at this
    exact this
  have HX : Hid (∀ W, Below w0.heap.size w0 W → BoxN W w.heap.size 38 [.slice a n ca, .slice a' n' ca', .int .i64 ep, .int .i64 nx, .slice ua un uc, .slice ha hm hc] ∧ BoxN W (w.heap.size + 1) 38 [.slice b n cb, .slice b' n' cb', .int .i64 ep, .int .i64 nx, .slice va vn vc, .slice hb_ hm hd] ∧ StoAt W lo a n ca X a' n' ca' Y ua un uc l ∧ StoAt W lo' b n cb X b' n' cb' Y va vn vc l' ∧ Below w.heap.size w W ∧ Helds W ha hm hs ∧ Helds W hb_ hm hs) := fun W hb => ⟨HP.out.stays hb, HQ.out.stays hb, (h1.stays HB.out).stays hb, (h2.stays HB.out).stays hb, HB.out.trans (hb.mono HB.out.size), (k1.below HB.out).below hb, (k2.below HB.out).below hb⟩
  have HU : Hid (l.map UE.u = l'.map UE.u ∧ ∀ e ∈ l, e.n ≤ 1099511627776) := ⟨he, hz⟩
  clear hw0 HB HP HQ h1 h2 he hz k1 k2
  have HA0 : Hid (Below w0.heap.size w0 w0) := Below.refl _ _
  obtain ⟨x0, x1, x2, x3, x4⟩ := (show _ ∧ _ ∧ _ ∧ _ ∧ _ from ⟨(HX.out _ HA0.out).1.cell 0 rfl, (HX.out _ HA0.out).1.cell 1 rfl, (HX.out _ HA0.out).1.cell 2 rfl, (HX.out _ HA0.out).1.cell 3 rfl, (HX.out _ HA0.out).1.cell 4 rfl⟩)
  obtain ⟨y0, y1, y2, y3, y4⟩ := (show _ ∧ _ ∧ _ ∧ _ ∧ _ from ⟨(HX.out _ HA0.out).2.1.cell 0 rfl, (HX.out _ HA0.out).2.1.cell 1 rfl, (HX.out _ HA0.out).2.1.cell 2 rfl, (HX.out _ HA0.out).2.1.cell 3 rfl, (HX.out _ HA0.out).2.1.cell 4 rfl⟩)
  go_enter Tryz.func9, Tryz.ntmps9
  go_upto_region 1 with fail
  rw [HE.out]
  clear HE
  go_wp2_with fail
  refine (eqStore_same a b n ca cb X a' b' n' ca' cb' Y ep nx ua un uc lo l va vn vc lo' l' w0 (HX.out _ HA0.out).2.2.1.now.strs (HX.out _ HA0.out).2.2.2.1.now.strs (HX.out _ HA0.out).2.2.1.sure.strs (HX.out _ HA0.out).2.2.2.1.sure.strs (HX.out _ HA0.out).2.2.1.ups (HX.out _ HA0.out).2.2.2.1.ups (HX.out _ HA0.out).2.2.1.len (HX.out _ HA0.out).2.2.2.1.len HU.out.1 hn hn' hul HU.out.2).mono ?_
  rintro _ W1 ⟨rfl, hb1⟩
  have HB1 : Hid (Below w0.heap.size w0 W1) := hb1
  clear hb1 x0 x1 x2 x3 x4 y0 y1 y2 y3 y4
  have c5 := (HX.out _ HB1.out).1.cell 5 rfl
  have d5 := (HX.out _ HB1.out).2.1.cell 5 rfl
  go_wp2_with fail
  refine (eqHeldS_same ha hb_ hm hc hd hs W1 (HX.out _ HB1.out).2.2.2.2.2.1 (HX.out _ HB1.out).2.2.2.2.2.2 khm).mono ?_
  rintro _ W2 ⟨rfl, hb2⟩
  have HB2 : Hid (Below w.heap.size w W2) := (HX.out _ (HB1.out.trans (hb2.mono HB1.out.size))).2.2.2.2.1
  clear hb2
  go_wp2_with fail
  go_ret
  exact ⟨rfl, HB2.out⟩

end Go.Proofs.YtclkfjlnhcccdaaGreatDoor

namespace Go.Proofs.YtclkfjlnhcccdaaGreatDoor
open Go.RowKit
set_option linter.unusedVariables false

set_option maxRecDepth 10000 in
set_option maxHeartbeats 1600000 in
theorem szServer_any (a : Option Addr) (n ca : Nat) (X : List ByteArray) (a' : Option Addr) (n' ca' : Nat) (Y : List ByteArray) (ep nx : Int) (ua : Option Addr) (un uc : Nat) (l : List UE) (ha : Option Addr) (hn hc : Nat) (hs : List Hd) (w : World) (h1 : Strs w a n X) (h2 : Strs w a' n' Y) (hu : UpsI w ua un l) (hln : n ≤ maxLen) (hln' : n' ≤ maxLen) (hlu : un ≤ maxLen) (hlh : hn ≤ maxLen) :
    Calls Tryz.prog 5 #[.agg #[.slice a n ca, .slice a' n' ca', .int .i64 ep, .int .i64 nx, .slice ua un uc, .slice ha hn hc], .int .i64 1048576] w fun r w' => (∃ L : Int, r = .returned (.int .i64 L) ∧ (L < 0 ∨ (SzS n X n' Y un l ∧ hn ≤ 1048576 ∧ 0 ≤ L))) ∧ Below w.heap.size w w' := by
  have HX : Hid (∀ W, Below w.heap.size w W → Strs W a n X ∧ Strs W a' n' Y ∧ UpsI W ua un l) := fun W h => ⟨h1.below h, h2.below h, hu.below h⟩
  have HA : Hid (BoxN (w.alloc (.cells #[.slice a n ca, .slice a' n' ca', .int .i64 ep, .int .i64 nx, .slice ua un uc, .slice ha hn hc] 30)) w.heap.size 30 [.slice a n ca, .slice a' n' ca', .int .i64 ep, .int .i64 nx, .slice ua un uc, .slice ha hn hc]) := BoxN.new _ _ _
  have HB : Hid (Below w.heap.size w (w.alloc (.cells #[.slice a n ca, .slice a' n' ca', .int .i64 ep, .int .i64 nx, .slice ua un uc, .slice ha hn hc] 30))) := (Below.refl _ _).alloc (Nat.le_refl _) _
  clear h1 h2 hu
  go_enter Tryz.func5, Tryz.ntmps5
  go_wp2_with fail
  refine (szStore_any a n ca X a' n' ca' Y ep nx ua un uc l _ (HX.out _ HB.out).1 (HX.out _ HB.out).2.1 (HX.out _ HB.out).2.2 hln hln' hlu).mono ?_
  rintro _ x1 ⟨⟨v, rfl, hv⟩, hb1⟩
  have HV : Hid (v < 0 ∨ (SzS n X n' Y un l ∧ 0 ≤ v ∧ v ≤ 1048576)) := hv
  have HB1 : Hid (Below w.heap.size w x1) := HB.out.trans (hb1.mono HB.out.size)
  have c5 := BoxN.cell (HA.out.stays hb1) 5 rfl
  clear hb1 hv
  by_cases hneg : v < 0
  · go_wp2_with fail
    go_ret
    exact ⟨⟨-1, rfl, .inl (by omega)⟩, HB1.out⟩
  have hv0 : 0 ≤ v := by omega
  have hvm : v ≤ 1048576 := by
    rcases HV.out with h | h
    · exact absurd h (by omega)
    · exact h.2.2
  go_wp2_with fail
  refine (szHeldS_any ha hn hc v x1 hv0 hvm hlh).mono ?_
  rintro _ x2 ⟨⟨L, rfl, hL⟩, hb2⟩
  have HL : Hid (L < 0 ∨ (hn ≤ 1048576 ∧ 0 ≤ L ∧ L ≤ v)) := hL
  have HB2 : Hid (Below w.heap.size w x2) := HB1.out.trans (hb2.mono HB1.out.size)
  clear hb2 hL c5
  by_cases hneg2 : L < 0
  · go_wp2_with fail
    go_ret
    exact ⟨⟨-1, rfl, .inl (by omega)⟩, HB2.out⟩
  have HS : Hid (SzS n X n' Y un l ∧ hn ≤ 1048576 ∧ 0 ≤ L) := by
    rcases HV.out with h | h
    · exact absurd h (by omega)
    rcases HL.out with h' | h'
    · exact absurd h' (by omega)
    exact ⟨h.1, h'.1, h'.2.1⟩
  go_wp2_with fail
  go_ret
  exact ⟨⟨L, rfl, .inr HS.out⟩, HB2.out⟩

end Go.Proofs.YtclkfjlnhcccdaaGreatDoor

namespace Go.Proofs.YtclkfjlnhcccdaaGreatDoor
open Go.RowKit
set_option linter.unusedVariables false

/-- All blocks of texts are as they were. -/
def KeptT (w w' : World) : Prop := ∀ (q : Nat) (cs : Array Value) (z : Nat × Nat), w.heap[q]? = some (.cells cs 9 z) → w'.heap[q]? = some (.cells cs 9 z)

theorem KeptT.refl (w : World) : KeptT w w := fun _ _ _ h => h
theorem KeptT.trans {w w1 w2 : World} (h : KeptT w w1) (k : KeptT w1 w2) : KeptT w w2 := fun q cs z e => k q cs z (h q cs z e)
theorem keptT_below {w w' : World} (h : Below w.heap.size w w') : KeptT w w' := fun q cs z e => (h.block q (Array.getElem?_eq_some_iff.1 e).1).trans e

theorem keptT_grown {w w' : World} {base n size : Nat} {e : TypeId} {v : Value} {xs : List Value} (h : w.grownBy w' v.ownBlock) (ho : w.ownsRow base e size v n xs) (hne : e ≠ 9) : KeptT w w' := by
  intro q cs z hq
  refine (h.block q (Array.getElem?_eq_some_iff.1 hq).1 (fun e1 => ?_)).trans hq
  rcases ho.2 with ⟨rfl, _⟩ | ⟨g, cap, cur, rfl, _, hg, _⟩
  · cases e1
  · obtain rfl : q = g := by simpa [Value.ownBlock] using e1
    rw [hq] at hg
    injection hg with hg
    injection hg with _ h2 _
    exact hne h2.symm

theorem OwnSt.keptT {w w' : World} {base n : Nat} {v : Value} {l : List ByteArray} (h : OwnSt w base v n l) (k : KeptT w w') : OwnSt w' base v n l := by
  refine ⟨⟨h.1.1, ?_⟩, h.2⟩
  rcases h.1.2 with h0 | ⟨g, cap, cur, he, hg, hh, r⟩
  · exact .inl h0
  · exact .inr ⟨g, cap, cur, he, hg, k g cur _ hh, r⟩

end Go.Proofs.YtclkfjlnhcccdaaGreatDoor

namespace Go.Proofs.YtclkfjlnhcccdaaGreatDoor
open Go.RowKit
set_option linter.unusedVariables false

theorem own_stays {w w' : World} {base size n : Nat} {v : Value} {e : TypeId} {xs : List Value} (h : w.ownsRow base e size v n xs) (hb : Below w.heap.size w w') : w'.ownsRow base e size v n xs := by
  refine ⟨h.1, ?_⟩
  rcases h.2 with h0 | ⟨g, cap, cur, he, hg, hh, r⟩
  · exact .inl h0
  · exact .inr ⟨g, cap, cur, he, hg, (hb.block g (Array.getElem?_eq_some_iff.1 hh).1).trans hh, r⟩

/-- 'string([]byte{c})'. -/
theorem convm_one (c : Nat) (hc : c < 256) (W : World) (g : Nat) (h : W.cell? ⟨g, 0, none⟩ = some (.int .u8 (c : Int))) :
    (convert 102 9 (.slice (some ⟨g, 0, none⟩) 1 1)).run Tryz.prog W = .ok (.string ⟨#[UInt8.ofNat c]⟩) W := by
  refine run_convert_bytes_back W 102 9 5 ⟨g, 0, none⟩ 1 [UInt8.ofNat c] Tryz.underlying102 Tryz.underlying5 Tryz.underlying9 (fun j hj => ?_)
  obtain rfl : j = 0 := by simpa using hj
  have e : (UInt8.ofNat c).toNat = c := by simp; omega
  simpa [Addr.add, Nat.mod_eq_of_lt hc] using h

/-- The digits of k ahead of a text. -/
def mtGo (k : Nat) (out : ByteArray) : ByteArray := if k = 0 then out else mtGo (k / 10) (⟨#[UInt8.ofNat (48 + k % 10)]⟩ ++ out)
termination_by k
decreasing_by omega

/-- The mark of the number k. -/
def mt (k : Nat) : ByteArray := if k = 0 then ⟨#[109, 48]⟩ else ⟨#[109]⟩ ++ mtGo k ⟨#[]⟩

set_option maxRecDepth 10000 in
set_option maxHeartbeats 800000 in
theorem markText_any (k : Nat) (w : World) (hk : k ≤ 4398046511104) : Calls Tryz.prog 90 #[.int .i64 (k : Int)] w fun e w' => e = .returned (.string (mt k)) ∧ Below w.heap.size w w' := by
  by_cases h0 : k = 0
  · subst h0
    go_enter Tryz.func90, Tryz.ntmps90
    go_wp2
    go_ret
    exact ⟨rfl, Below.refl _ _⟩
  · have e : mt k = ⟨#[109]⟩ ++ mtGo k ⟨#[]⟩ := by rw [mt, if_neg h0]
    rw [e]
    have hki : ¬ (k : Int) ≤ 0 := by omega
    have hkd : decide ((k : Int) ≤ 0) = false := by simp; omega
    generalize hT : mtGo k ⟨#[]⟩ = T
    have HT : Hid (mtGo k ⟨#[]⟩ = T) := hT
    clear hT e
    go_enter Tryz.func90, Tryz.ntmps90
    go_wp2_with fail
    go_loopw [0, 3] (fun n o wr => ∃ (j : Nat) (u : ByteArray), j + u.size ≤ k ∧ n = .int .i64 (j : Int) ∧ o = .string u ∧ Hid (mtGo j u = T) ∧ Hid (Below w.heap.size w wr)) (fun n _ _ => (intOf n).toNat)
    case atStart => exact ⟨k, ⟨#[]⟩, Nat.le_refl _, rfl, rfl, HT, Below.refl _ _⟩
    case round =>
      clear HT
      obtain ⟨j, u, hj, rfl, rfl, HT, HB⟩ := hrel
      by_cases hj0 : j = 0
      · subst hj0
        have hTu : u = T := by
          have := HT.out
          rw [mtGo, if_pos rfl] at this
          exact this
        subst hTu
        go_wp2_with fail
        go_ret
        exact ⟨rfl, HB.out⟩
      · have hj1 : (0 : Int) < (j : Int) := by omega
        have HT2 : Hid (mtGo (j / 10) (⟨#[UInt8.ofNat (48 + j % 10)]⟩ ++ u) = T) := by
          show _ = _
          have := HT.out
          rw [mtGo, if_neg hj0] at this
          exact this
        have hjb : (j : Int) ≤ 4398046511104 := by omega
        have hcv : ∀ (W : World) (g : Nat), W.cell? ⟨g, 0, none⟩ = some (.int .u8 (48 + (j : Int) % 10)) → (convert 102 9 (.slice (some ⟨g, 0, none⟩) 1 1)).run Tryz.prog W = .ok (.string ⟨#[UInt8.ofNat (48 + j % 10)]⟩) W := fun W g hW => convm_one (48 + j % 10) (by omega) W g (by rw [hW]; congr 2)
        have hsz : (⟨#[UInt8.ofNat (48 + j % 10)]⟩ ++ u : ByteArray).size = 1 + u.size := by rw [ByteArray.size_append]; rfl
        have hXs : (⟨#[UInt8.ofNat (48 + j % 10)]⟩ : ByteArray).size = 1 := rfl
        generalize hX : (⟨#[UInt8.ofNat (48 + j % 10)]⟩ : ByteArray) = X at *
        clear hX
        have hus : X.size + u.size ≤ 4398046511105 := by omega
        have HSz : Hid ((X ++ u).size = 1 + u.size) := hsz
        clear hsz
        go_wp2_with fail
        go_roundw
        case rel =>
          refine ⟨j / 10, X ++ u, by rw [HSz.out]; omega, by congr 1, rfl, HT2, ?_⟩
          exact HB.out.alloc HB.out.size _
        case measure => simp [intOf]; omega

theorem mtGo_size (k : Nat) : ∀ u : ByteArray, (mtGo k u).size ≤ k + u.size := by
  induction k using Nat.strongRecOn with
  | _ k ih =>
    intro u
    rw [mtGo]
    split
    · omega
    · have := ih (k / 10) (by omega) (⟨#[UInt8.ofNat (48 + k % 10)]⟩ ++ u)
      rw [ByteArray.size_append] at this
      have e : (⟨#[UInt8.ofNat (48 + k % 10)]⟩ : ByteArray).size = 1 := rfl
      omega

theorem mt_size (k : Nat) : (mt k).size ≤ k + 2 := by
  unfold mt
  split
  · have e : (⟨#[109, 48]⟩ : ByteArray).size = 2 := rfl
    omega
  · have := mtGo_size k ⟨#[]⟩
    rw [ByteArray.size_append]
    have e : (⟨#[109]⟩ : ByteArray).size = 1 := rfl
    have e2 : (⟨#[]⟩ : ByteArray).size = 0 := rfl
    omega

theorem grown_refl (w : World) (r : Option Nat) : w.grownBy w r := ⟨rfl, rfl, rfl, Nat.le_refl _, fun _ _ _ => rfl⟩
theorem grown_trans {a b c : World} {r : Option Nat} (h : a.grownBy b r) (g : b.grownBy c r) : a.grownBy c r :=
  ⟨g.os.trans h.os, g.tape.trans h.tape, g.output.trans h.output, Nat.le_trans h.size g.size, fun k hk hr => (g.block k (Nat.lt_of_lt_of_le hk h.size) hr).trans (h.block k hk hr)⟩
theorem grown_below {a b : World} {r : Option Nat} (h : Below a.heap.size a b) : a.grownBy b r := ⟨h.os, h.tape, h.output, h.size, fun k hk _ => h.block k hk⟩

end Go.Proofs.YtclkfjlnhcccdaaGreatDoor

namespace Go.Proofs.YtclkfjlnhcccdaaGreatDoor
open Go.RowKit
set_option linter.unusedVariables false

/-- The marks: n bytes from k on. -/
def marks (k n : Nat) : List Int := (List.range n).map fun i => ((k + i : Nat) : Int) % 256

theorem marks_range (k n : Nat) : ∀ x ∈ marks k n, 0 ≤ x ∧ x ≤ 255 := by
  intro x hx
  simp only [marks, List.mem_map] at hx
  obtain ⟨i, _, rfl⟩ := hx
  omega

theorem marked_step (k : Nat) (zs : List Int) (j : Nat) (h : j < zs.length) :
    ((marks k j ++ zs.drop j).map (Value.int .u8)).set j (.int .u8 (((k + j : Nat) : Int) % 256)) = (marks k (j + 1) ++ zs.drop (j + 1)).map (Value.int .u8) := by
  have hl : (marks k j).length = j := by simp [marks]
  have hd : zs.drop j = zs[j] :: zs.drop (j + 1) := List.drop_eq_getElem_cons h
  have hm : marks k (j + 1) = marks k j ++ [((k + j : Nat) : Int) % 256] := by simp [marks, List.range_succ]
  rw [hd, hm, List.map_append, List.set_append_right _ _ (by simp [hl]), List.length_map, hl, Nat.sub_self, List.map_cons, List.set_cons_zero]
  rw [List.map_append, List.map_append, List.append_assoc]
  rfl

theorem marks_len (k n : Nat) : (marks k n).length = n := by simp [marks]

theorem marks_get (k n j : Nat) (h : j < n) : (marks k n).getD j 0 = ((k : Int) + (j : Int)) % 256 := by
  rw [List.getD_eq_getElem?_getD, List.getElem?_eq_getElem (by simpa [marks] using h)]
  simp [marks]

set_option maxHeartbeats 400000 in
theorem mark_any (base : Nat) (a : Option Addr) (n cap k : Nat) (zs : List Int) (w : World) (h : Owns w base a n cap zs) (hn : n ≤ 2199023255552) (hk : k ≤ 2199023255552) :
    Calls Tryz.prog 91 #[.slice a n cap, .int .i64 k] w fun e w' => e = .returned (.int .i64 ((k + n : Nat) : Int)) ∧ Owns w' base a n cap (marks k n) ∧ Only w w' a := by
  have hzl : zs.length = n := h.seg.1
  have HO : Hid (Owns w base a n cap zs) := h
  clear h
  go_enter Tryz.func91, Tryz.ntmps91
  go_wp2
  go_loopw [1, 5] (fun v i wr => ∃ j : Nat, j ≤ n ∧ i = .int .i64 j ∧ v = .int .i64 ((k + j : Nat) : Int) ∧ Hid (Owns wr base a n cap (marks k j ++ zs.drop j)) ∧ Hid (Only w wr a)) (fun _ i _ => n - (intOf i).toNat)
  case atStart => exact ⟨0, Nat.zero_le _, rfl, by go_num, by simpa [marks, Hid] using HO.out, ⟨rfl, rfl, rfl, Nat.le_refl _, fun _ _ _ => rfl⟩⟩
  case round =>
    clear HO
    obtain ⟨j, hj, rfl, rfl, HO, HB⟩ := hrel
    by_cases hlt : j < n
    · obtain ⟨g, rfl, hf, ⟨u, hu⟩⟩ : ∃ g, a = some ⟨g, 0, none⟩ ∧ wr.frozen? ⟨g, j, none⟩ = false ∧ ∃ u, wr.cell? ⟨g, j, none⟩ = some u := by
        rcases HO.out.1.2 with ⟨he, hn0⟩ | ⟨g, cap', cur, he, _⟩
        · omega
        · simp only [Value.slice.injEq] at he
          obtain ⟨rfl, _, rfl⟩ := he
          refine ⟨g, rfl, HO.out.1.frozenAt j, ?_⟩
          rw [HO.out.1.cellAt j (by omega)]
          exact ⟨_, List.getElem?_eq_getElem (by have := HO.out.1.1; omega)⟩
      go_wp2
      go_roundw
      case rel =>
        refine ⟨j + 1, by omega, by go_num, by go_num, ?_, ?_⟩
        · have h := (HO.out.1.stored j (.int .u8 (((k + j : Nat) : Int) % 256))).1
          rw [marked_step k zs j (by omega)] at h
          refine ⟨by simpa using h, ?_⟩
          intro x hx
          rcases List.mem_append.1 hx with hx | hx
          · exact marks_range _ _ x hx
          · exact HO.out.2 x (List.mem_append_right _ (by
              rw [List.drop_eq_getElem_cons (by omega)]
              exact List.mem_cons_of_mem _ hx))
        · have h := (HO.out.1.stored j (.int .u8 (((k : Int) + (j : Int)) % 256))).2
          have hB := HB.out
          exact ⟨h.os.trans hB.os, h.tape.trans hB.tape, h.output.trans hB.output, Nat.le_trans hB.size h.size, fun i hi hne => (h.block i (Nat.lt_of_lt_of_le hi hB.size) hne).trans (hB.block i hi hne)⟩
      case measure => simp [intOf]; omega
    · go_wp2
      go_ret
      have hjn : j = n := by omega
      subst hjn
      refine ⟨ret_int (by omega), ?_, HB.out⟩
      have h := HO.out
      rw [List.drop_of_length_le (by omega), List.append_nil] at h
      exact h

set_option maxHeartbeats 400000 in
theorem held_any (base : Nat) (a : Option Addr) (n cap k : Nat) (w : World) (h : Owns w base a n cap (marks k n)) (hn : n ≤ 2199023255552) (hk : k ≤ 2199023255552) :
    Calls Tryz.prog 93 #[.slice a n cap, .int .i64 k] w fun e w' => e = .returned (.int .i64 ((k + n : Nat) : Int)) ∧ w' = w := by
  have HS : Hid (Seg w a n (marks k n)) := h.seg
  clear h
  go_enter Tryz.func93, Tryz.ntmps93
  go_wp2
  go_loop [1, 5] (fun v i => ∃ j : Nat, j ≤ n ∧ i = .int .i64 j ∧ v = .int .i64 ((k + j : Nat) : Int)) (fun _ i => n - (intOf i).toNat)
  case atStart => exact ⟨0, Nat.zero_le _, rfl, by go_num⟩
  case round =>
    obtain ⟨j, hj, rfl, rfl⟩ := hrel
    by_cases hlt : j < n
    · obtain ⟨b, off, rfl, hc⟩ : ∃ b off, a = some ⟨b, off, none⟩ ∧ w.cell? ⟨b, off + j, none⟩ = some (.int .u8 (((k : Int) + (j : Int)) % 256)) := by
        rcases HS.out.2.2 with h | ⟨b, off, e1, _, hc⟩
        · omega
        · exact ⟨b, off, e1, by rw [hc j hlt, marks_get k n j hlt]⟩
      go_wp2
      go_round
      case rel => exact ⟨j + 1, by omega, by go_num, by go_num⟩
      case measure => simp [intOf]; omega
    · go_wp2
      go_ret
      have hjn : j = n := by omega
      subst hjn
      exact ⟨ret_int (by omega), rfl⟩

theorem mark_one (base : Nat) (a : Option Addr) (n cap : Nat) (zs : List Int) (w : World) (h : Owns w base a n cap zs) (hn : n ≤ 2199023255552) :
    Calls Tryz.prog 91 #[.slice a n cap, .int .i64 1] w fun e w' => e = .returned (.int .i64 ((1 + n : Nat) : Int)) ∧ Owns w' base a n cap (marks 1 n) ∧ Only w w' a := mark_any base a n cap 1 zs w h hn (by omega)

theorem held_one (base : Nat) (a : Option Addr) (n cap : Nat) (w : World) (h : Owns w base a n cap (marks 1 n)) (hn : n ≤ 2199023255552) :
    Calls Tryz.prog 93 #[.slice a n cap, .int .i64 1] w fun e w' => e = .returned (.int .i64 ((1 + n : Nat) : Int)) ∧ w' = w := held_any base a n cap 1 w h hn (by omega)

end Go.Proofs.YtclkfjlnhcccdaaGreatDoor
