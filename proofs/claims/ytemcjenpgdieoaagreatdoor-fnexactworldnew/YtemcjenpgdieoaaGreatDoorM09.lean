/- An answer held against itself. Answers that wait, held against themselves. Servers that say the same are the same to the laws. Blocks of a type that stay while those of others are written. No program in it. The marks of a server without uploads and answers; rows of nothing. -/
import Derived.Test.YtemcjenpgdieoaaGreatDoorM05
import Derived.WalkKit
import Derived.Test.YtemcjenpgdieoaaGreatDoorM07
import Derived.Test.YtemcjenpgdieoaaGreatDoorM03
import Derived.Deep.RegionWith
import Derived.Test.YtemcjenpgdieoaaGreatDoorM08
import Derived.Test.YtemcjenpgdieoaaGreatDoorM04
namespace Go.Proofs.YtemcjenpgdieoaaGreatDoor
open Go.RowKit
set_option linter.unusedVariables false

set_option maxRecDepth 10000 in
theorem eqResp_same (st off : Int) (w : World) :
    Calls Tryz.prog 99 #[.agg #[.int .i64 st, .int .i64 off], .agg #[.int .i64 st, .int .i64 off]] w fun e w' => e = .returned (.bool true) ∧ Below w.heap.size w w' := by
  have h1 : (st != st) = false := by simp
  have h3 : (off != off) = false := by simp
  go_enter Tryz.func99, Tryz.ntmps99
  go_wp2
  go_ret
  exact ⟨rfl, ((Below.refl _ _).alloc (Nat.le_refl _) _).alloc (by simp) _⟩

end Go.Proofs.YtemcjenpgdieoaaGreatDoor

namespace Go.Proofs.YtemcjenpgdieoaaGreatDoor
open Go.RowKit
set_option linter.unusedVariables false

set_option maxRecDepth 10000 in
set_option maxHeartbeats 800000 in
theorem eqHeld_same (x y z : Int) (w : World) : Calls Tryz.prog 72 #[.agg #[.int .i64 x, .int .i64 y, .int .i64 z], .agg #[.int .i64 x, .int .i64 y, .int .i64 z]] w fun e w' => e = .returned (.bool true) ∧ Below w.heap.size w w' := by
  have hx : (x != x) = false := by simp
  have HB : Hid (Below w.heap.size w ((w.alloc (.cells #[.int .i64 x, .int .i64 y, .int .i64 z] 88)).alloc (.cells #[.int .i64 x, .int .i64 y, .int .i64 z] 88))) := ((Below.refl _ _).alloc (Nat.le_refl _) _).alloc (by simp) _
  go_enter Tryz.func72, Tryz.ntmps72
  go_wp2_with fail
  refine (eqResp_same y z _).mono ?_
  rintro e x3 ⟨rfl, hb3⟩
  have HB3 : Hid (Below w.heap.size w x3) := HB.out.trans (hb3.mono HB.out.size)
  clear hb3
  go_wp2_with fail
  go_ret
  exact ⟨rfl, HB3.out⟩

set_option maxRecDepth 10000 in
set_option maxHeartbeats 800000 in
theorem eqHeldS_same (a b : Option Addr) (len ca cb : Nat) (xs : List Hd) (w : World) (hx : Helds w a len xs) (hy : Helds w b len xs) (hla : len ≤ 1099511627776) :
    Calls Tryz.prog 25 #[.slice a len ca, .slice b len cb] w fun e w' => e = .returned (.bool true) ∧ Below w.heap.size w w' := by
  have HX : Hid (Helds w a len xs) := hx
  have HY : Hid (Helds w b len xs) := hy
  clear hx hy
  have hne : ((len : Int) != (len : Int)) = false := by simp
  go_enter Tryz.func25, Tryz.ntmps25
  go_wp2
  go_loopw [5] (fun i wr => ∃ k : Nat, k ≤ len ∧ i = .int .i64 k ∧ Hid (Below w.heap.size w wr)) (fun i _ => len - (intOf i).toNat)
  case atStart => exact ⟨0, Nat.zero_le _, rfl, Below.refl _ _⟩
  case round =>
    obtain ⟨k, hk, rfl, HW⟩ := hrel
    by_cases hlt : k < len
    · obtain ⟨ba, oa, x, y, z, rfl, hba, hfa, ha0, ha1, ha2, _⟩ := HX.out.at hlt
      obtain ⟨bb, ob, x', y', z', rfl, hbb, hfb, hb0, hb1, hb2, _⟩ := HY.out.at hlt
      obtain ⟨rfl, rfl, rfl⟩ : x = x' ∧ y = y' ∧ z = z' := by rw [hfa] at hfb; simpa using hfb
      have ga0 : wr.cell? ⟨ba, oa + k * 3, none⟩ = some (.int .i64 x) := (HW.out.cell (p := ⟨ba, _, none⟩) hba).trans ha0
      have ga1 : wr.cell? ⟨ba, oa + k * 3 + 1, none⟩ = some (.int .i64 y) := (HW.out.cell (p := ⟨ba, _, none⟩) hba).trans ha1
      have ga2 : wr.cell? ⟨ba, oa + k * 3 + 2, none⟩ = some (.int .i64 z) := (HW.out.cell (p := ⟨ba, _, none⟩) hba).trans ha2
      have gb0 : wr.cell? ⟨bb, ob + k * 3, none⟩ = some (.int .i64 x) := (HW.out.cell (p := ⟨bb, _, none⟩) hbb).trans hb0
      have gb1 : wr.cell? ⟨bb, ob + k * 3 + 1, none⟩ = some (.int .i64 y) := (HW.out.cell (p := ⟨bb, _, none⟩) hbb).trans hb1
      have gb2 : wr.cell? ⟨bb, ob + k * 3 + 2, none⟩ = some (.int .i64 z) := (HW.out.cell (p := ⟨bb, _, none⟩) hbb).trans hb2
      clear hfa hfb ha0 ha1 ha2 hb0 hb1 hb2
      have hki : (k : Int) < (len : Int) := by omega
      have hk0 : (0 : Int) ≤ (k : Int) := by omega
      go_wp2_with fail
      go_region_with (go_at_call 72; refine (eqHeld_same x y z _).mono ?_; rintro e x3 ⟨rfl, hb3⟩)
      all_goals
        have HB3 : Hid (Below w.heap.size w x3) := HW.out.drew.trans (hb3.mono HW.out.size)
        clear hb3
        go_wp2
        go_roundw
        case rel => exact ⟨k + 1, by omega, by go_num, HB3⟩
        case measure => simp [intOf]; omega
    · go_wp2
      go_ret
      exact ⟨rfl, HW.out⟩

end Go.Proofs.YtemcjenpgdieoaaGreatDoor

namespace Go.Proofs.YtemcjenpgdieoaaGreatDoor
open Go.RowKit
set_option linter.unusedVariables false

set_option maxRecDepth 10000 in
set_option maxHeartbeats 1600000 in
theorem eqServer_same (a b : Option Addr) (n ca cb : Nat) (X : List ByteArray) (a' b' : Option Addr) (n' ca' cb' : Nat) (Y : List ByteArray) (ep nx : Int) (ua : Option Addr) (un uc lo : Nat) (l : List UE) (va : Option Addr) (vn vc lo' : Nat) (l' : List UE) (ha hb_ : Option Addr) (hm hc hd : Nat) (hs : List Hd) (w : World) (h1 : StoAt w lo a n ca X a' n' ca' Y ua un uc l) (h2 : StoAt w lo' b n cb X b' n' cb' Y va vn vc l') (he : l.map UE.u = l'.map UE.u) (hn : n ≤ 1099511627776) (hn' : n' ≤ 1099511627776) (hul : un ≤ 1099511627776) (hz : ∀ e ∈ l, e.n ≤ 1099511627776) (k1 : Helds w ha hm hs) (k2 : Helds w hb_ hm hs) (khm : hm ≤ 1099511627776) :
    Calls Tryz.prog 22 #[.agg #[.slice a n ca, .slice a' n' ca', .int .i64 ep, .int .i64 nx, .slice ua un uc, .slice ha hm hc], .agg #[.slice b n cb, .slice b' n' cb', .int .i64 ep, .int .i64 nx, .slice va vn vc, .slice hb_ hm hd]] w fun r w' => r = .returned (.bool true) ∧ Below w.heap.size w w' := by
  obtain ⟨w0, hw0⟩ : ∃ w0, (w.alloc (.cells #[.slice a n ca, .slice a' n' ca', .int .i64 ep, .int .i64 nx, .slice ua un uc, .slice ha hm hc] 32)).alloc (.cells #[.slice b n cb, .slice b' n' cb', .int .i64 ep, .int .i64 nx, .slice va vn vc, .slice hb_ hm hd] 32) = w0 := ⟨_, rfl⟩
  have HE : Hid ((w.alloc (.cells #[.slice a n ca, .slice a' n' ca', .int .i64 ep, .int .i64 nx, .slice ua un uc, .slice ha hm hc] 32)).alloc (.cells #[.slice b n cb, .slice b' n' cb', .int .i64 ep, .int .i64 nx, .slice va vn vc, .slice hb_ hm hd] 32) = w0) := hw0
  have HB : Hid (Below w.heap.size w w0) := by show Below _ _ _; rw [← hw0]; exact ((Below.refl _ _).alloc (Nat.le_refl _) _).alloc (by simp) _
  have HP : Hid (BoxN w0 w.heap.size 32 [.slice a n ca, .slice a' n' ca', .int .i64 ep, .int .i64 nx, .slice ua un uc, .slice ha hm hc]) := by show BoxN _ _ _ _; rw [← hw0]; exact (BoxN.new _ _ _).alloc _
  have HQ : Hid (BoxN w0 (w.heap.size + 1) 32 [.slice b n cb, .slice b' n' cb', .int .i64 ep, .int .i64 nx, .slice va vn vc, .slice hb_ hm hd]) := by
    show BoxN _ _ _ _
    rw [← hw0]
    have := BoxN.new (w.alloc (.cells #[.slice a n ca, .slice a' n' ca', .int .i64 ep, .int .i64 nx, .slice ua un uc, .slice ha hm hc] 32)) 32 [.slice b n cb, .slice b' n' cb', .int .i64 ep, .int .i64 nx, .slice va vn vc, .slice hb_ hm hd]
    rw [World.size_alloc] at this
    exact this
  have HX : Hid (∀ W, Below w0.heap.size w0 W → BoxN W w.heap.size 32 [.slice a n ca, .slice a' n' ca', .int .i64 ep, .int .i64 nx, .slice ua un uc, .slice ha hm hc] ∧ BoxN W (w.heap.size + 1) 32 [.slice b n cb, .slice b' n' cb', .int .i64 ep, .int .i64 nx, .slice va vn vc, .slice hb_ hm hd] ∧ StoAt W lo a n ca X a' n' ca' Y ua un uc l ∧ StoAt W lo' b n cb X b' n' cb' Y va vn vc l' ∧ Below w.heap.size w W ∧ Helds W ha hm hs ∧ Helds W hb_ hm hs) := fun W hb => ⟨HP.out.stays hb, HQ.out.stays hb, (h1.stays HB.out).stays hb, (h2.stays HB.out).stays hb, HB.out.trans (hb.mono HB.out.size), (k1.below HB.out).below hb, (k2.below HB.out).below hb⟩
  have HU : Hid (l.map UE.u = l'.map UE.u ∧ ∀ e ∈ l, e.n ≤ 1099511627776) := ⟨he, hz⟩
  clear hw0 HB HP HQ h1 h2 he hz k1 k2
  have HA0 : Hid (Below w0.heap.size w0 w0) := Below.refl _ _
  obtain ⟨x0, x1, x2, x3, x4⟩ := (show _ ∧ _ ∧ _ ∧ _ ∧ _ from ⟨(HX.out _ HA0.out).1.cell 0 rfl, (HX.out _ HA0.out).1.cell 1 rfl, (HX.out _ HA0.out).1.cell 2 rfl, (HX.out _ HA0.out).1.cell 3 rfl, (HX.out _ HA0.out).1.cell 4 rfl⟩)
  obtain ⟨y0, y1, y2, y3, y4⟩ := (show _ ∧ _ ∧ _ ∧ _ ∧ _ from ⟨(HX.out _ HA0.out).2.1.cell 0 rfl, (HX.out _ HA0.out).2.1.cell 1 rfl, (HX.out _ HA0.out).2.1.cell 2 rfl, (HX.out _ HA0.out).2.1.cell 3 rfl, (HX.out _ HA0.out).2.1.cell 4 rfl⟩)
  go_enter Tryz.func22, Tryz.ntmps22
  go_upto_region 1 with fail
  rw [HE.out]
  clear HE
  go_wp2_with fail
  refine (eqStore_same a b n ca cb X a' b' n' ca' cb' Y ep nx ua un uc lo l va vn vc lo' l' w0 (HX.out _ HA0.out).2.2.1.now.strs (HX.out _ HA0.out).2.2.2.1.now.strs (HX.out _ HA0.out).2.2.1.sure.strs (HX.out _ HA0.out).2.2.2.1.sure.strs (HX.out _ HA0.out).2.2.1.ups (HX.out _ HA0.out).2.2.2.1.ups (HX.out _ HA0.out).2.2.1.len (HX.out _ HA0.out).2.2.2.1.len HU.out.1 hn hn' hul HU.out.2).mono ?_
  rintro _ W1 ⟨rfl, hb1⟩
  have HB1 : Hid (Below w0.heap.size w0 W1) := hb1
  clear hb1 x0 x1 x2 x3 x4 y0 y1 y2 y3 y4
  have c5 := (HX.out _ HB1.out).1.cell 5 rfl
  have d5 := (HX.out _ HB1.out).2.1.cell 5 rfl
  go_wp2_with fail
  refine (eqHeldS_same ha hb_ hm hc hd hs W1 (HX.out _ HB1.out).2.2.2.2.2.1 (HX.out _ HB1.out).2.2.2.2.2.2 khm).mono ?_
  rintro _ W2 ⟨rfl, hb2⟩
  have HB2 : Hid (Below w.heap.size w W2) := (HX.out _ (HB1.out.trans (hb2.mono HB1.out.size))).2.2.2.2.1
  clear hb2
  go_wp2_with fail
  go_ret
  exact ⟨rfl, HB2.out⟩

end Go.Proofs.YtemcjenpgdieoaaGreatDoor

namespace Go.Proofs.YtemcjenpgdieoaaGreatDoor
open Go.RowKit
set_option linter.unusedVariables false

/-- All blocks of this type are as they were. -/
def KeptE (t : TypeId) (w w' : World) : Prop := ∀ (q : Nat) (cs : Array Value) (z : Nat × Nat), w.heap[q]? = some (.cells cs t z) → w'.heap[q]? = some (.cells cs t z)

theorem KeptE.refl (t : TypeId) (w : World) : KeptE t w w := fun _ _ _ h => h
theorem KeptE.trans {t : TypeId} {w w1 w2 : World} (h : KeptE t w w1) (k : KeptE t w1 w2) : KeptE t w w2 := fun q cs z e => k q cs z (h q cs z e)
theorem keptE_below {t : TypeId} {w w' : World} (h : Below w.heap.size w w') : KeptE t w w' := fun q cs z e => (h.block q (Array.getElem?_eq_some_iff.1 e).1).trans e

theorem keptE_grown {t : TypeId} {w w' : World} {base n size : Nat} {e : TypeId} {v : Value} {xs : List Value} (h : w.grownBy w' v.ownBlock) (ho : w.ownsRow base e size v n xs) (hne : e ≠ t) : KeptE t w w' := by
  intro q cs z hq
  refine (h.block q (Array.getElem?_eq_some_iff.1 hq).1 (fun e1 => ?_)).trans hq
  rcases ho.2 with ⟨rfl, _⟩ | ⟨g, cap, cur, rfl, _, hg, _⟩
  · cases e1
  · obtain rfl : q = g := by simpa [Value.ownBlock] using e1
    rw [hq] at hg
    injection hg with hg
    injection hg with _ h2 _
    exact hne h2.symm

theorem ownsRow_keptE {t : TypeId} {w w' : World} {base n size : Nat} {v : Value} {xs : List Value} (h : w.ownsRow base t size v n xs) (k : KeptE t w w') : w'.ownsRow base t size v n xs := by
  refine ⟨h.1, ?_⟩
  rcases h.2 with h0 | ⟨g, cap, cur, he, hg, hh, r⟩
  · exact .inl h0
  · exact .inr ⟨g, cap, cur, he, hg, k g cur _ hh, r⟩

end Go.Proofs.YtemcjenpgdieoaaGreatDoor

namespace Go.Proofs.YtemcjenpgdieoaaGreatDoor
open Go.RowKit
set_option linter.unusedVariables false

/-- All blocks but those of texts are as they were. -/
def KeptS (w w' : World) : Prop := ∀ t, t ≠ 9 → KeptE t w w'

set_option maxRecDepth 10000 in
theorem eqHeldS_zero (a b : Option Addr) (c d : Nat) (w : World) : Calls Tryz.prog 25 #[.slice a 0 c, .slice b 0 d] w fun r w' => r = .returned (.bool true) ∧ Below w.heap.size w w' := by
  have HB : Hid (Below w.heap.size w w) := Below.refl _ _
  go_enter Tryz.func25, Tryz.ntmps25
  go_wp2_with fail
  go_loopw [5] (fun i wr => i = .int .i64 0 ∧ wr = w) (fun _ _ => 0)
  case atStart => exact ⟨rfl, rfl⟩
  case round =>
    obtain ⟨rfl, rfl⟩ := hrel
    go_wp2_with fail
    go_ret
    exact ⟨rfl, HB.out⟩

set_option maxRecDepth 10000 in
theorem heldHeldS_zero (a : Option Addr) (c : Nat) (k : Int) (w : World) : Calls Tryz.prog 39 #[.slice a 0 c, .int .i64 k] w fun r w' => r = .returned (.int .i64 k) ∧ Below w.heap.size w w' := by
  have HB : Hid (Below w.heap.size w w) := Below.refl _ _
  go_enter Tryz.func39, Tryz.ntmps39
  go_wp2_with fail
  go_loopw [1, 5] (fun v i wr => v = .int .i64 k ∧ i = .int .i64 0 ∧ wr = w) (fun _ _ _ => 0)
  case atStart => exact ⟨rfl, rfl, rfl⟩
  case round =>
    obtain ⟨rfl, rfl, rfl⟩ := hrel
    go_wp2_with fail
    go_ret
    exact ⟨rfl, HB.out⟩

set_option maxRecDepth 10000 in
theorem markUpS_zero (a : Option Addr) (c : Nat) (k : Int) (w : World) : Calls Tryz.prog 101 #[.slice a 0 c, .int .i64 k] w fun r w' => r = .returned (.int .i64 k) ∧ Below w.heap.size w w' := by
  have HB : Hid (Below w.heap.size w w) := Below.refl _ _
  go_enter Tryz.func101, Tryz.ntmps101
  go_wp2_with fail
  go_loopw [1, 5] (fun v i wr => v = .int .i64 k ∧ i = .int .i64 0 ∧ wr = w) (fun _ _ _ => 0)
  case atStart => exact ⟨rfl, rfl, rfl⟩
  case round =>
    obtain ⟨rfl, rfl, rfl⟩ := hrel
    go_wp2_with fail
    go_ret
    exact ⟨rfl, HB.out⟩

set_option maxRecDepth 10000 in
theorem markWantS_zero (a : Option Addr) (c : Nat) (k : Int) (w : World) : Calls Tryz.prog 32 #[.slice a 0 c, .int .i64 k] w fun r w' => r = .returned (.int .i64 k) ∧ Below w.heap.size w w' := by
  have HB : Hid (Below w.heap.size w w) := Below.refl _ _
  go_enter Tryz.func32, Tryz.ntmps32
  go_wp2_with fail
  go_loopw [1, 5] (fun v i wr => v = .int .i64 k ∧ i = .int .i64 0 ∧ wr = w) (fun _ _ _ => 0)
  case atStart => exact ⟨rfl, rfl, rfl⟩
  case round =>
    obtain ⟨rfl, rfl, rfl⟩ := hrel
    go_wp2_with fail
    go_ret
    exact ⟨rfl, HB.out⟩

set_option maxRecDepth 10000 in
theorem heldWantS_zero (a : Option Addr) (c : Nat) (k : Int) (w : World) : Calls Tryz.prog 38 #[.slice a 0 c, .int .i64 k] w fun r w' => r = .returned (.int .i64 k) ∧ Below w.heap.size w w' := by
  have HB : Hid (Below w.heap.size w w) := Below.refl _ _
  go_enter Tryz.func38, Tryz.ntmps38
  go_wp2_with fail
  go_loopw [1, 5] (fun v i wr => v = .int .i64 k ∧ i = .int .i64 0 ∧ wr = w) (fun _ _ _ => 0)
  case atStart => exact ⟨rfl, rfl, rfl⟩
  case round =>
    obtain ⟨rfl, rfl, rfl⟩ := hrel
    go_wp2_with fail
    go_ret
    exact ⟨rfl, HB.out⟩

set_option maxRecDepth 10000 in
theorem eqWantS_zero (a b : Option Addr) (c d : Nat) (w : World) : Calls Tryz.prog 24 #[.slice a 0 c, .slice b 0 d] w fun r w' => r = .returned (.bool true) ∧ Below w.heap.size w w' := by
  have HB : Hid (Below w.heap.size w w) := Below.refl _ _
  go_enter Tryz.func24, Tryz.ntmps24
  go_wp2_with fail
  go_loopw [5] (fun i wr => i = .int .i64 0 ∧ wr = w) (fun _ _ => 0)
  case atStart => exact ⟨rfl, rfl⟩
  case round =>
    obtain ⟨rfl, rfl⟩ := hrel
    go_wp2_with fail
    go_ret
    exact ⟨rfl, HB.out⟩

set_option maxRecDepth 10000 in
set_option maxHeartbeats 1600000 in
theorem markStoreN (base : Nat) (a : Option Addr) (n ca : Nat) (X : List ByteArray) (a' : Option Addr) (n' ca' : Nat) (Y : List ByteArray) (ep nx : Int) (ua : Option Addr) (uc : Nat) (k : Nat) (w : World) (h : StoAt w base a n ca X a' n' ca' Y ua 0 uc []) (hn : n ≤ 2097152) (hn' : n' ≤ 2097152) (hk : k ≤ 1073741824) (hi : Nat) (hwi : StoIn a a' ua [] hi) (hhi : hi ≤ w.heap.size) :
    Calls Tryz.prog 74 #[.agg #[.slice a n ca, .slice a' n' ca', .int .i64 ep, .int .i64 nx, .slice ua 0 uc], .int .i64 (k : Int)] w fun r w' => r = .returned (.int .i64 ((k + n + n' : Nat) : Int)) ∧ StoMkd w' base k a n ca a' n' ca' ua 0 uc [] ∧ KeptS w w' ∧ Within w w' base hi := by
  have HHi : Hid (StoIn a a' ua [] hi ∧ hi ≤ w.heap.size) := ⟨hwi, hhi⟩
  clear hwi hhi
  have HS : Hid (StoAt w base a n ca X a' n' ca' Y ua 0 uc []) := h
  clear h
  have HA : Hid (BoxN (w.alloc (.cells #[.slice a n ca, .slice a' n' ca', .int .i64 ep, .int .i64 nx, .slice ua 0 uc] 29)) w.heap.size 29 [.slice a n ca, .slice a' n' ca', .int .i64 ep, .int .i64 nx, .slice ua 0 uc]) := BoxN.new _ _ _
  have HB : Hid (Below w.heap.size w (w.alloc (.cells #[.slice a n ca, .slice a' n' ca', .int .i64 ep, .int .i64 nx, .slice ua 0 uc] 29))) := (Below.refl _ _).alloc (Nat.le_refl _) _
  go_enter Tryz.func74, Tryz.ntmps74
  go_wp2_with fail
  obtain ⟨w0, hw0⟩ : ∃ w0, w.alloc (.cells #[.slice a n ca, .slice a' n' ca', .int .i64 ep, .int .i64 nx, .slice ua 0 uc] 29) = w0 := ⟨_, rfl⟩
  rw [hw0] at HA HB ⊢
  clear hw0
  have HS0 : Hid (StoAt w0 base a n ca X a' n' ca' Y ua 0 uc []) := HS.out.stays HB.out
  refine (markDisk_any base a n ca X a' n' ca' Y k w0 HS0.out.now HS0.out.sure HS0.out.apart (by omega) (by omega) hk).mono ?_
  rintro _ x1 ⟨rfl, ho1, ho2, h2⟩
  have HKp : Hid (KeptS w0 x1) := fun t ht => by
    obtain ⟨y, g1, g2⟩ := h2
    have hy2 : OwnSt y base (.slice a' n' ca') n' Y := HS0.out.sure.kept g1 (fun q hq hq2 => by rw [blk_own] at hq2; exact HS0.out.apart q hq hq2)
    have k1 : KeptE t w0 y := keptE_grown (v := .slice a n ca) (by rw [ownBlock_sU]; exact g1) HS0.out.now.1 (Ne.symm ht)
    have k2 : KeptE t y x1 := keptE_grown (v := .slice a' n' ca') (by rw [ownBlock_sU]; exact g2) hy2.1 (Ne.symm ht)
    exact k1.trans k2
  have hU1 : UpRow x1 base (.slice ua 0 uc) [] := by
    obtain ⟨y, g1, g2⟩ := h2
    have hy := HS0.out.ups.keptS HS0.out.now g1
    have hy2 : OwnSt y base (.slice a' n' ca') n' Y := HS0.out.sure.kept g1 (fun q hq hq2 => by rw [blk_own] at hq2; exact HS0.out.apart q hq hq2)
    exact hy.keptS hy2 g2
  have hW1 : Within w x1 base hi := by
    obtain ⟨y, g1, g2⟩ := h2
    exact ((within_below HB.out).trans (within_grown g1 (fun q hq => ⟨(HS0.out.now.lt q (by rw [blk_own]; exact hq)).1, HHi.out.1.1 q hq⟩))).trans (within_grown g2 (fun q hq => ⟨(HS0.out.sure.lt q (by rw [blk_own]; exact hq)).1, HHi.out.1.2.1 q hq⟩))
  have hA1 : BoxN x1 w.heap.size 29 [.slice a n ca, .slice a' n' ca', .int .i64 ep, .int .i64 nx, .slice ua 0 uc] := HKp.out _ (by decide) _ _ _ HA.out
  have c4 := hA1.cell 4 rfl
  have HM1 : Hid (StoMkd x1 base k a n ca a' n' ca' ua 0 uc [] ∧ KeptS w x1 ∧ Within w x1 base hi) := ⟨⟨ho1, ho2, HS.out.apart, hU1, rfl⟩, fun t ht => (keptE_below HB.out).trans (HKp.out t ht), hW1⟩
  obtain ⟨K, hK⟩ : ∃ K, ((k + n + n' : Nat) : Int) = K := ⟨_, rfl⟩
  have HKe : Hid (((k + n + n' : Nat) : Int) = K) := hK
  rw [hK]
  clear hK ho1 ho2 h2 hU1 hA1 hW1 HKp HA HB HS0
  go_wp2_with fail
  refine (markUpS_zero ua uc K x1).mono ?_
  rintro _ x2 ⟨rfl, hb2⟩
  have HR : Hid (StoMkd x2 base k a n ca a' n' ca' ua 0 uc [] ∧ KeptS w x2 ∧ Within w x2 base hi) := ⟨StoAt.stays HM1.out.1 hb2, fun t ht => (HM1.out.2.1 t ht).trans (keptE_below hb2), HM1.out.2.2.trans (within_below hb2)⟩
  clear hb2
  go_wp2_with fail
  go_ret
  exact ⟨ret_i64 (by rw [HKe.out]), HR.out.1, HR.out.2.1, HR.out.2.2⟩

set_option maxRecDepth 10000 in
set_option maxHeartbeats 1600000 in
theorem markServerN (ha : Option Addr) (hc base : Nat) (a : Option Addr) (n ca : Nat) (X : List ByteArray) (a' : Option Addr) (n' ca' : Nat) (Y : List ByteArray) (ep nx : Int) (ua : Option Addr) (uc : Nat) (k : Nat) (w : World) (h : StoAt w base a n ca X a' n' ca' Y ua 0 uc []) (hn : n ≤ 2097152) (hn' : n' ≤ 2097152) (hk : k ≤ 1073741824) (hi : Nat) (hwi : StoIn a a' ua [] hi) (hhi : hi ≤ w.heap.size) :
    Calls Tryz.prog 30 #[.agg #[.slice a n ca, .slice a' n' ca', .int .i64 ep, .int .i64 nx, .slice ua 0 uc, .slice ha 0 hc], .int .i64 (k : Int)] w fun r w' => r = .returned (.int .i64 ((k + n + n' : Nat) : Int)) ∧ StoMkd w' base k a n ca a' n' ca' ua 0 uc [] ∧ KeptS w w' ∧ Within w w' base hi := by
  have HHi : Hid (StoIn a a' ua [] hi ∧ hi ≤ w.heap.size) := ⟨hwi, hhi⟩
  clear hwi hhi
  have HS : Hid (StoAt w base a n ca X a' n' ca' Y ua 0 uc []) := h
  clear h
  have HA : Hid (BoxN (w.alloc (.cells #[.slice a n ca, .slice a' n' ca', .int .i64 ep, .int .i64 nx, .slice ua 0 uc, .slice ha 0 hc] 32)) w.heap.size 32 [.slice a n ca, .slice a' n' ca', .int .i64 ep, .int .i64 nx, .slice ua 0 uc, .slice ha 0 hc]) := BoxN.new _ _ _
  have HB : Hid (Below w.heap.size w (w.alloc (.cells #[.slice a n ca, .slice a' n' ca', .int .i64 ep, .int .i64 nx, .slice ua 0 uc, .slice ha 0 hc] 32))) := (Below.refl _ _).alloc (Nat.le_refl _) _
  obtain ⟨x0, x1, x2, x3, x4⟩ := (show _ ∧ _ ∧ _ ∧ _ ∧ _ from ⟨HA.out.cell 0 rfl, HA.out.cell 1 rfl, HA.out.cell 2 rfl, HA.out.cell 3 rfl, HA.out.cell 4 rfl⟩)
  go_enter Tryz.func30, Tryz.ntmps30
  go_wp2_with fail
  obtain ⟨w0, hw0⟩ : ∃ w0, w.alloc (.cells #[.slice a n ca, .slice a' n' ca', .int .i64 ep, .int .i64 nx, .slice ua 0 uc, .slice ha 0 hc] 32) = w0 := ⟨_, rfl⟩
  rw [hw0] at HA HB ⊢
  clear hw0 x0 x1 x2 x3 x4
  refine (markStoreN base a n ca X a' n' ca' Y ep nx ua uc k w0 (HS.out.stays HB.out) hn hn' hk hi HHi.out.1 (Nat.le_trans HHi.out.2 HB.out.size)).mono ?_
  rintro _ W1 ⟨rfl, hm1, hk1, hw1⟩
  have hb1 : BoxN W1 w.heap.size 32 [.slice a n ca, .slice a' n' ca', .int .i64 ep, .int .i64 nx, .slice ua 0 uc, .slice ha 0 hc] := hk1 _ (by decide) _ _ _ HA.out
  have HM : Hid (StoMkd W1 base k a n ca a' n' ca' ua 0 uc [] ∧ KeptS w W1 ∧ Within w W1 base hi) := ⟨hm1, fun t ht => (keptE_below HB.out).trans (hk1 t ht), (within_below HB.out).trans hw1⟩
  have c5 := hb1.cell 5 rfl
  obtain ⟨E, hE⟩ : ∃ E, ((k + n + n' : Nat) : Int) = E := ⟨_, rfl⟩
  have HEe : Hid (((k + n + n' : Nat) : Int) = E) := hE
  rw [hE]
  clear hE hm1 hk1 hw1 hb1
  go_wp2_with fail
  refine (markHS_zero ha hc E W1).mono ?_
  rintro _ W2 ⟨rfl, hb2⟩
  have HM2 : Hid (StoMkd W2 base k a n ca a' n' ca' ua 0 uc [] ∧ KeptS w W2 ∧ Within w W2 base hi) := ⟨StoAt.stays HM.out.1 hb2, fun t ht => (HM.out.2.1 t ht).trans (keptE_below hb2), HM.out.2.2.trans (within_below hb2)⟩
  clear hb2
  go_wp2_with fail
  go_ret
  exact ⟨ret_i64 (by rw [HEe.out]), HM2.out.1, HM2.out.2.1, HM2.out.2.2⟩

end Go.Proofs.YtemcjenpgdieoaaGreatDoor
