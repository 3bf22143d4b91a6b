/- A server of the laws: its copy. Servers that say the same are the same to the laws. The exact law of ServerOk, under its table and its error. -/
import Derived.Test.YtogopmngbjkcjavGreatDoorM29
import Derived.Test.YtogopmngbjkcjavGreatDoorM31
import Derived.Test.YtogopmngbjkcjavGreatDoorS01
import Derived.Test.YtogopmngbjkcjavGreatDoorM30
import Derived.Test.YtogopmngbjkcjavGreatDoorM27
import Derived.Deep.RegionHeld3
namespace Go.Proofs.YtogopmngbjkcjavGreatDoor
open Go.RowKit
set_option linter.unusedVariables false

theorem own_setH {w : World} {base n size : Nat} {e : TypeId} {v : Value} {xs : List Value} (h : w.ownsRow base e size v n xs) {b : Nat} (hb : v.ownBlock ≠ some b) (k : Nat) (u : Value) : (w.setCell ⟨b, k, none⟩ u).ownsRow base e size v n xs := by
  refine ⟨h.1, ?_⟩
  rcases h.2 with h0 | ⟨g, cap, cur, rfl, hg, hc, h3, h4, h5, h6⟩
  · exact .inl h0
  · refine .inr ⟨g, cap, cur, rfl, hg, ?_, h3, h4, h5, h6⟩
    have hne : g ≠ b := fun e => hb (by simp [Value.ownBlock, e])
    exact (set_block_ne w g b k u hne).trans hc

/-- A cell of a block below the row's bound. -/
theorem OwnH.setLow {W : World} {base b i n cap : Nat} {a : Option Addr} {l : List Hd} (h : OwnH W base a n cap l) (hb : b < base) (u : Value) : OwnH (W.setCell ⟨b, i, none⟩ u) base a n cap l := by
  refine ⟨own_setH h.1 (fun e => ?_) _ _, h.2⟩
  have := (h.1.lt b e).1
  omega

set_option maxRecDepth 10000 in
set_option maxHeartbeats 3200000 in
theorem toServer_any (a : Option Addr) (n ca : Nat) (X : List ByteArray) (a' : Option Addr) (n' ca' : Nat) (Y : List ByteArray) (ep nx : Int) (ua : Option Addr) (un uc : Nat) (l : List UE) (ha : Option Addr) (hn hc : Nat) (hs : List Hd) (w : World) (h1 : Strs w a n X) (h2 : Strs w a' n' Y) (hu : UpsI w ua un l) (hh : Helds w ha hn hs) (hsz : SzS n X n' Y un l) (hhn : hn ≤ 1048576) :
    Calls Tryz.prog 9 #[.agg #[.slice a n ca, .slice a' n' ca', .int .i64 ep, .int .i64 nx, .slice ua un uc, .slice ha hn hc]] w fun r w' => (∃ g g' gu l' gh, r = .returned (.agg #[.slice (some ⟨g, 0, none⟩) n n, .slice (some ⟨g', 0, none⟩) n' n', .int .i64 ep, .int .i64 nx, .slice (some ⟨gu, 0, none⟩) un un, .slice (some ⟨gh, 0, none⟩) hn hn]) ∧ StoAt w' w.heap.size (some ⟨g, 0, none⟩) n n X (some ⟨g', 0, none⟩) n' n' Y (some ⟨gu, 0, none⟩) un un l' ∧ OwnH w' w.heap.size (some ⟨gh, 0, none⟩) hn hn hs ∧ l'.map UE.u = l.map UE.u ∧ ∀ e ∈ l', e.n ≤ 1048576) ∧ Below w.heap.size w w' := by
  have HX : Hid (∀ W, Below w.heap.size w W → Strs W a n X ∧ Strs W a' n' Y ∧ UpsI W ua un l ∧ Helds W ha hn hs) := fun W h => ⟨h1.below h, h2.below h, hu.below h, hh.below h⟩
  have HS : Hid (SzS n X n' Y un l) := hsz
  clear h1 h2 hu hh hsz
  obtain ⟨W0, hW0⟩ : ∃ W0, ((w.alloc (.cells #[.slice a n ca, .slice a' n' ca', .int .i64 ep, .int .i64 nx, .slice ua un uc, .slice ha hn hc] 30)).alloc (.cells #[.slice none 0 0, .slice none 0 0, .int .i64 0, .int .i64 0, .slice none 0 0, .slice none 0 0] 39)).alloc (.cells #[.slice none 0 0, .slice none 0 0, .int .i64 0, .int .i64 0, .slice none 0 0, .slice none 0 0] 39) = W0 := ⟨_, rfl⟩
  have HE : Hid (((w.alloc (.cells #[.slice a n ca, .slice a' n' ca', .int .i64 ep, .int .i64 nx, .slice ua un uc, .slice ha hn hc] 30)).alloc (.cells #[.slice none 0 0, .slice none 0 0, .int .i64 0, .int .i64 0, .slice none 0 0, .slice none 0 0] 39)).alloc (.cells #[.slice none 0 0, .slice none 0 0, .int .i64 0, .int .i64 0, .slice none 0 0, .slice none 0 0] 39) = W0) := hW0
  have HB : Hid (Below w.heap.size w W0) := by show Below _ _ _; rw [← hW0]; exact (((Below.refl _ _).alloc (Nat.le_refl _) _).alloc (by simp) _).alloc (by simp; omega) _
  have HI : Hid (BoxN W0 w.heap.size 30 [.slice a n ca, .slice a' n' ca', .int .i64 ep, .int .i64 nx, .slice ua un uc, .slice ha hn hc]) := by show BoxN _ _ _ _; rw [← hW0]; exact ((BoxN.new _ _ _).alloc _).alloc _
  have HR : Hid (BoxN W0 (w.heap.size + 1) 39 [.slice none 0 0, .slice none 0 0, .int .i64 0, .int .i64 0, .slice none 0 0, .slice none 0 0]) := by
    show BoxN _ _ _ _
    rw [← hW0]
    have := (BoxN.new (w.alloc (.cells #[.slice a n ca, .slice a' n' ca', .int .i64 ep, .int .i64 nx, .slice ua un uc, .slice ha hn hc] 30)) 39 [.slice none 0 0, .slice none 0 0, .int .i64 0, .int .i64 0, .slice none 0 0, .slice none 0 0]).alloc (.cells #[.slice none 0 0, .slice none 0 0, .int .i64 0, .int .i64 0, .slice none 0 0, .slice none 0 0] 39)
    rw [World.size_alloc] at this
    exact this
  have HO : Hid (BoxN W0 (w.heap.size + 1 + 1) 39 [.slice none 0 0, .slice none 0 0, .int .i64 0, .int .i64 0, .slice none 0 0, .slice none 0 0]) := by
    show BoxN _ _ _ _
    rw [← hW0]
    have := BoxN.new ((w.alloc (.cells #[.slice a n ca, .slice a' n' ca', .int .i64 ep, .int .i64 nx, .slice ua un uc, .slice ha hn hc] 30)).alloc (.cells #[.slice none 0 0, .slice none 0 0, .int .i64 0, .int .i64 0, .slice none 0 0, .slice none 0 0] 39)) 39 [.slice none 0 0, .slice none 0 0, .int .i64 0, .int .i64 0, .slice none 0 0, .slice none 0 0]
    rw [World.size_alloc, World.size_alloc] at this
    exact this
  clear hW0
  obtain ⟨c0, c1, c2, c3, c4, c5⟩ := (show _ ∧ _ ∧ _ ∧ _ ∧ _ ∧ _ from ⟨BoxN.cell HI.out 0 rfl, BoxN.cell HI.out 1 rfl, BoxN.cell HI.out 2 rfl, BoxN.cell HI.out 3 rfl, BoxN.cell HI.out 4 rfl, BoxN.cell HI.out 5 rfl⟩)
  go_enter Tryz.func9, Tryz.ntmps9
  go_upto_region 2 with fail
  rw [HE.out]
  clear HE
  go_wp2_with fail
  refine (toStore_any a n ca X a' n' ca' Y ep nx ua un uc l W0 (HX.out _ HB.out).1 (HX.out _ HB.out).2.1 (HX.out _ HB.out).2.2.1 HS.out).mono ?_
  rintro _ x1 ⟨⟨g, g', gu, l', rfl, hst, hlm, hl10⟩, hb1⟩
  have hi1 := HI.out.stays hb1
  have hr1 := HR.out.stays hb1
  have ho1 := HO.out.stays hb1
  have hlt : w.heap.size + 1 + 1 < W0.heap.size := HO.out.lt
  obtain ⟨x2, hx2⟩ : ∃ x2, (((((x1.setCell ⟨w.heap.size + 1 + 1, 0, none⟩ (.slice (some ⟨g, 0, none⟩) n n)).setCell ⟨w.heap.size + 1 + 1, 1, none⟩ (.slice (some ⟨g', 0, none⟩) n' n')).setCell ⟨w.heap.size + 1 + 1, 2, none⟩ (.int .i64 ep)).setCell ⟨w.heap.size + 1 + 1, 3, none⟩ (.int .i64 nx)).setCell ⟨w.heap.size + 1 + 1, 4, none⟩ (.slice (some ⟨gu, 0, none⟩) un un)) = x2 := ⟨_, rfl⟩
  have HE2 : Hid ((((((x1.setCell ⟨w.heap.size + 1 + 1, 0, none⟩ (.slice (some ⟨g, 0, none⟩) n n)).setCell ⟨w.heap.size + 1 + 1, 1, none⟩ (.slice (some ⟨g', 0, none⟩) n' n')).setCell ⟨w.heap.size + 1 + 1, 2, none⟩ (.int .i64 ep)).setCell ⟨w.heap.size + 1 + 1, 3, none⟩ (.int .i64 nx)).setCell ⟨w.heap.size + 1 + 1, 4, none⟩ (.slice (some ⟨gu, 0, none⟩) un un)) = x2) := hx2
  have HI2 : Hid (BoxN x2 w.heap.size 30 [.slice a n ca, .slice a' n' ca', .int .i64 ep, .int .i64 nx, .slice ua un uc, .slice ha hn hc]) := by show BoxN _ _ _ _; rw [← hx2]; exact (((((hi1.other (by omega) _).other (by omega) _).other (by omega) _).other (by omega) _).other (by omega) _)
  have HR2 : Hid (BoxN x2 (w.heap.size + 1) 39 [.slice none 0 0, .slice none 0 0, .int .i64 0, .int .i64 0, .slice none 0 0, .slice none 0 0]) := by show BoxN _ _ _ _; rw [← hx2]; exact (((((hr1.other (by omega) _).other (by omega) _).other (by omega) _).other (by omega) _).other (by omega) _)
  have HO2 : Hid (BoxN x2 (w.heap.size + 1 + 1) 39 [.slice (some ⟨g, 0, none⟩) n n, .slice (some ⟨g', 0, none⟩) n' n', .int .i64 ep, .int .i64 nx, .slice (some ⟨gu, 0, none⟩) un un, .slice none 0 0]) := by show BoxN _ _ _ _; rw [← hx2]; exact ((((ho1.set 0 _).set 1 _).set 2 _).set 3 _).set 4 _
  have HS2 : Hid (StoAt x2 W0.heap.size (some ⟨g, 0, none⟩) n n X (some ⟨g', 0, none⟩) n' n' Y (some ⟨gu, 0, none⟩) un un l') := by show StoAt _ _ _ _ _ _ _ _ _ _ _ _ _ _; rw [← hx2]; exact ((((hst.setLow hlt _).setLow hlt _).setLow hlt _).setLow hlt _).setLow hlt _
  have HB2 : Hid (Below w.heap.size w x2) := by
    show Below _ _ _
    rw [← hx2]
    exact (((((HB.out.trans (hb1.mono HB.out.size)).setCell (by dsimp only; omega) _).setCell (by dsimp only; omega) _).setCell (by dsimp only; omega) _).setCell (by dsimp only; omega) _).setCell (by dsimp only; omega) _
  have hsz2 : W0.heap.size ≤ x2.heap.size := by
    have h1 := hb1.size
    have h2 : x2.heap.size = x1.heap.size := by rw [← hx2]; simp
    omega
  have HL0 : Hid (w.heap.size + 1 + 1 < W0.heap.size) := hlt
  have HLm : Hid (l'.map UE.u = l.map UE.u ∧ ∀ e ∈ l', e.n ≤ 1048576) := ⟨hlm, hl10⟩
  obtain ⟨o0, o1, o2, o3, o4, o5⟩ := (show _ ∧ _ ∧ _ ∧ _ ∧ _ ∧ _ from ⟨BoxN.cell ho1 0 rfl, BoxN.cell ho1 1 rfl, BoxN.cell ho1 2 rfl, BoxN.cell ho1 3 rfl, BoxN.cell ho1 4 rfl, BoxN.cell ho1 5 rfl⟩)
  obtain ⟨f0, f1, f2, f3, f4, f5⟩ := (show _ ∧ _ ∧ _ ∧ _ ∧ _ ∧ _ from ⟨BoxN.frozen ho1 0, BoxN.frozen ho1 1, BoxN.frozen ho1 2, BoxN.frozen ho1 3, BoxN.frozen ho1 4, BoxN.frozen ho1 5⟩)
  have c5 := BoxN.cell hi1 5 rfl
  clear hx2 hi1 hr1 ho1 hst hlm hl10 hb1 HI HR HO HB HS c0 c1 c2 c3 c4 hlt
  have hlt2 : w.heap.size + 1 + 1 < x2.heap.size := HO2.out.lt
  go_upto_region 3 with fail
  rw [HE2.out]
  clear HE2 o0 o1 o2 o3 o4 o5 f0 f1 f2 f3 f4 f5 c5
  have c5 := BoxN.cell HI2.out 5 rfl
  go_wp2_with fail
  refine (toHeldS_own ha hn hc hs x2 (HX.out _ HB2.out).2.2.2 hhn).mono ?_
  rintro _ x3 ⟨rfl, hoh, hb3⟩
  obtain ⟨gh, hgh⟩ : ∃ gh, x2.heap.size = gh := ⟨_, rfl⟩
  rw [hgh] at hoh hlt2 hsz2 ⊢
  clear hgh
  have ho3 := HO2.out.stays hb3
  have hr3 := HR2.out.stays hb3
  have HB3 : Hid (Below w.heap.size w x3) := HB2.out.trans (hb3.mono HB2.out.size)
  obtain ⟨x4, hx4⟩ : ∃ x4, (x3.setCell ⟨w.heap.size + 1 + 1, 5, none⟩ (.slice (some ⟨gh, 0, none⟩) hn hn)) = x4 := ⟨_, rfl⟩
  have HE4 : Hid ((x3.setCell ⟨w.heap.size + 1 + 1, 5, none⟩ (.slice (some ⟨gh, 0, none⟩) hn hn)) = x4) := hx4
  have HO4 : Hid (BoxN x4 (w.heap.size + 1 + 1) 39 [.slice (some ⟨g, 0, none⟩) n n, .slice (some ⟨g', 0, none⟩) n' n', .int .i64 ep, .int .i64 nx, .slice (some ⟨gu, 0, none⟩) un un, .slice (some ⟨gh, 0, none⟩) hn hn]) := by show BoxN _ _ _ _; rw [← hx4]; exact ho3.set 5 _
  have HR4 : Hid (BoxN x4 (w.heap.size + 1) 39 [.slice none 0 0, .slice none 0 0, .int .i64 0, .int .i64 0, .slice none 0 0, .slice none 0 0]) := by show BoxN _ _ _ _; rw [← hx4]; exact hr3.other (by omega) _
  have HS4 : Hid (StoAt x4 W0.heap.size (some ⟨g, 0, none⟩) n n X (some ⟨g', 0, none⟩) n' n' Y (some ⟨gu, 0, none⟩) un un l') := by show StoAt _ _ _ _ _ _ _ _ _ _ _ _ _ _; rw [← hx4]; exact (HS2.out.stays hb3).setLow (by have := HL0.out; omega) _
  have HH4 : Hid (OwnH x4 gh (some ⟨gh, 0, none⟩) hn hn hs) := by show OwnH _ _ _ _ _ _; rw [← hx4]; exact hoh.setLow (by omega) _
  have HB4 : Hid (Below w.heap.size w x4) := by show Below _ _ _; rw [← hx4]; exact HB3.out.setCell (by dsimp only; omega) _
  have p5 := BoxN.cell ho3 5 rfl
  have q5 := BoxN.frozen ho3 5
  clear hx4 ho3 hr3 hoh hb3 HB3 HI2 HR2 HO2 HS2 HB2 c5
  go_upto_region 4 with fail
  rw [HE4.out]
  clear HE4 p5 q5
  obtain ⟨c0, c1, c2, c3, c4, c5⟩ := (show _ ∧ _ ∧ _ ∧ _ ∧ _ ∧ _ from ⟨BoxN.cell HO4.out 0 rfl, BoxN.cell HO4.out 1 rfl, BoxN.cell HO4.out 2 rfl, BoxN.cell HO4.out 3 rfl, BoxN.cell HO4.out 4 rfl, BoxN.cell HO4.out 5 rfl⟩)
  obtain ⟨r0, r1, r2, r3, r4, r5⟩ := (show _ ∧ _ ∧ _ ∧ _ ∧ _ ∧ _ from ⟨BoxN.cell HR4.out 0 rfl, BoxN.cell HR4.out 1 rfl, BoxN.cell HR4.out 2 rfl, BoxN.cell HR4.out 3 rfl, BoxN.cell HR4.out 4 rfl, BoxN.cell HR4.out 5 rfl⟩)
  obtain ⟨f0, f1, f2, f3, f4, f5⟩ := (show _ ∧ _ ∧ _ ∧ _ ∧ _ ∧ _ from ⟨BoxN.frozen HR4.out 0, BoxN.frozen HR4.out 1, BoxN.frozen HR4.out 2, BoxN.frozen HR4.out 3, BoxN.frozen HR4.out 4, BoxN.frozen HR4.out 5⟩)
  have hL0 := HL0.out
  go_wp2_with fail
  refine bodyPost_ret (v := .agg #[.slice (some ⟨g, 0, none⟩) n n, .slice (some ⟨g', 0, none⟩) n' n', .int .i64 ep, .int .i64 nx, .slice (some ⟨gu, 0, none⟩) un un, .slice (some ⟨gh, 0, none⟩) hn hn]) (by simp [results, Tryz.f9, go_sem, r0, r1, r2, r3, r4, r5]) rfl ?_
  refine ⟨⟨g, g', gu, l', gh, rfl, ((((((HS4.out.setLow (by omega) _).setLow (by omega) _).setLow (by omega) _).setLow (by omega) _).setLow (by omega) _).setLow (by omega) _).low (by omega), ((((((HH4.out.setLow (by omega) _).setLow (by omega) _).setLow (by omega) _).setLow (by omega) _).setLow (by omega) _).setLow (by omega) _).low (by omega), HLm.out.1, HLm.out.2⟩, ?_⟩
  exact ((((((HB4.out.setCell (by dsimp only; omega) _).setCell (by dsimp only; omega) _).setCell (by dsimp only; omega) _).setCell (by dsimp only; omega) _).setCell (by dsimp only; omega) _).setCell (by dsimp only; omega) _)

end Go.Proofs.YtogopmngbjkcjavGreatDoor

namespace Go.Proofs.YtogopmngbjkcjavGreatDoor
open Go.RowKit
set_option linter.unusedVariables false

set_option maxRecDepth 10000 in
set_option maxHeartbeats 1600000 in
theorem eqServer_same (a b : Option Addr) (n ca cb : Nat) (X : List ByteArray) (a' b' : Option Addr) (n' ca' cb' : Nat) (Y : List ByteArray) (ep nx : Int) (ua : Option Addr) (un uc lo : Nat) (l : List UE) (va : Option Addr) (vn vc lo' : Nat) (l' : List UE) (ha hb_ : Option Addr) (hm hc hd : Nat) (hs : List Hd) (w : World) (h1 : StoAt w lo a n ca X a' n' ca' Y ua un uc l) (h2 : StoAt w lo' b n cb X b' n' cb' Y va vn vc l') (he : l.map UE.u = l'.map UE.u) (hn : n ≤ 1099511627776) (hn' : n' ≤ 1099511627776) (hul : un ≤ 1099511627776) (hz : ∀ e ∈ l, e.n ≤ 1099511627776) (k1 : Helds w ha hm hs) (k2 : Helds w hb_ hm hs) (khm : hm ≤ 1099511627776) :
    Calls Tryz.prog 11 #[.agg #[.slice a n ca, .slice a' n' ca', .int .i64 ep, .int .i64 nx, .slice ua un uc, .slice ha hm hc], .agg #[.slice b n cb, .slice b' n' cb', .int .i64 ep, .int .i64 nx, .slice va vn vc, .slice hb_ hm hd]] w fun r w' => r = .returned (.bool true) ∧ Below w.heap.size w w' := by
  obtain ⟨w0, hw0⟩ : ∃ w0, (w.alloc (.cells #[.slice a n ca, .slice a' n' ca', .int .i64 ep, .int .i64 nx, .slice ua un uc, .slice ha hm hc] 39)).alloc (.cells #[.slice b n cb, .slice b' n' cb', .int .i64 ep, .int .i64 nx, .slice va vn vc, .slice hb_ hm hd] 39) = w0 := ⟨_, rfl⟩
  have HE : Hid ((w.alloc (.cells #[.slice a n ca, .slice a' n' ca', .int .i64 ep, .int .i64 nx, .slice ua un uc, .slice ha hm hc] 39)).alloc (.cells #[.slice b n cb, .slice b' n' cb', .int .i64 ep, .int .i64 nx, .slice va vn vc, .slice hb_ hm hd] 39) = w0) := hw0
  have HB : Hid (Below w.heap.size w w0) := by show Below _ _ _; rw [← hw0]; exact ((Below.refl _ _).alloc (Nat.le_refl _) _).alloc (by simp) _
  have HP : Hid (BoxN w0 w.heap.size 39 [.slice a n ca, .slice a' n' ca', .int .i64 ep, .int .i64 nx, .slice ua un uc, .slice ha hm hc]) := by show BoxN _ _ _ _; rw [← hw0]; exact (BoxN.new _ _ _).alloc _
  have HQ : Hid (BoxN w0 (w.heap.size + 1) 39 [.slice b n cb, .slice b' n' cb', .int .i64 ep, .int .i64 nx, .slice va vn vc, .slice hb_ hm hd]) := by
    show BoxN _ _ _ _
    rw [← hw0]
    have := BoxN.new (w.alloc (.cells #[.slice a n ca, .slice a' n' ca', .int .i64 ep, .int .i64 nx, .slice ua un uc, .slice ha hm hc] 39)) 39 [.slice b n cb, .slice b' n' cb', .int .i64 ep, .int .i64 nx, .slice va vn vc, .slice hb_ hm hd]
    rw [World.size_alloc] at this
    exact this
  have HX : Hid (∀ W, Below w0.heap.size w0 W → BoxN W w.heap.size 39 [.slice a n ca, .slice a' n' ca', .int .i64 ep, .int .i64 nx, .slice ua un uc, .slice ha hm hc] ∧ BoxN W (w.heap.size + 1) 39 [.slice b n cb, .slice b' n' cb', .int .i64 ep, .int .i64 nx, .slice va vn vc, .slice hb_ hm hd] ∧ StoAt W lo a n ca X a' n' ca' Y ua un uc l ∧ StoAt W lo' b n cb X b' n' cb' Y va vn vc l' ∧ Below w.heap.size w W ∧ Helds W ha hm hs ∧ Helds W hb_ hm hs) := fun W hb => ⟨HP.out.stays hb, HQ.out.stays hb, (h1.stays HB.out).stays hb, (h2.stays HB.out).stays hb, HB.out.trans (hb.mono HB.out.size), (k1.below HB.out).below hb, (k2.below HB.out).below hb⟩
  have HU : Hid (l.map UE.u = l'.map UE.u ∧ ∀ e ∈ l, e.n ≤ 1099511627776) := ⟨he, hz⟩
  clear hw0 HB HP HQ h1 h2 he hz k1 k2
  have HA0 : Hid (Below w0.heap.size w0 w0) := Below.refl _ _
  obtain ⟨x0, x1, x2, x3, x4⟩ := (show _ ∧ _ ∧ _ ∧ _ ∧ _ from ⟨(HX.out _ HA0.out).1.cell 0 rfl, (HX.out _ HA0.out).1.cell 1 rfl, (HX.out _ HA0.out).1.cell 2 rfl, (HX.out _ HA0.out).1.cell 3 rfl, (HX.out _ HA0.out).1.cell 4 rfl⟩)
  obtain ⟨y0, y1, y2, y3, y4⟩ := (show _ ∧ _ ∧ _ ∧ _ ∧ _ from ⟨(HX.out _ HA0.out).2.1.cell 0 rfl, (HX.out _ HA0.out).2.1.cell 1 rfl, (HX.out _ HA0.out).2.1.cell 2 rfl, (HX.out _ HA0.out).2.1.cell 3 rfl, (HX.out _ HA0.out).2.1.cell 4 rfl⟩)
  go_enter Tryz.func11, Tryz.ntmps11
  go_upto_region 1 with fail
  rw [HE.out]
  clear HE
  go_wp2_with fail
  refine (eqStore_same a b n ca cb X a' b' n' ca' cb' Y ep nx ua un uc lo l va vn vc lo' l' w0 (HX.out _ HA0.out).2.2.1.now.strs (HX.out _ HA0.out).2.2.2.1.now.strs (HX.out _ HA0.out).2.2.1.sure.strs (HX.out _ HA0.out).2.2.2.1.sure.strs (HX.out _ HA0.out).2.2.1.ups (HX.out _ HA0.out).2.2.2.1.ups (HX.out _ HA0.out).2.2.1.len (HX.out _ HA0.out).2.2.2.1.len HU.out.1 hn hn' hul HU.out.2).mono ?_
  rintro _ W1 ⟨rfl, hb1⟩
  have HB1 : Hid (Below w0.heap.size w0 W1) := hb1
  clear hb1 x0 x1 x2 x3 x4 y0 y1 y2 y3 y4
  have c5 := (HX.out _ HB1.out).1.cell 5 rfl
  have d5 := (HX.out _ HB1.out).2.1.cell 5 rfl
  go_wp2_with fail
  refine (eqHeldS_same ha hb_ hm hc hd hs W1 (HX.out _ HB1.out).2.2.2.2.2.1 (HX.out _ HB1.out).2.2.2.2.2.2 khm).mono ?_
  rintro _ W2 ⟨rfl, hb2⟩
  have HB2 : Hid (Below w.heap.size w W2) := (HX.out _ (HB1.out.trans (hb2.mono HB1.out.size))).2.2.2.2.1
  clear hb2
  go_wp2_with fail
  go_ret
  exact ⟨rfl, HB2.out⟩

end Go.Proofs.YtogopmngbjkcjavGreatDoor

namespace Go.Proofs.YtogopmngbjkcjavGreatDoor
open Go.RowKit
set_option linter.unusedVariables false

set_option maxRecDepth 10000 in
set_option maxHeartbeats 6400000 in
theorem svOkWalk (a : Option Addr) (n ca : Nat) (X : List ByteArray) (a' : Option Addr) (n' ca' : Nat) (Y : List ByteArray) (ep nx : Int) (ua : Option Addr) (un uc : Nat) (l : List UE) (ha : Option Addr) (hn hc : Nat) (hs : List Hd) (w : World) (hln : n ≤ maxLen) (hln' : n' ≤ maxLen) (hlu : un ≤ maxLen) (hlh : hn ≤ maxLen) (h1 : Strs w a n X) (h2 : Strs w a' n' Y) (hu : UpsI w ua un l) (hh : Helds w ha hn hs) (ht : RecT w) (he : ErrN w) :
    Calls Tryz.prog 3 #[.agg #[.slice a n ca, .slice a' n' ca', .int .i64 ep, .int .i64 nx, .slice ua un uc, .slice ha hn hc]] w fun e w' => e = .returned (.bool true) ∧ Below w.heap.size w w' := by
  obtain ⟨w0, hw0⟩ : ∃ w0, w.alloc (.cells #[.slice a n ca, .slice a' n' ca', .int .i64 ep, .int .i64 nx, .slice ua un uc, .slice ha hn hc] 30) = w0 := ⟨_, rfl⟩
  have HE : Hid (w.alloc (.cells #[.slice a n ca, .slice a' n' ca', .int .i64 ep, .int .i64 nx, .slice ua un uc, .slice ha hn hc] 30) = w0) := hw0
  have hB : Below w.heap.size w w0 := by rw [← hw0]; exact (Below.refl _ _).alloc (Nat.le_refl _) _
  have hQ : BoxN w0 w.heap.size 30 [.slice a n ca, .slice a' n' ca', .int .i64 ep, .int .i64 nx, .slice ua un uc, .slice ha hn hc] := by rw [← hw0]; exact BoxN.new _ _ _
  have HX : Hid (∀ W, Below w0.heap.size w0 W → BoxN W w.heap.size 30 [.slice a n ca, .slice a' n' ca', .int .i64 ep, .int .i64 nx, .slice ua un uc, .slice ha hn hc] ∧ Strs W a n X ∧ Strs W a' n' Y ∧ UpsI W ua un l ∧ Below w.heap.size w W ∧ Helds W ha hn hs ∧ RecT W ∧ ErrN W) := fun W hb => by
    have hw : Below w.heap.size w W := hB.trans (hb.mono hB.size)
    exact ⟨hQ.stays hb, h1.below hw, h2.below hw, hu.below hw, hw, hh.below hw, ht.below hw, he.below hw⟩
  have HA0 : Hid (Below w0.heap.size w0 w0) := Below.refl _ _
  have HLu : Hid (l.length = un) := hu.1
  clear hw0 h1 h2 hu hB hQ hh ht he
  obtain ⟨c0, c1, c2, c3, c4, c5⟩ := (show _ ∧ _ ∧ _ ∧ _ ∧ _ ∧ _ from ⟨BoxN.cell (HX.out _ HA0.out).1 0 rfl, BoxN.cell (HX.out _ HA0.out).1 1 rfl, BoxN.cell (HX.out _ HA0.out).1 2 rfl, BoxN.cell (HX.out _ HA0.out).1 3 rfl, BoxN.cell (HX.out _ HA0.out).1 4 rfl, BoxN.cell (HX.out _ HA0.out).1 5 rfl⟩)
  go_enter Tryz.func3, Tryz.ntmps3
  go_upto_region 1 with fail
  rw [HE.out]
  clear HE
  go_wp2_with fail
  refine (szServer_any a n ca X a' n' ca' Y ep nx ua un uc l ha hn hc hs w0 (HX.out _ HA0.out).2.1 (HX.out _ HA0.out).2.2.1 (HX.out _ HA0.out).2.2.2.1 hln hln' hlu hlh).mono ?_
  rintro e x0 ⟨⟨L, rfl, hL⟩, hb0⟩
  have HB0 : Hid (Below w0.heap.size w0 x0) := hb0
  clear hb0 c0 c1 c2 c3 c4 c5
  by_cases hneg : L < 0
  · have HBw : Hid (Below w.heap.size w x0) := (HX.out _ HB0.out).2.2.2.2.1
    clear hL
    go_wp2_with fail
    go_ret
    exact ⟨rfl, HBw.out⟩
  have hsz : SzS n X n' Y un l ∧ hn ≤ 1048576 := by
    rcases hL with h | h
    · exact absurd h (by omega)
    · exact ⟨h.1, h.2.1⟩
  have HSz : Hid (SzS n X n' Y un l) := hsz.1
  have hhn : hn ≤ 1048576 := hsz.2
  have hun1 : un ≤ 1048576 := HSz.out.2.2.2.2.1
  have hn01 : n ≤ 1048576 := HSz.out.1
  have hn11 : n' ≤ 1048576 := HSz.out.2.1
  clear hL hsz
  have HTs : Hid (∀ W, Below w0.heap.size w0 W → Calls Tryz.prog 9 #[.agg #[.slice a n ca, .slice a' n' ca', .int .i64 ep, .int .i64 nx, .slice ua un uc, .slice ha hn hc]] W fun r w' => (∃ g g' gu l' gh, r = .returned (.agg #[.slice (some ⟨g, 0, none⟩) n n, .slice (some ⟨g', 0, none⟩) n' n', .int .i64 ep, .int .i64 nx, .slice (some ⟨gu, 0, none⟩) un un, .slice (some ⟨gh, 0, none⟩) hn hn]) ∧ StoAt w' W.heap.size (some ⟨g, 0, none⟩) n n X (some ⟨g', 0, none⟩) n' n' Y (some ⟨gu, 0, none⟩) un un l' ∧ OwnH w' W.heap.size (some ⟨gh, 0, none⟩) hn hn hs ∧ l'.map UE.u = l.map UE.u ∧ ∀ e ∈ l', e.n ≤ 1048576) ∧ Below W.heap.size W w') := fun W hb => toServer_any a n ca X a' n' ca' Y ep nx ua un uc l ha hn hc hs W (HX.out _ hb).2.1 (HX.out _ hb).2.2.1 (HX.out _ hb).2.2.2.1 (HX.out _ hb).2.2.2.2.2.1 HSz.out hhn
  obtain ⟨c0, c1, c2, c3, c4, c5⟩ := (show _ ∧ _ ∧ _ ∧ _ ∧ _ ∧ _ from ⟨BoxN.cell (HX.out _ HB0.out).1 0 rfl, BoxN.cell (HX.out _ HB0.out).1 1 rfl, BoxN.cell (HX.out _ HB0.out).1 2 rfl, BoxN.cell (HX.out _ HB0.out).1 3 rfl, BoxN.cell (HX.out _ HB0.out).1 4 rfl, BoxN.cell (HX.out _ HB0.out).1 5 rfl⟩)
  go_wp2_with fail
  refine (HTs.out _ HB0.out).mono ?_
  rintro e x1 ⟨⟨g1, g1', gu1, l1, gh1, rfl, hs1, ho1, hm1, hz1⟩, hb1⟩
  have HB1 : Hid (Below w0.heap.size w0 x1) := HB0.out.trans (hb1.mono HB0.out.size)
  have HS1 : Hid (StoAt x1 x0.heap.size (some ⟨g1, 0, none⟩) n n X (some ⟨g1', 0, none⟩) n' n' Y (some ⟨gu1, 0, none⟩) un un l1 ∧ OwnH x1 x0.heap.size (some ⟨gh1, 0, none⟩) hn hn hs ∧ l1.map UE.u = l.map UE.u ∧ ∀ e ∈ l1, e.n ≤ 1048576) := ⟨hs1, ho1, hm1, hz1⟩
  clear hs1 ho1 hm1 hz1 hb1 c0 c1 c2 c3 c4 c5
  go_wp2_with fail
  refine (specSvok_any (some ⟨g1, 0, none⟩) n n X (some ⟨g1', 0, none⟩) n' n' Y ep nx (some ⟨gu1, 0, none⟩) un un x0.heap.size l1 (some ⟨gh1, 0, none⟩) hn hn hs x1 HS1.out.1.now.strs HS1.out.1.sure.strs hn01 hn11 HSz.out.2.2.1 HS1.out.1.ups HS1.out.1.len hun1 HS1.out.2.1.helds (by omega)).mono ?_
  rintro e x2 ⟨rfl, hb2⟩
  rw [HS1.out.2.2.1]
  obtain ⟨R, hR⟩ : ∃ R, svB X Y ep nx (l.map UE.u) hs = R := ⟨_, rfl⟩
  have HR : Hid (svB X Y ep nx (l.map UE.u) hs = R) := hR
  rw [hR]
  have HB2 : Hid (Below w0.heap.size w0 x2) := HB1.out.trans (hb2.mono HB1.out.size)
  have hne : (R != R) = false := by simp
  clear hb2 HB1 HS1 hR
  obtain ⟨c0, c1, c2, c3, c4, c5⟩ := (show _ ∧ _ ∧ _ ∧ _ ∧ _ ∧ _ from ⟨BoxN.cell (HX.out _ HB2.out).1 0 rfl, BoxN.cell (HX.out _ HB2.out).1 1 rfl, BoxN.cell (HX.out _ HB2.out).1 2 rfl, BoxN.cell (HX.out _ HB2.out).1 3 rfl, BoxN.cell (HX.out _ HB2.out).1 4 rfl, BoxN.cell (HX.out _ HB2.out).1 5 rfl⟩)
  go_wp2_with fail
  refine (HTs.out _ HB2.out).mono ?_
  rintro e x3 ⟨⟨g3, g3', gu3, l3, gh3, rfl, hs3, ho3, hm3, hz3⟩, hb3⟩
  have hba : Below x3.heap.size x3 (x3.alloc (.cells #[.slice (some ⟨g3, 0, none⟩) n n, .slice (some ⟨g3', 0, none⟩) n' n', .int .i64 ep, .int .i64 nx, .slice (some ⟨gu3, 0, none⟩) un un, .slice (some ⟨gh3, 0, none⟩) hn hn] 39)) := (Below.refl _ _).alloc (Nat.le_refl _) _
  have HT3 : Hid (∀ W, Below (x3.alloc (.cells #[.slice (some ⟨g3, 0, none⟩) n n, .slice (some ⟨g3', 0, none⟩) n' n', .int .i64 ep, .int .i64 nx, .slice (some ⟨gu3, 0, none⟩) un un, .slice (some ⟨gh3, 0, none⟩) hn hn] 39)).heap.size (x3.alloc (.cells #[.slice (some ⟨g3, 0, none⟩) n n, .slice (some ⟨g3', 0, none⟩) n' n', .int .i64 ep, .int .i64 nx, .slice (some ⟨gu3, 0, none⟩) un un, .slice (some ⟨gh3, 0, none⟩) hn hn] 39)) W → Below w0.heap.size w0 W ∧ BoxN W x3.heap.size 39 [.slice (some ⟨g3, 0, none⟩) n n, .slice (some ⟨g3', 0, none⟩) n' n', .int .i64 ep, .int .i64 nx, .slice (some ⟨gu3, 0, none⟩) un un, .slice (some ⟨gh3, 0, none⟩) hn hn] ∧ StoAt W x2.heap.size (some ⟨g3, 0, none⟩) n n X (some ⟨g3', 0, none⟩) n' n' Y (some ⟨gu3, 0, none⟩) un un l3 ∧ OwnH W x2.heap.size (some ⟨gh3, 0, none⟩) hn hn hs) := fun W h => by
    have hy : Below x3.heap.size x3 W := hba.trans (h.mono hba.size)
    exact ⟨HB2.out.trans ((hb3.trans (hy.mono hb3.size)).mono HB2.out.size), (BoxN.new x3 _ _).stays h, hs3.stays hy, ho3.below hy⟩
  have HM3 : Hid (l3.map UE.u = l.map UE.u ∧ (∀ e ∈ l3, e.n ≤ 1048576)) := ⟨hm3, hz3⟩
  clear hs3 ho3 hm3 hz3 hb3 hba c0 c1 c2 c3 c4 c5 HB2
  go_upto_region 7 with fail
  obtain ⟨w3, hw3⟩ : ∃ w3, x3.alloc (.cells #[.slice (some ⟨g3, 0, none⟩) n n, .slice (some ⟨g3', 0, none⟩) n' n', .int .i64 ep, .int .i64 nx, .slice (some ⟨gu3, 0, none⟩) un un, .slice (some ⟨gh3, 0, none⟩) hn hn] 39) = w3 := ⟨_, rfl⟩
  rw [hw3] at HT3 ⊢
  clear hw3
  obtain ⟨bx, hbx⟩ : ∃ bx, x3.heap.size = bx := ⟨_, rfl⟩
  rw [hbx] at HT3 ⊢
  clear hbx
  have HT4 := (show Hid _ from HT3.out _ (Below.refl _ _))
  have HX4 := (show Hid _ from HX.out _ HT4.out.1)
  obtain ⟨d0, d1, d2, d3, d4, d5⟩ := (show _ ∧ _ ∧ _ ∧ _ ∧ _ ∧ _ from ⟨BoxN.cell HT4.out.2.1 0 rfl, BoxN.cell HT4.out.2.1 1 rfl, BoxN.cell HT4.out.2.1 2 rfl, BoxN.cell HT4.out.2.1 3 rfl, BoxN.cell HT4.out.2.1 4 rfl, BoxN.cell HT4.out.2.1 5 rfl⟩)
  go_wp2_with fail
  refine (implSvok_any (some ⟨g3, 0, none⟩) n n X (some ⟨g3', 0, none⟩) n' n' Y ep nx (some ⟨gu3, 0, none⟩) un un x2.heap.size l3 (some ⟨gh3, 0, none⟩) hn hn hs w3 HT4.out.2.2.1.now.strs HT4.out.2.2.1.sure.strs hn01 hn11 HSz.out.2.2.1 HT4.out.2.2.1.ups HT4.out.2.2.1.len hun1 HT4.out.2.2.2.helds (by omega) HT4.out.2.2.1.now.sl HX4.out.2.2.2.2.2.2.1 HX4.out.2.2.2.2.2.2.2).mono ?_
  rintro e x5 ⟨rfl, hb5⟩
  rw [HM3.out.1, HR.out]
  have HF : Hid (∀ W, Below x5.heap.size x5 W → (BoxN W bx 39 [.slice (some ⟨g3, 0, none⟩) n n, .slice (some ⟨g3', 0, none⟩) n' n', .int .i64 ep, .int .i64 nx, .slice (some ⟨gu3, 0, none⟩) un un, .slice (some ⟨gh3, 0, none⟩) hn hn] ∧ StoAt W x2.heap.size (some ⟨g3, 0, none⟩) n n X (some ⟨g3', 0, none⟩) n' n' Y (some ⟨gu3, 0, none⟩) un un l3 ∧ OwnH W x2.heap.size (some ⟨gh3, 0, none⟩) hn hn hs) ∧ BoxN W w.heap.size 30 [.slice a n ca, .slice a' n' ca', .int .i64 ep, .int .i64 nx, .slice ua un uc, .slice ha hn hc] ∧ Below w0.heap.size w0 W ∧ Below w.heap.size w W) := fun W h => by
    have q := HT3.out W (hb5.trans (h.mono hb5.size))
    have r := HX.out W q.1
    exact ⟨q.2, r.1, q.1, r.2.2.2.2.1⟩
  clear hb5 HT3 HT4 HX4 HX HR d0 d1 d2 d3 d4 d5
  have HBd : Hid (Below x5.heap.size x5 x5.drew) := (Below.refl _ _).drew
  have HF0 := (show Hid _ from HF.out _ HBd.out)
  have k0 := BoxN.cell HF0.out.1.1 0 rfl
  have k1 := BoxN.cell HF0.out.1.1 1 rfl
  have k2 := BoxN.cell HF0.out.1.1 2 rfl
  have k3 := BoxN.cell HF0.out.1.1 3 rfl
  have k4 := BoxN.cell HF0.out.1.1 4 rfl
  have k5 := BoxN.cell HF0.out.1.1 5 rfl
  have k6 := BoxN.cell HF0.out.2.1 0 rfl
  have k7 := BoxN.cell HF0.out.2.1 1 rfl
  have k8 := BoxN.cell HF0.out.2.1 2 rfl
  have k9 := BoxN.cell HF0.out.2.1 3 rfl
  have k10 := BoxN.cell HF0.out.2.1 4 rfl
  have k11 := BoxN.cell HF0.out.2.1 5 rfl
  go_upto_region 10 with fail
  go_region_held3 (fun W => W.cell? ⟨bx, 0, none⟩ = some (.slice (some ⟨g3, 0, none⟩) n n) ∧ W.cell? ⟨bx, 1, none⟩ = some (.slice (some ⟨g3', 0, none⟩) n' n') ∧ W.cell? ⟨bx, 2, none⟩ = some (.int .i64 ep) ∧ W.cell? ⟨bx, 3, none⟩ = some (.int .i64 nx) ∧ W.cell? ⟨bx, 4, none⟩ = some (.slice (some ⟨gu3, 0, none⟩) un un) ∧ W.cell? ⟨bx, 5, none⟩ = some (.slice (some ⟨gh3, 0, none⟩) hn hn) ∧ W.cell? ⟨w.heap.size, 0, none⟩ = some (.slice a n ca) ∧ W.cell? ⟨w.heap.size, 1, none⟩ = some (.slice a' n' ca') ∧ W.cell? ⟨w.heap.size, 2, none⟩ = some (.int .i64 ep) ∧ W.cell? ⟨w.heap.size, 3, none⟩ = some (.int .i64 nx) ∧ W.cell? ⟨w.heap.size, 4, none⟩ = some (.slice ua un uc) ∧ W.cell? ⟨w.heap.size, 5, none⟩ = some (.slice ha hn hc)) (first | with_reducible exact ⟨k0, k1, k2, k3, k4, k5, k6, k7, k8, k9, k10, k11⟩ | with_reducible exact ⟨e0, e1, e2, e3, e4, e5, e6, e7, e8, e9, e10, e11⟩ | with_reducible exact ⟨m0, m1, m2, m3, m4, m5, m6, m7, m8, m9, m10, m11⟩ | fail) (first
    | (go_at_call 9; refine (HTs.out x5.drew HF0.out.2.2.1).mono ?_; rintro _ x6 ⟨⟨g6, g6', gu6, l6, gh6, rfl, hs6, ho6, hm6, hz6⟩, hb6⟩
       have HB6 : Hid (Below x5.heap.size x5 x6) := HBd.out.trans (hb6.mono HBd.out.size)
       have HS6 : Hid (StoAt x6 x5.drew.heap.size (some ⟨g6, 0, none⟩) n n X (some ⟨g6', 0, none⟩) n' n' Y (some ⟨gu6, 0, none⟩) un un l6 ∧ OwnH x6 x5.drew.heap.size (some ⟨gh6, 0, none⟩) hn hn hs ∧ l6.map UE.u = l.map UE.u) := ⟨hs6, ho6, hm6⟩
       have HF6 := (show Hid _ from HF.out _ HB6.out)
       have e0 := BoxN.cell HF6.out.1.1 0 rfl
       have e1 := BoxN.cell HF6.out.1.1 1 rfl
       have e2 := BoxN.cell HF6.out.1.1 2 rfl
       have e3 := BoxN.cell HF6.out.1.1 3 rfl
       have e4 := BoxN.cell HF6.out.1.1 4 rfl
       have e5 := BoxN.cell HF6.out.1.1 5 rfl
       have e6 := BoxN.cell HF6.out.2.1 0 rfl
       have e7 := BoxN.cell HF6.out.2.1 1 rfl
       have e8 := BoxN.cell HF6.out.2.1 2 rfl
       have e9 := BoxN.cell HF6.out.2.1 3 rfl
       have e10 := BoxN.cell HF6.out.2.1 4 rfl
       have e11 := BoxN.cell HF6.out.2.1 5 rfl
       clear hs6 ho6 hm6 hz6 hb6)
    | (go_at_call 11; refine (eqServer_same (some ⟨g3, 0, none⟩) (some ⟨g6, 0, none⟩) n n n X (some ⟨g3', 0, none⟩) (some ⟨g6', 0, none⟩) n' n' n' Y ep nx (some ⟨gu3, 0, none⟩) un un x2.heap.size l3 (some ⟨gu6, 0, none⟩) un un x5.drew.heap.size l6 (some ⟨gh3, 0, none⟩) (some ⟨gh6, 0, none⟩) hn hn hn hs x6 HF6.out.1.2.1 HS6.out.1 (by rw [HM3.out.1, HS6.out.2.2]) (by omega) (by omega) (by omega) (fun e he => by have := HM3.out.2 e he; omega) HF6.out.1.2.2.helds HS6.out.2.1.helds (by omega)).mono ?_; rintro _ x7 ⟨rfl, hb7⟩
       have HB7 : Hid (Below x5.heap.size x5 x7) := HB6.out.trans (hb7.mono HB6.out.size)
       have HF7 := (show Hid _ from HF.out _ HB7.out)
       have m0 := BoxN.cell HF7.out.1.1 0 rfl
       have m1 := BoxN.cell HF7.out.1.1 1 rfl
       have m2 := BoxN.cell HF7.out.1.1 2 rfl
       have m3 := BoxN.cell HF7.out.1.1 3 rfl
       have m4 := BoxN.cell HF7.out.1.1 4 rfl
       have m5 := BoxN.cell HF7.out.1.1 5 rfl
       have m6 := BoxN.cell HF7.out.2.1 0 rfl
       have m7 := BoxN.cell HF7.out.2.1 1 rfl
       have m8 := BoxN.cell HF7.out.2.1 2 rfl
       have m9 := BoxN.cell HF7.out.2.1 3 rfl
       have m10 := BoxN.cell HF7.out.2.1 4 rfl
       have m11 := BoxN.cell HF7.out.2.1 5 rfl
       clear hb7)
    | fail)
  have HBw : Hid (Below w.heap.size w x7) := HF7.out.2.2.2
  clear HF HF0 HF6 HF7 HB6 HB7 HS6 HBd HTs
  go_wp2_with fail
  go_ret
  exact ⟨rfl, HBw.out⟩

end Go.Proofs.YtogopmngbjkcjavGreatDoor
