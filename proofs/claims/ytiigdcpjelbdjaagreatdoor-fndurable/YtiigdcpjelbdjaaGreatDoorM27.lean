/- What the program's copy of a store answers. What the program's fold does: what must fit; the upload that must be there. -/
import Derived.Test.YtiigdcpjelbdjaaGreatDoorM05
import Derived.Test.YtiigdcpjelbdjaaGreatDoorM26
import Derived.Test.YtiigdcpjelbdjaaGreatDoorM26
import Derived.Test.YtiigdcpjelbdjaaGreatDoorM05
import Derived.Test.YtiigdcpjelbdjaaGreatDoorM26
import Derived.Test.YtiigdcpjelbdjaaGreatDoorM08
import Derived.Test.YtiigdcpjelbdjaaGreatDoorM04
namespace Go.Proofs.YtiigdcpjelbdjaaGreatDoor
open Go.RowKit
set_option linter.unusedVariables false

set_option maxRecDepth 10000 in
set_option maxHeartbeats 3200000 in
theorem implScopy_any (a : Option Addr) (n ca : Nat) (X : List ByteArray) (a' : Option Addr) (n' ca' : Nat) (Y : List ByteArray) (ep nx : Int) (ua : Option Addr) (un uc lo : Nat) (l : List UE) (w : World) (h1 : Strs w a n X) (h2 : Strs w a' n' Y) (hn : n ≤ 1048576) (hn' : n' ≤ 1048576) (hu : UpRow w lo (.slice ua un uc) l) (hun : un = l.length) (hul : un ≤ 1048576) (hz : ∀ e ∈ l, e.n ≤ 1099511627776) :
    Calls Tryz.prog 15 #[.agg #[.slice a n ca, .slice a' n' ca', .int .i64 ep, .int .i64 nx, .slice ua un uc]] w fun e w' => (∃ v, e = .returned v ∧ AnsS w.heap.size X Y ep nx (l.map UE.u) v w') ∧ Below w.heap.size w w' := by
  have HLn : Hid (un = l.length ∧ ∀ e ∈ l, e.n ≤ 1099511627776) := ⟨hun, hz⟩
  have HLen : Hid (∀ l2 : List UE, l2.map UE.u = l.map UE.u → un = l2.length) := fun l2 h => by have := congrArg List.length h; simp at this; rw [hun, this]
  obtain ⟨W2, hW2⟩ : ∃ W2, (w.alloc (.cells #[.slice a n ca, .slice a' n' ca', .int .i64 ep, .int .i64 nx, .slice ua un uc] 29)).alloc (.cells #[.slice none 0 0, .slice none 0 0, .int .i64 0, .int .i64 0, .slice none 0 0] 29) = W2 := ⟨_, rfl⟩
  have HE : Hid ((w.alloc (.cells #[.slice a n ca, .slice a' n' ca', .int .i64 ep, .int .i64 nx, .slice ua un uc] 29)).alloc (.cells #[.slice none 0 0, .slice none 0 0, .int .i64 0, .int .i64 0, .slice none 0 0] 29) = W2) := hW2
  have HB2 : Hid (Below w.heap.size w W2) := by show Below _ _ _; rw [← hW2]; exact ((Below.refl _ _).alloc (Nat.le_refl _) _).alloc (by simp) _
  have q1 : BoxN W2 w.heap.size 29 [.slice a n ca, .slice a' n' ca', .int .i64 ep, .int .i64 nx, .slice ua un uc] := by rw [← hW2]; exact (BoxN.new _ _ _).alloc _
  have q2 : BoxN W2 (w.heap.size + 1) 29 [.slice none 0 0, .slice none 0 0, .int .i64 0, .int .i64 0, .slice none 0 0] := by
    rw [← hW2]
    have := BoxN.new (w.alloc (.cells #[.slice a n ca, .slice a' n' ca', .int .i64 ep, .int .i64 nx, .slice ua un uc] 29)) 29 [.slice none 0 0, .slice none 0 0, .int .i64 0, .int .i64 0, .slice none 0 0]
    rwa [World.size_alloc] at this
  have HQ : Hid (∀ W, Below W2.heap.size W2 W → BoxN W w.heap.size 29 [.slice a n ca, .slice a' n' ca', .int .i64 ep, .int .i64 nx, .slice ua un uc] ∧ BoxN W (w.heap.size + 1) 29 [.slice none 0 0, .slice none 0 0, .int .i64 0, .int .i64 0, .slice none 0 0]) := fun W h => ⟨q1.stays h, q2.stays h⟩
  have HX : Hid (∀ W, Below W2.heap.size W2 W → Strs W a n X ∧ Strs W a' n' Y ∧ UpRow W lo (.slice ua un uc) l) := fun W h => by
    have hw := HB2.out.trans (h.mono HB2.out.size)
    exact ⟨h1.below hw, h2.below hw, hu.stays hw⟩
  have hs2 : w.heap.size + 1 < W2.heap.size := q2.lt
  clear hW2 q1 q2 h1 h2 hu hun hz
  go_enter Tryz.func15, Tryz.ntmps15
  go_upto_region 1 with fail
  rw [HE.out]
  clear HE
  refine wp_region_grow 11 [Stay.val (.pointer (some ⟨w.heap.size, 0, none⟩)), Stay.val (.agg #[.slice a n ca, .slice a' n' ca']), ⟨fun v W => ∃ A1 C1 A2 C2, v = .agg #[.slice A1 X.length C1, .slice A2 Y.length C2] ∧ OwnSt W W2.heap.size (.slice A1 X.length C1) X.length X ∧ OwnSt W W2.heap.size (.slice A2 Y.length C2) Y.length Y ∧ ∀ q, A1.map (·.block) = some q → A2.map (·.block) ≠ some q, fun ⟨A1, C1, A2, C2, h0, h1, h2, h3⟩ hb => ⟨A1, C1, A2, C2, h0, h1.below hb, h2.below hb, h3⟩⟩, Stay.val (.pointer (some ⟨w.heap.size, 2, none⟩)), Stay.val (.int .i64 ep), Stay.val (.pointer (some ⟨w.heap.size, 3, none⟩)), Stay.val (.int .i64 nx), Stay.val (.pointer (some ⟨w.heap.size, 4, none⟩)), Stay.val (.slice ua un uc), ⟨fun v W => ∃ va vc l2, v = .slice va un vc ∧ UpRow W W2.heap.size (.slice va un vc) l2 ∧ l2.map UE.u = l.map UE.u, fun ⟨va, vc, l2, h0, h1, h2⟩ hb => ⟨va, vc, l2, h0, h1.stays hb, h2⟩⟩, ⟨fun v W => ∃ A1 C1 A2 C2 va vc l2, v = .agg #[.slice A1 X.length C1, .slice A2 Y.length C2, .int .i64 ep, .int .i64 nx, .slice va un vc] ∧ StoAt W W2.heap.size A1 X.length C1 X A2 Y.length C2 Y va un vc l2 ∧ l2.map UE.u = l.map UE.u, fun ⟨A1, C1, A2, C2, va, vc, l2, h0, h1, h2⟩ hb => ⟨A1, C1, A2, C2, va, vc, l2, h0, h1.stays hb, h2⟩⟩] (by kernel_rfl) (by kernel_rfl) ?_ ?_
  · refine (all_succ (all_succ (all_succ (all_succ (all_succ (all_succ (all_succ (all_succ (all_succ (all_succ (all_succ all_zero ?g0) ?g1) ?g2) ?g3) ?g4) ?g5) ?g6) ?g7) ?g8) ?g9) ?g10)
    case g0 =>
      intro o ho vs W hb hd
      have HBW : Hid (Below w.heap.size w W) := HB2.out.trans (hb.mono HB2.out.size)
      have HS : Hid (W2.heap.size ≤ W.heap.size) := hb.size
      have HXW : Hid (Below W2.heap.size W2 W) := hb
      clear hb
      obtain rfl := Option.some.inj ho
      clear ho hd
      intro K hK
      simp only [List.take, putsT, put_mk, List.setIfInBounds_toArray, List.set_cons_succ, List.set_cons_zero] at hK ⊢
      have HK : Hid _ := hK
      clear hK
      go_wp2_with fail
      exact HK.out _ _ (Below.refl _ _) rfl
    case g1 =>
      intro o ho vs W hb hd
      have HBW : Hid (Below w.heap.size w W) := HB2.out.trans (hb.mono HB2.out.size)
      have HS : Hid (W2.heap.size ≤ W.heap.size) := hb.size
      have HXW : Hid (Below W2.heap.size W2 W) := hb
      clear hb
      obtain rfl := Option.some.inj ho
      have h0 : vs 0 = _ := hd 0 (by decide) (by kernel_rfl)
      clear ho hd
      have hq := (HQ.out _ HXW.out).1
      have c0 := hq.cell 0 rfl
      have c1 := hq.cell 1 rfl
      clear hq
      intro K hK
      simp only [List.take, putsT, put_mk, List.setIfInBounds_toArray, List.set_cons_succ, List.set_cons_zero] at hK ⊢
      rw [h0] at hK ⊢
      clear h0
      have HK : Hid _ := hK
      clear hK
      go_wp2_with fail
      exact HK.out _ _ (Below.refl _ _) rfl
    case g2 =>
      intro o ho vs W hb hd
      have HBW : Hid (Below w.heap.size w W) := HB2.out.trans (hb.mono HB2.out.size)
      have HS : Hid (W2.heap.size ≤ W.heap.size) := hb.size
      have HXW : Hid (Below W2.heap.size W2 W) := hb
      clear hb
      obtain rfl := Option.some.inj ho
      have h1 : vs 1 = _ := hd 1 (by decide) (by kernel_rfl)
      clear ho hd
      intro K hK
      simp only [List.take, putsT, put_mk, List.setIfInBounds_toArray, List.set_cons_succ, List.set_cons_zero] at hK ⊢
      rw [h1] at hK ⊢
      clear h1
      have HK : Hid _ := hK
      clear hK
      go_wp2_with fail
      refine (implDcopy_any a n ca X a' n' ca' Y W (HX.out _ HXW.out).1 (HX.out _ HXW.out).2.1 (by omega) (by omega)).mono ?_
      rintro e w' ⟨⟨v1, rfl, A1, C1, A2, C2, rfl, own1, own1', hap⟩, hb1⟩
      go_wp2_with fail
      exact HK.out _ _ hb1 ⟨_, _, _, _, rfl, own1.low HS.out, own1'.low HS.out, hap⟩
    case g3 =>
      intro o ho vs W hb hd
      have HBW : Hid (Below w.heap.size w W) := HB2.out.trans (hb.mono HB2.out.size)
      have HS : Hid (W2.heap.size ≤ W.heap.size) := hb.size
      have HXW : Hid (Below W2.heap.size W2 W) := hb
      clear hb
      obtain rfl := Option.some.inj ho
      clear ho hd
      intro K hK
      simp only [List.take, putsT, put_mk, List.setIfInBounds_toArray, List.set_cons_succ, List.set_cons_zero] at hK ⊢
      have HK : Hid _ := hK
      clear hK
      go_wp2_with fail
      exact HK.out _ _ (Below.refl _ _) rfl
    case g4 =>
      intro o ho vs W hb hd
      have HBW : Hid (Below w.heap.size w W) := HB2.out.trans (hb.mono HB2.out.size)
      have HS : Hid (W2.heap.size ≤ W.heap.size) := hb.size
      have HXW : Hid (Below W2.heap.size W2 W) := hb
      clear hb
      obtain rfl := Option.some.inj ho
      have h3 : vs 3 = _ := hd 3 (by decide) (by kernel_rfl)
      clear ho hd
      have hq := (HQ.out _ HXW.out).1
      have c2 := hq.cell 2 rfl
      clear hq
      intro K hK
      simp only [List.take, putsT, put_mk, List.setIfInBounds_toArray, List.set_cons_succ, List.set_cons_zero] at hK ⊢
      rw [h3] at hK ⊢
      clear h3
      have HK : Hid _ := hK
      clear hK
      go_wp2_with fail
      exact HK.out _ _ (Below.refl _ _) rfl
    case g5 =>
      intro o ho vs W hb hd
      have HBW : Hid (Below w.heap.size w W) := HB2.out.trans (hb.mono HB2.out.size)
      have HS : Hid (W2.heap.size ≤ W.heap.size) := hb.size
      have HXW : Hid (Below W2.heap.size W2 W) := hb
      clear hb
      obtain rfl := Option.some.inj ho
      clear ho hd
      intro K hK
      simp only [List.take, putsT, put_mk, List.setIfInBounds_toArray, List.set_cons_succ, List.set_cons_zero] at hK ⊢
      have HK : Hid _ := hK
      clear hK
      go_wp2_with fail
      exact HK.out _ _ (Below.refl _ _) rfl
    case g6 =>
      intro o ho vs W hb hd
      have HBW : Hid (Below w.heap.size w W) := HB2.out.trans (hb.mono HB2.out.size)
      have HS : Hid (W2.heap.size ≤ W.heap.size) := hb.size
      have HXW : Hid (Below W2.heap.size W2 W) := hb
      clear hb
      obtain rfl := Option.some.inj ho
      have h5 : vs 5 = _ := hd 5 (by decide) (by kernel_rfl)
      clear ho hd
      have hq := (HQ.out _ HXW.out).1
      have c3 := hq.cell 3 rfl
      clear hq
      intro K hK
      simp only [List.take, putsT, put_mk, List.setIfInBounds_toArray, List.set_cons_succ, List.set_cons_zero] at hK ⊢
      rw [h5] at hK ⊢
      clear h5
      have HK : Hid _ := hK
      clear hK
      go_wp2_with fail
      exact HK.out _ _ (Below.refl _ _) rfl
    case g7 =>
      intro o ho vs W hb hd
      have HBW : Hid (Below w.heap.size w W) := HB2.out.trans (hb.mono HB2.out.size)
      have HS : Hid (W2.heap.size ≤ W.heap.size) := hb.size
      have HXW : Hid (Below W2.heap.size W2 W) := hb
      clear hb
      obtain rfl := Option.some.inj ho
      clear ho hd
      intro K hK
      simp only [List.take, putsT, put_mk, List.setIfInBounds_toArray, List.set_cons_succ, List.set_cons_zero] at hK ⊢
      have HK : Hid _ := hK
      clear hK
      go_wp2_with fail
      exact HK.out _ _ (Below.refl _ _) rfl
    case g8 =>
      intro o ho vs W hb hd
      have HBW : Hid (Below w.heap.size w W) := HB2.out.trans (hb.mono HB2.out.size)
      have HS : Hid (W2.heap.size ≤ W.heap.size) := hb.size
      have HXW : Hid (Below W2.heap.size W2 W) := hb
      clear hb
      obtain rfl := Option.some.inj ho
      have h7 : vs 7 = _ := hd 7 (by decide) (by kernel_rfl)
      clear ho hd
      have hq := (HQ.out _ HXW.out).1
      have c4 := hq.cell 4 rfl
      clear hq
      intro K hK
      simp only [List.take, putsT, put_mk, List.setIfInBounds_toArray, List.set_cons_succ, List.set_cons_zero] at hK ⊢
      rw [h7] at hK ⊢
      clear h7
      have HK : Hid _ := hK
      clear hK
      go_wp2_with fail
      exact HK.out _ _ (Below.refl _ _) rfl
    case g9 =>
      intro o ho vs W hb hd
      have HBW : Hid (Below w.heap.size w W) := HB2.out.trans (hb.mono HB2.out.size)
      have HS : Hid (W2.heap.size ≤ W.heap.size) := hb.size
      have HXW : Hid (Below W2.heap.size W2 W) := hb
      clear hb
      obtain rfl := Option.some.inj ho
      have h8 : vs 8 = _ := hd 8 (by decide) (by kernel_rfl)
      clear ho hd
      intro K hK
      simp only [List.take, putsT, put_mk, List.setIfInBounds_toArray, List.set_cons_succ, List.set_cons_zero] at hK ⊢
      rw [h8] at hK ⊢
      clear h8
      have HK : Hid _ := hK
      clear hK
      go_wp2_with fail
      refine (implEachUp_any ua un uc lo l W (HX.out _ HXW.out).2.2 HLn.out.1 hul HLn.out.2).mono ?_
      rintro e w' ⟨⟨va, vc, l2, rfl, hr, hm⟩, hb1⟩
      go_wp2_with fail
      exact HK.out _ _ hb1 ⟨_, _, _, rfl, hr.low HS.out, hm⟩
    case g10 =>
      intro o ho vs W hb hd
      have HBW : Hid (Below w.heap.size w W) := HB2.out.trans (hb.mono HB2.out.size)
      have HS : Hid (W2.heap.size ≤ W.heap.size) := hb.size
      have HXW : Hid (Below W2.heap.size W2 W) := hb
      clear hb
      obtain rfl := Option.some.inj ho
      obtain ⟨A1, C1, A2, C2, h2, o1, o2, hap⟩ := hd 2 (by decide) (by kernel_rfl)
      have h4 : vs 4 = _ := hd 4 (by decide) (by kernel_rfl)
      have h6 : vs 6 = _ := hd 6 (by decide) (by kernel_rfl)
      obtain ⟨va, vc, l2, h9, hr, hm⟩ := hd 9 (by decide) (by kernel_rfl)
      clear ho hd
      have HA : Hid (StoAt W W2.heap.size A1 X.length C1 X A2 Y.length C2 Y va un vc l2) := ⟨o1, o2, hap, hr, HLen.out l2 hm⟩
      clear o1 o2 hap hr
      intro K hK
      simp only [List.take, putsT, put_mk, List.setIfInBounds_toArray, List.set_cons_succ, List.set_cons_zero] at hK ⊢
      rw [h2, h4, h6, h9] at hK ⊢
      clear h2 h4 h6 h9
      have HK : Hid _ := hK
      clear hK
      go_wp2_with fail
      exact HK.out _ _ (Below.refl _ _) ⟨_, _, _, _, _, _, _, rfl, HA.out, hm⟩
  intro vs W hb hd
  have HBW : Hid (Below w.heap.size w W) := HB2.out.trans (hb.mono HB2.out.size)
  have HS : Hid (W2.heap.size ≤ W.heap.size) := hb.size
  have HXW : Hid (Below W2.heap.size W2 W) := hb
  clear hb
  simp only [List.take, List.drop, putsT, put_mk, List.setIfInBounds_toArray, List.set_cons_succ, List.set_cons_zero]
  obtain ⟨A1, C1, A2, C2, va, vc, l2, h10, hS, hM⟩ := hd 10 (by decide)
  have h10 : vs 10 = _ := h10
  rw [h10]
  clear h10 hd HS
  have HSt : Hid (StoAt W W2.heap.size A1 X.length C1 X A2 Y.length C2 Y va un vc l2) := hS
  have HM : Hid (l2.map UE.u = l.map UE.u) := hM
  have hqr := (HQ.out _ HXW.out).2
  have r0 := hqr.cell 0 rfl
  have r1 := hqr.cell 1 rfl
  have r2 := hqr.cell 2 rfl
  have r3 := hqr.cell 3 rfl
  have r4 := hqr.cell 4 rfl
  have f0 := hqr.frozen 0
  have f1 := hqr.frozen 1
  have f2 := hqr.frozen 2
  have f3 := hqr.frozen 3
  have f4 := hqr.frozen 4
  clear hqr hS hM HXW HQ HX
  go_wp2_with fail
  refine bodyPost_ret (v := .agg #[.slice A1 X.length C1, .slice A2 Y.length C2, .int .i64 ep, .int .i64 nx, .slice va un vc]) (by simp [results, Tryz.f15, go_sem, r0, r1, r2, r3, r4]) rfl ?_
  refine ⟨⟨_, rfl, A1, X.length, C1, A2, Y.length, C2, va, un, vc, l2, rfl, ?_, HM.out⟩, ?_⟩
  · exact (((((HSt.out.setLow (by omega) _).setLow (by omega) _).setLow (by omega) _).setLow (by omega) _).setLow (by omega) _).low (by omega)
  · exact ((((HBW.out.setCell (by dsimp only; omega) _).setCell (by dsimp only; omega) _).setCell (by dsimp only; omega) _).setCell (by dsimp only; omega) _).setCell (by dsimp only; omega) _

end Go.Proofs.YtiigdcpjelbdjaaGreatDoor

namespace Go.Proofs.YtiigdcpjelbdjaaGreatDoor
open Go.RowKit
set_option linter.unusedVariables false

/-- The variable holds an error. -/
def ErrN (w : World) : Prop := 1 < w.heap.size ∧ ∃ t v, w.cell? ⟨1, 0, none⟩ = some (.iface t v)

theorem ErrN.below {w W : World} (h : ErrN w) (hb : Below w.heap.size w W) : ErrN W := by
  obtain ⟨h1, t, v, h2⟩ := h
  exact ⟨Nat.lt_of_lt_of_le h1 hb.size, t, v, (hb.cell (p := ⟨1, 0, none⟩) h1).trans h2⟩

/-- A call gave up by a panic. -/
def Pan (e : Ending) : Prop := ∃ t v, e = .panicked [{ v := .iface t v, recovered := false }]

theorem mustFit_yes (w : World) : Calls Tryz.prog 81 #[.bool true] w fun e w' => e = .returned (.tuple #[]) ∧ w' = w := by
  go_enter Tryz.func81, Tryz.ntmps81
  go_wp2_with fail
  go_end0
  exact ⟨rfl, rfl⟩

theorem mustFit_no (w : World) (h : ErrN w) : Calls Tryz.prog 81 #[.bool false] w fun e w' => Pan e ∧ w' = w := by
  obtain ⟨_, t, v, hc⟩ := h
  go_enter Tryz.func81, Tryz.ntmps81
  go_wp2_with fail
  exact ⟨rfl, ⟨t, v, rfl⟩, rfl⟩

/-- What must fit does, or it gives up. -/
theorem mustFit_any (b : Bool) (w : World) (h : ErrN w) : Calls Tryz.prog 81 #[.bool b] w fun e w' => ((b = true ∧ e = .returned (.tuple #[])) ∨ (b = false ∧ Pan e)) ∧ w' = w := by
  cases b with
  | true => exact (mustFit_yes w).mono (fun e w' h => ⟨.inl ⟨rfl, h.1⟩, h.2⟩)
  | false => exact (mustFit_no w h).mono (fun e w' h => ⟨.inr ⟨rfl, h.1⟩, h.2⟩)

/-- The upload that must be there is told, or it gave up. -/
def ThereAns (o : Option Nat) (a : Option Addr) (e : Ending) : Prop := (∃ k g, o = some k ∧ a = some ⟨g, 0, none⟩ ∧ e = .returned (.pointer (some ⟨g, k * 4, none⟩))) ∨ (o = none ∧ Pan e)

set_option maxRecDepth 10000 in
set_option maxHeartbeats 800000 in
theorem implThere_any (fb : Nat) (a : Option Addr) (n c lo : Nat) (id : ByteArray) (l : List UE) (w : World) (hf : BoxN w fb 93 [.slice a n c]) (h : UpRow w lo (.slice a n c) l) (hn : n = l.length) (hl : n ≤ 1099511627776) (he : ErrN w) :
    Calls Tryz.prog 100 #[.pointer (some ⟨fb, 0, none⟩), .string id] w fun e w' => ThereAns (atU (l.map UE.u) id) a e ∧ Below w.heap.size w w' := by
  have HE : Hid (ErrN w) := he
  have HR : Hid (Calls Tryz.prog 53 #[.slice a n c, .string id] w fun e w' => e = .returned (.pointer (reachUO a (atU (l.map UE.u) id))) ∧ Below w.heap.size w w') := implReachU_any a n c lo id l w h hn hl
  have f0 := hf.cell 0 rfl
  cases hk : atU (l.map UE.u) id with
  | none =>
    rw [hk, reachUO_none] at HR
    clear hf h hk hn
    go_enter Tryz.func100, Tryz.ntmps100
    go_wp2_with fail
    refine HR.out.mono ?_
    rintro e w1 ⟨rfl, hb1⟩
    have HB1 : Hid (Below w.heap.size w w1) := hb1
    clear hb1
    go_wp2_with fail
    refine (mustFit_no w1 (HE.out.below HB1.out)).mono ?_
    rintro e w2 ⟨⟨t, v, rfl⟩, rfl⟩
    go_wp2_with fail
    exact ⟨rfl, .inr ⟨rfl, t, v, rfl⟩, HB1.out⟩
  | some k =>
    have hkl : k < (l.map UE.u).length := (atU_is hk).1
    obtain ⟨g, hg⟩ : ∃ g, a = some ⟨g, 0, none⟩ := by
      obtain ⟨g, hg, _⟩ := h.at hn (by simpa using hkl)
      exact ⟨g, hg⟩
    rw [hk, hg] at HR
    clear hf h hk hkl hn
    have HR2 : Hid (Calls Tryz.prog 53 #[.slice (some ⟨g, 0, none⟩) n c, .string id] w fun e w' => e = .returned (.pointer (some ⟨g, k * 4, none⟩)) ∧ Below w.heap.size w w') := HR.out
    subst hg
    clear HR
    go_enter Tryz.func100, Tryz.ntmps100
    go_wp2_with fail
    refine HR2.out.mono ?_
    rintro e w1 ⟨rfl, hb1⟩
    have HB1 : Hid (Below w.heap.size w w1) := hb1
    clear hb1
    go_wp2_with fail
    refine (mustFit_yes w1).mono ?_
    rintro e w2 ⟨rfl, rfl⟩
    go_wp2_with fail
    go_ret
    exact ⟨.inl ⟨k, g, rfl, rfl, rfl⟩, HB1.out⟩

end Go.Proofs.YtiigdcpjelbdjaaGreatDoor
