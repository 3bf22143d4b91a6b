/- What the program's copy of a store answers. What the program's copy of a server answers. What the program's reach answers: where the first upload of this name lies. What the program's fold does: what must fit; the upload that must be there. -/
import Derived.Test.YtclkfjlnhcccdaaGreatDoorM07
import Derived.Test.YtclkfjlnhcccdaaGreatDoorM28
import Derived.Test.YtclkfjlnhcccdaaGreatDoorM28
import Derived.Test.YtclkfjlnhcccdaaGreatDoorM05
import Derived.Test.YtclkfjlnhcccdaaGreatDoorM28
import Derived.Test.YtclkfjlnhcccdaaGreatDoorM10
import Derived.Test.YtclkfjlnhcccdaaGreatDoorM27
import Derived.Test.YtclkfjlnhcccdaaGreatDoorM08
import Derived.Test.YtclkfjlnhcccdaaGreatDoorM15
import Derived.Test.YtclkfjlnhcccdaaGreatDoorM14
import Derived.Test.YtclkfjlnhcccdaaGreatDoorM04
namespace Go.Proofs.YtclkfjlnhcccdaaGreatDoor
open Go.RowKit
set_option linter.unusedVariables false

set_option maxRecDepth 10000 in
set_option maxHeartbeats 3200000 in
theorem implScopy_any (a : Option Addr) (n ca : Nat) (X : List ByteArray) (a' : Option Addr) (n' ca' : Nat) (Y : List ByteArray) (ep nx : Int) (ua : Option Addr) (un uc lo : Nat) (l : List UE) (w : World) (h1 : Strs w a n X) (h2 : Strs w a' n' Y) (hn : n ≤ 1048576) (hn' : n' ≤ 1048576) (hu : UpRow w lo (.slice ua un uc) l) (hun : un = l.length) (hul : un ≤ 1048576) (hz : ∀ e ∈ l, e.n ≤ 1099511627776) :
    Calls Tryz.prog 52 #[.agg #[.slice a n ca, .slice a' n' ca', .int .i64 ep, .int .i64 nx, .slice ua un uc]] w fun e w' => (∃ v, e = .returned v ∧ AnsS w.heap.size X Y ep nx (l.map UE.u) v w') ∧ Below w.heap.size w w' := by
  have HLn : Hid (un = l.length ∧ ∀ e ∈ l, e.n ≤ 1099511627776) := ⟨hun, hz⟩
  have HLen : Hid (∀ l2 : List UE, l2.map UE.u = l.map UE.u → un = l2.length) := fun l2 h => by have := congrArg List.length h; simp at this; rw [hun, this]
  obtain ⟨W2, hW2⟩ : ∃ W2, (w.alloc (.cells #[.slice a n ca, .slice a' n' ca', .int .i64 ep, .int .i64 nx, .slice ua un uc] 35)).alloc (.cells #[.slice none 0 0, .slice none 0 0, .int .i64 0, .int .i64 0, .slice none 0 0] 35) = W2 := ⟨_, rfl⟩
  have HE : Hid ((w.alloc (.cells #[.slice a n ca, .slice a' n' ca', .int .i64 ep, .int .i64 nx, .slice ua un uc] 35)).alloc (.cells #[.slice none 0 0, .slice none 0 0, .int .i64 0, .int .i64 0, .slice none 0 0] 35) = W2) := hW2
  have HB2 : Hid (Below w.heap.size w W2) := by show Below _ _ _; rw [← hW2]; exact ((Below.refl _ _).alloc (Nat.le_refl _) _).alloc (by simp) _
  have q1 : BoxN W2 w.heap.size 35 [.slice a n ca, .slice a' n' ca', .int .i64 ep, .int .i64 nx, .slice ua un uc] := by rw [← hW2]; exact (BoxN.new _ _ _).alloc _
  have q2 : BoxN W2 (w.heap.size + 1) 35 [.slice none 0 0, .slice none 0 0, .int .i64 0, .int .i64 0, .slice none 0 0] := by
    rw [← hW2]
    have := BoxN.new (w.alloc (.cells #[.slice a n ca, .slice a' n' ca', .int .i64 ep, .int .i64 nx, .slice ua un uc] 35)) 35 [.slice none 0 0, .slice none 0 0, .int .i64 0, .int .i64 0, .slice none 0 0]
    rwa [World.size_alloc] at this
  have HQ : Hid (∀ W, Below W2.heap.size W2 W → BoxN W w.heap.size 35 [.slice a n ca, .slice a' n' ca', .int .i64 ep, .int .i64 nx, .slice ua un uc] ∧ BoxN W (w.heap.size + 1) 35 [.slice none 0 0, .slice none 0 0, .int .i64 0, .int .i64 0, .slice none 0 0]) := fun W h => ⟨q1.stays h, q2.stays h⟩
  have HX : Hid (∀ W, Below W2.heap.size W2 W → Strs W a n X ∧ Strs W a' n' Y ∧ UpRow W lo (.slice ua un uc) l) := fun W h => by
    have hw := HB2.out.trans (h.mono HB2.out.size)
    exact ⟨h1.below hw, h2.below hw, hu.stays hw⟩
  have hs2 : w.heap.size + 1 < W2.heap.size := q2.lt
  clear hW2 q1 q2 h1 h2 hu hun hz
  go_enter Tryz.func52, Tryz.ntmps52
  go_upto_region 1 with fail
  rw [HE.out]
  clear HE
  refine wp_region_grow 11 [Stay.val (.pointer (some ⟨w.heap.size, 0, none⟩)), Stay.val (.agg #[.slice a n ca, .slice a' n' ca']), ⟨fun v W => ∃ A1 C1 A2 C2, v = .agg #[.slice A1 X.length C1, .slice A2 Y.length C2] ∧ OwnSt W W2.heap.size (.slice A1 X.length C1) X.length X ∧ OwnSt W W2.heap.size (.slice A2 Y.length C2) Y.length Y ∧ ∀ q, A1.map (·.block) = some q → A2.map (·.block) ≠ some q, fun ⟨A1, C1, A2, C2, h0, h1, h2, h3⟩ hb => ⟨A1, C1, A2, C2, h0, h1.below hb, h2.below hb, h3⟩⟩, Stay.val (.pointer (some ⟨w.heap.size, 2, none⟩)), Stay.val (.int .i64 ep), Stay.val (.pointer (some ⟨w.heap.size, 3, none⟩)), Stay.val (.int .i64 nx), Stay.val (.pointer (some ⟨w.heap.size, 4, none⟩)), Stay.val (.slice ua un uc), ⟨fun v W => ∃ va vc l2, v = .slice va un vc ∧ UpRow W W2.heap.size (.slice va un vc) l2 ∧ l2.map UE.u = l.map UE.u, fun ⟨va, vc, l2, h0, h1, h2⟩ hb => ⟨va, vc, l2, h0, h1.stays hb, h2⟩⟩, ⟨fun v W => ∃ A1 C1 A2 C2 va vc l2, v = .agg #[.slice A1 X.length C1, .slice A2 Y.length C2, .int .i64 ep, .int .i64 nx, .slice va un vc] ∧ StoAt W W2.heap.size A1 X.length C1 X A2 Y.length C2 Y va un vc l2 ∧ l2.map UE.u = l.map UE.u, fun ⟨A1, C1, A2, C2, va, vc, l2, h0, h1, h2⟩ hb => ⟨A1, C1, A2, C2, va, vc, l2, h0, h1.stays hb, h2⟩⟩] (by kernel_rfl) (by kernel_rfl) ?_ ?_
  · refine (all_succ (all_succ (all_succ (all_succ (all_succ (all_succ (all_succ (all_succ (all_succ (all_succ (all_succ all_zero ?g0) ?g1) ?g2) ?g3) ?g4) ?g5) ?g6) ?g7) ?g8) ?g9) ?g10)
    case g0 =>
      intro o ho vs W hb hd
      have HBW : Hid (Below w.heap.size w W) := HB2.out.trans (hb.mono HB2.out.size)
      have HS : Hid (W2.heap.size ≤ W.heap.size) := hb.size
      have HXW : Hid (Below W2.heap.size W2 W) := hb
      clear hb
      obtain rfl := Option.some.inj ho
      clear ho hd
      intro K hK
      simp only [List.take, putsT, put_mk, List.setIfInBounds_toArray, List.set_cons_succ, List.set_cons_zero] at hK ⊢
      have HK : Hid _ := hK
      clear hK
      go_wp2_with fail
      exact HK.out _ _ (Below.refl _ _) rfl
    case g1 =>
      intro o ho vs W hb hd
      have HBW : Hid (Below w.heap.size w W) := HB2.out.trans (hb.mono HB2.out.size)
      have HS : Hid (W2.heap.size ≤ W.heap.size) := hb.size
      have HXW : Hid (Below W2.heap.size W2 W) := hb
      clear hb
      obtain rfl := Option.some.inj ho
      have h0 : vs 0 = _ := hd 0 (by decide) (by kernel_rfl)
      clear ho hd
      have hq := (HQ.out _ HXW.out).1
      have c0 := hq.cell 0 rfl
      have c1 := hq.cell 1 rfl
      clear hq
      intro K hK
      simp only [List.take, putsT, put_mk, List.setIfInBounds_toArray, List.set_cons_succ, List.set_cons_zero] at hK ⊢
      rw [h0] at hK ⊢
      clear h0
      have HK : Hid _ := hK
      clear hK
      go_wp2_with fail
      exact HK.out _ _ (Below.refl _ _) rfl
    case g2 =>
      intro o ho vs W hb hd
      have HBW : Hid (Below w.heap.size w W) := HB2.out.trans (hb.mono HB2.out.size)
      have HS : Hid (W2.heap.size ≤ W.heap.size) := hb.size
      have HXW : Hid (Below W2.heap.size W2 W) := hb
      clear hb
      obtain rfl := Option.some.inj ho
      have h1 : vs 1 = _ := hd 1 (by decide) (by kernel_rfl)
      clear ho hd
      intro K hK
      simp only [List.take, putsT, put_mk, List.setIfInBounds_toArray, List.set_cons_succ, List.set_cons_zero] at hK ⊢
      rw [h1] at hK ⊢
      clear h1
      have HK : Hid _ := hK
      clear hK
      go_wp2_with fail
      refine (implDcopy_any a n ca X a' n' ca' Y W (HX.out _ HXW.out).1 (HX.out _ HXW.out).2.1 (by omega) (by omega)).mono ?_
      rintro e w' ⟨⟨v1, rfl, A1, C1, A2, C2, rfl, own1, own1', hap⟩, hb1⟩
      go_wp2_with fail
      exact HK.out _ _ hb1 ⟨_, _, _, _, rfl, own1.low HS.out, own1'.low HS.out, hap⟩
    case g3 =>
      intro o ho vs W hb hd
      have HBW : Hid (Below w.heap.size w W) := HB2.out.trans (hb.mono HB2.out.size)
      have HS : Hid (W2.heap.size ≤ W.heap.size) := hb.size
      have HXW : Hid (Below W2.heap.size W2 W) := hb
      clear hb
      obtain rfl := Option.some.inj ho
      clear ho hd
      intro K hK
      simp only [List.take, putsT, put_mk, List.setIfInBounds_toArray, List.set_cons_succ, List.set_cons_zero] at hK ⊢
      have HK : Hid _ := hK
      clear hK
      go_wp2_with fail
      exact HK.out _ _ (Below.refl _ _) rfl
    case g4 =>
      intro o ho vs W hb hd
      have HBW : Hid (Below w.heap.size w W) := HB2.out.trans (hb.mono HB2.out.size)
      have HS : Hid (W2.heap.size ≤ W.heap.size) := hb.size
      have HXW : Hid (Below W2.heap.size W2 W) := hb
      clear hb
      obtain rfl := Option.some.inj ho
      have h3 : vs 3 = _ := hd 3 (by decide) (by kernel_rfl)
      clear ho hd
      have hq := (HQ.out _ HXW.out).1
      have c2 := hq.cell 2 rfl
      clear hq
      intro K hK
      simp only [List.take, putsT, put_mk, List.setIfInBounds_toArray, List.set_cons_succ, List.set_cons_zero] at hK ⊢
      rw [h3] at hK ⊢
      clear h3
      have HK : Hid _ := hK
      clear hK
      go_wp2_with fail
      exact HK.out _ _ (Below.refl _ _) rfl
    case g5 =>
      intro o ho vs W hb hd
      have HBW : Hid (Below w.heap.size w W) := HB2.out.trans (hb.mono HB2.out.size)
      have HS : Hid (W2.heap.size ≤ W.heap.size) := hb.size
      have HXW : Hid (Below W2.heap.size W2 W) := hb
      clear hb
      obtain rfl := Option.some.inj ho
      clear ho hd
      intro K hK
      simp only [List.take, putsT, put_mk, List.setIfInBounds_toArray, List.set_cons_succ, List.set_cons_zero] at hK ⊢
      have HK : Hid _ := hK
      clear hK
      go_wp2_with fail
      exact HK.out _ _ (Below.refl _ _) rfl
    case g6 =>
      intro o ho vs W hb hd
      have HBW : Hid (Below w.heap.size w W) := HB2.out.trans (hb.mono HB2.out.size)
      have HS : Hid (W2.heap.size ≤ W.heap.size) := hb.size
      have HXW : Hid (Below W2.heap.size W2 W) := hb
      clear hb
      obtain rfl := Option.some.inj ho
      have h5 : vs 5 = _ := hd 5 (by decide) (by kernel_rfl)
      clear ho hd
      have hq := (HQ.out _ HXW.out).1
      have c3 := hq.cell 3 rfl
      clear hq
      intro K hK
      simp only [List.take, putsT, put_mk, List.setIfInBounds_toArray, List.set_cons_succ, List.set_cons_zero] at hK ⊢
      rw [h5] at hK ⊢
      clear h5
      have HK : Hid _ := hK
      clear hK
      go_wp2_with fail
      exact HK.out _ _ (Below.refl _ _) rfl
    case g7 =>
      intro o ho vs W hb hd
      have HBW : Hid (Below w.heap.size w W) := HB2.out.trans (hb.mono HB2.out.size)
      have HS : Hid (W2.heap.size ≤ W.heap.size) := hb.size
      have HXW : Hid (Below W2.heap.size W2 W) := hb
      clear hb
      obtain rfl := Option.some.inj ho
      clear ho hd
      intro K hK
      simp only [List.take, putsT, put_mk, List.setIfInBounds_toArray, List.set_cons_succ, List.set_cons_zero] at hK ⊢
      have HK : Hid _ := hK
      clear hK
      go_wp2_with fail
      exact HK.out _ _ (Below.refl _ _) rfl
    case g8 =>
      intro o ho vs W hb hd
      have HBW : Hid (Below w.heap.size w W) := HB2.out.trans (hb.mono HB2.out.size)
      have HS : Hid (W2.heap.size ≤ W.heap.size) := hb.size
      have HXW : Hid (Below W2.heap.size W2 W) := hb
      clear hb
      obtain rfl := Option.some.inj ho
      have h7 : vs 7 = _ := hd 7 (by decide) (by kernel_rfl)
      clear ho hd
      have hq := (HQ.out _ HXW.out).1
      have c4 := hq.cell 4 rfl
      clear hq
      intro K hK
      simp only [List.take, putsT, put_mk, List.setIfInBounds_toArray, List.set_cons_succ, List.set_cons_zero] at hK ⊢
      rw [h7] at hK ⊢
      clear h7
      have HK : Hid _ := hK
      clear hK
      go_wp2_with fail
      exact HK.out _ _ (Below.refl _ _) rfl
    case g9 =>
      intro o ho vs W hb hd
      have HBW : Hid (Below w.heap.size w W) := HB2.out.trans (hb.mono HB2.out.size)
      have HS : Hid (W2.heap.size ≤ W.heap.size) := hb.size
      have HXW : Hid (Below W2.heap.size W2 W) := hb
      clear hb
      obtain rfl := Option.some.inj ho
      have h8 : vs 8 = _ := hd 8 (by decide) (by kernel_rfl)
      clear ho hd
      intro K hK
      simp only [List.take, putsT, put_mk, List.setIfInBounds_toArray, List.set_cons_succ, List.set_cons_zero] at hK ⊢
      rw [h8] at hK ⊢
      clear h8
      have HK : Hid _ := hK
      clear hK
      go_wp2_with fail
      refine (implEachUp_any ua un uc lo l W (HX.out _ HXW.out).2.2 HLn.out.1 hul HLn.out.2).mono ?_
      rintro e w' ⟨⟨va, vc, l2, rfl, hr, hm⟩, hb1⟩
      go_wp2_with fail
      exact HK.out _ _ hb1 ⟨_, _, _, rfl, hr.low HS.out, hm⟩
    case g10 =>
      intro o ho vs W hb hd
      have HBW : Hid (Below w.heap.size w W) := HB2.out.trans (hb.mono HB2.out.size)
      have HS : Hid (W2.heap.size ≤ W.heap.size) := hb.size
      have HXW : Hid (Below W2.heap.size W2 W) := hb
      clear hb
      obtain rfl := Option.some.inj ho
      obtain ⟨A1, C1, A2, C2, h2, o1, o2, hap⟩ := hd 2 (by decide) (by kernel_rfl)
      have h4 : vs 4 = _ := hd 4 (by decide) (by kernel_rfl)
      have h6 : vs 6 = _ := hd 6 (by decide) (by kernel_rfl)
      obtain ⟨va, vc, l2, h9, hr, hm⟩ := hd 9 (by decide) (by kernel_rfl)
      clear ho hd
      have HA : Hid (StoAt W W2.heap.size A1 X.length C1 X A2 Y.length C2 Y va un vc l2) := ⟨o1, o2, hap, hr, HLen.out l2 hm⟩
      clear o1 o2 hap hr
      intro K hK
      simp only [List.take, putsT, put_mk, List.setIfInBounds_toArray, List.set_cons_succ, List.set_cons_zero] at hK ⊢
      rw [h2, h4, h6, h9] at hK ⊢
      clear h2 h4 h6 h9
      have HK : Hid _ := hK
      clear hK
      go_wp2_with fail
      exact HK.out _ _ (Below.refl _ _) ⟨_, _, _, _, _, _, _, rfl, HA.out, hm⟩
  intro vs W hb hd
  have HBW : Hid (Below w.heap.size w W) := HB2.out.trans (hb.mono HB2.out.size)
  have HS : Hid (W2.heap.size ≤ W.heap.size) := hb.size
  have HXW : Hid (Below W2.heap.size W2 W) := hb
  clear hb
  simp only [List.take, List.drop, putsT, put_mk, List.setIfInBounds_toArray, List.set_cons_succ, List.set_cons_zero]
  obtain ⟨A1, C1, A2, C2, va, vc, l2, h10, hS, hM⟩ := hd 10 (by decide)
  have h10 : vs 10 = _ := h10
  rw [h10]
  clear h10 hd HS
  have HSt : Hid (StoAt W W2.heap.size A1 X.length C1 X A2 Y.length C2 Y va un vc l2) := hS
  have HM : Hid (l2.map UE.u = l.map UE.u) := hM
  have hqr := (HQ.out _ HXW.out).2
  have r0 := hqr.cell 0 rfl
  have r1 := hqr.cell 1 rfl
  have r2 := hqr.cell 2 rfl
  have r3 := hqr.cell 3 rfl
  have r4 := hqr.cell 4 rfl
  have f0 := hqr.frozen 0
  have f1 := hqr.frozen 1
  have f2 := hqr.frozen 2
  have f3 := hqr.frozen 3
  have f4 := hqr.frozen 4
  clear hqr hS hM HXW HQ HX
  go_wp2_with fail
  refine bodyPost_ret (v := .agg #[.slice A1 X.length C1, .slice A2 Y.length C2, .int .i64 ep, .int .i64 nx, .slice va un vc]) (by simp [results, Tryz.f52, go_sem, r0, r1, r2, r3, r4]) rfl ?_
  refine ⟨⟨_, rfl, A1, X.length, C1, A2, Y.length, C2, va, un, vc, l2, rfl, ?_, HM.out⟩, ?_⟩
  · exact (((((HSt.out.setLow (by omega) _).setLow (by omega) _).setLow (by omega) _).setLow (by omega) _).setLow (by omega) _).low (by omega)
  · exact ((((HBW.out.setCell (by dsimp only; omega) _).setCell (by dsimp only; omega) _).setCell (by dsimp only; omega) _).setCell (by dsimp only; omega) _).setCell (by dsimp only; omega) _

end Go.Proofs.YtclkfjlnhcccdaaGreatDoor

namespace Go.Proofs.YtclkfjlnhcccdaaGreatDoor
open Go.RowKit
set_option linter.unusedVariables false

set_option maxRecDepth 10000 in
set_option maxHeartbeats 3200000 in
theorem implVcopy_any (a : Option Addr) (n ca : Nat) (X : List ByteArray) (a' : Option Addr) (n' ca' : Nat) (Y : List ByteArray) (ep nx : Int) (ua : Option Addr) (un uc lo : Nat) (l : List UE) (ha : Option Addr) (hn hc : Nat) (hs : List Hd) (w : World) (h1 : Strs w a n X) (h2 : Strs w a' n' Y) (hln : n ≤ 1048576) (hln' : n' ≤ 1048576) (hu : UpRow w lo (.slice ua un uc) l) (hun : un = l.length) (hul : un ≤ 1048576) (hz : ∀ e ∈ l, e.n ≤ 1099511627776) (hh : Helds w ha hn hs) (hhl : hn ≤ 1048576) :
    Calls Tryz.prog 28 #[.agg #[.slice a n ca, .slice a' n' ca', .int .i64 ep, .int .i64 nx, .slice ua un uc, .slice ha hn hc]] w fun e w' => (∃ v, e = .returned v ∧ AnsV true w.heap.size X Y ep nx (l.map UE.u) hs v w') ∧ Below w.heap.size w w' := by
  obtain ⟨W2, hW2⟩ : ∃ W2, (w.alloc (.cells #[.slice a n ca, .slice a' n' ca', .int .i64 ep, .int .i64 nx, .slice ua un uc, .slice ha hn hc] 38)).alloc (.cells #[.slice none 0 0, .slice none 0 0, .int .i64 0, .int .i64 0, .slice none 0 0, .slice none 0 0] 38) = W2 := ⟨_, rfl⟩
  have HE : Hid ((w.alloc (.cells #[.slice a n ca, .slice a' n' ca', .int .i64 ep, .int .i64 nx, .slice ua un uc, .slice ha hn hc] 38)).alloc (.cells #[.slice none 0 0, .slice none 0 0, .int .i64 0, .int .i64 0, .slice none 0 0, .slice none 0 0] 38) = W2) := hW2
  have HB2 : Hid (Below w.heap.size w W2) := by show Below _ _ _; rw [← hW2]; exact ((Below.refl _ _).alloc (Nat.le_refl _) _).alloc (by simp) _
  have HZ2 : Hid (W2.heap.size = w.heap.size + 2) := by show _ = _; rw [← hW2]; simp
  have q1 : BoxN W2 w.heap.size 38 [.slice a n ca, .slice a' n' ca', .int .i64 ep, .int .i64 nx, .slice ua un uc, .slice ha hn hc] := by rw [← hW2]; exact (BoxN.new _ _ _).alloc _
  have q2 : BoxN W2 (w.heap.size + 1) 38 [.slice none 0 0, .slice none 0 0, .int .i64 0, .int .i64 0, .slice none 0 0, .slice none 0 0] := by
    rw [← hW2]
    have := BoxN.new (w.alloc (.cells #[.slice a n ca, .slice a' n' ca', .int .i64 ep, .int .i64 nx, .slice ua un uc, .slice ha hn hc] 38)) 38 [.slice none 0 0, .slice none 0 0, .int .i64 0, .int .i64 0, .slice none 0 0, .slice none 0 0]
    rwa [World.size_alloc] at this
  have HQ : Hid (∀ W, Below W2.heap.size W2 W → BoxN W w.heap.size 38 [.slice a n ca, .slice a' n' ca', .int .i64 ep, .int .i64 nx, .slice ua un uc, .slice ha hn hc] ∧ BoxN W (w.heap.size + 1) 38 [.slice none 0 0, .slice none 0 0, .int .i64 0, .int .i64 0, .slice none 0 0, .slice none 0 0]) := fun W h => ⟨q1.stays h, q2.stays h⟩
  have HX : Hid (∀ W, Below W2.heap.size W2 W → Strs W a n X ∧ Strs W a' n' Y ∧ UpRow W lo (.slice ua un uc) l ∧ Helds W ha hn hs) := fun W h => by
    have hw := HB2.out.trans (h.mono HB2.out.size)
    exact ⟨h1.below hw, h2.below hw, hu.stays hw, hh.below hw⟩
  have HCp : Hid (∀ W, Below W2.heap.size W2 W → Calls Tryz.prog 52 #[.agg #[.slice a n ca, .slice a' n' ca', .int .i64 ep, .int .i64 nx, .slice ua un uc]] W fun e w' => (∃ b cb b' cb' va vc l', e = .returned (.agg #[.slice b n cb, .slice b' n' cb', .int .i64 ep, .int .i64 nx, .slice va un vc]) ∧ StoAt w' W.heap.size b n cb X b' n' cb' Y va un vc l' ∧ l'.map UE.u = l.map UE.u) ∧ Below W.heap.size W w') := fun W hb => by
    refine (implScopy_any a n ca X a' n' ca' Y ep nx ua un uc lo l W (HX.out _ hb).1 (HX.out _ hb).2.1 hln hln' (HX.out _ hb).2.2.1 hun hul hz).mono ?_
    rintro e y1 ⟨⟨v1, rfl, hv1⟩, hb1⟩
    obtain ⟨b, cb, b', cb', va, vc, l', rfl, hs1, hm1⟩ := hv1.get
    rw [List.length_map, ← hun, h1.1, h2.1] at hs1 ⊢
    exact ⟨⟨b, cb, b', cb', va, vc, l', rfl, hs1, hm1⟩, hb1⟩
  have hne : w.heap.size ≠ w.heap.size + 1 := by omega
  have HL : Hid (un = l.length ∧ (∀ e ∈ l, e.n ≤ 1099511627776) ∧ hs.length = hn ∧ ∀ s ∈ hs, hd64 s) := ⟨hun, hz, hh.1, hh.2.1⟩
  have HBd : Hid (Below W2.heap.size W2 W2.drew) := (Below.refl _ _).drew
  have hs2 : w.heap.size + 1 < W2.heap.size := q2.lt
  clear hW2 q1 q2 h1 h2 hu hun hz hh
  go_enter Tryz.func28, Tryz.ntmps28
  go_upto_region 1 with fail
  rw [HE.out]
  clear HE
  obtain ⟨c0, c1, c2, c3, c4, c5⟩ := (show _ ∧ _ ∧ _ ∧ _ ∧ _ ∧ _ from ⟨BoxN.cell (HQ.out _ (Below.refl _ _)).1 0 rfl, BoxN.cell (HQ.out _ (Below.refl _ _)).1 1 rfl, BoxN.cell (HQ.out _ (Below.refl _ _)).1 2 rfl, BoxN.cell (HQ.out _ (Below.refl _ _)).1 3 rfl, BoxN.cell (HQ.out _ (Below.refl _ _)).1 4 rfl, BoxN.cell (HQ.out _ (Below.refl _ _)).1 5 rfl⟩)
  obtain ⟨d0, d1, d2, d3, d4, d5⟩ := (show _ ∧ _ ∧ _ ∧ _ ∧ _ ∧ _ from ⟨BoxN.cell (HQ.out _ HBd.out).1 0 rfl, BoxN.cell (HQ.out _ HBd.out).1 1 rfl, BoxN.cell (HQ.out _ HBd.out).1 2 rfl, BoxN.cell (HQ.out _ HBd.out).1 3 rfl, BoxN.cell (HQ.out _ HBd.out).1 4 rfl, BoxN.cell (HQ.out _ HBd.out).1 5 rfl⟩)
  go_region_held3 (fun W => W.cell? ⟨w.heap.size, 0, none⟩ = some (.slice a n ca) ∧ W.cell? ⟨w.heap.size, 1, none⟩ = some (.slice a' n' ca') ∧ W.cell? ⟨w.heap.size, 2, none⟩ = some (.int .i64 ep) ∧ W.cell? ⟨w.heap.size, 3, none⟩ = some (.int .i64 nx) ∧ W.cell? ⟨w.heap.size, 4, none⟩ = some (.slice ua un uc) ∧ W.cell? ⟨w.heap.size, 5, none⟩ = some (.slice ha hn hc)) (first | with_reducible exact ⟨m0, m1, m2, m3, m4, m5⟩ | with_reducible exact ⟨cellD_kept hne (cellD_kept hne (cellD_kept hne (cellD_kept hne (cellD_kept hne (cellD_kept hne (m0)))))), cellD_kept hne (cellD_kept hne (cellD_kept hne (cellD_kept hne (cellD_kept hne (cellD_kept hne (m1)))))), cellD_kept hne (cellD_kept hne (cellD_kept hne (cellD_kept hne (cellD_kept hne (cellD_kept hne (m2)))))), cellD_kept hne (cellD_kept hne (cellD_kept hne (cellD_kept hne (cellD_kept hne (cellD_kept hne (m3)))))), cellD_kept hne (cellD_kept hne (cellD_kept hne (cellD_kept hne (cellD_kept hne (cellD_kept hne (m4)))))), cellD_kept hne (cellD_kept hne (cellD_kept hne (cellD_kept hne (cellD_kept hne (cellD_kept hne (m5))))))⟩ | with_reducible exact ⟨e0, e1, e2, e3, e4, e5⟩ | with_reducible exact ⟨d0, d1, d2, d3, d4, d5⟩ | exact ⟨c0, c1, c2, c3, c4, c5⟩ | fail) (first
    | (go_at_call 53; refine (cloneH_any ha hn hc hs _ (HX.out _ hB1).2.2.2 hhl).mono ?_; rintro e y2 ⟨A, C, rfl, own2, hb2⟩
       have hB2 : Below W2.heap.size W2 y2 := hB1.trans (hb2.mono hB1.size)
       have m0 := BoxN.cell (HQ.out _ hB2).1 0 rfl
       have m1 := BoxN.cell (HQ.out _ hB2).1 1 rfl
       have m2 := BoxN.cell (HQ.out _ hB2).1 2 rfl
       have m3 := BoxN.cell (HQ.out _ hB2).1 3 rfl
       have m4 := BoxN.cell (HQ.out _ hB2).1 4 rfl
       have m5 := BoxN.cell (HQ.out _ hB2).1 5 rfl
       have r0 := BoxN.cell (HQ.out _ hB2).2 0 rfl
       have r1 := BoxN.cell (HQ.out _ hB2).2 1 rfl
       have r2 := BoxN.cell (HQ.out _ hB2).2 2 rfl
       have r3 := BoxN.cell (HQ.out _ hB2).2 3 rfl
       have r4 := BoxN.cell (HQ.out _ hB2).2 4 rfl
       have r5 := BoxN.cell (HQ.out _ hB2).2 5 rfl
       have f0 := BoxN.frozen (HQ.out _ hB2).2 0
       have f1 := BoxN.frozen (HQ.out _ hB2).2 1
       have f2 := BoxN.frozen (HQ.out _ hB2).2 2
       have f3 := BoxN.frozen (HQ.out _ hB2).2 3
       have f4 := BoxN.frozen (HQ.out _ hB2).2 4
       have f5 := BoxN.frozen (HQ.out _ hB2).2 5)
    | (go_at_call 52; refine (HCp.out _ HBd.out).mono ?_; rintro e y1 ⟨⟨b, cb, b', cb', va, vc, l', rfl, hs1, hm1⟩, hb1⟩
       have hB1 : Below W2.heap.size W2 y1 := HBd.out.trans (hb1.mono (Nat.le_refl _))
       have e0 := BoxN.cell (HQ.out _ hB1).1 0 rfl
       have e1 := BoxN.cell (HQ.out _ hB1).1 1 rfl
       have e2 := BoxN.cell (HQ.out _ hB1).1 2 rfl
       have e3 := BoxN.cell (HQ.out _ hB1).1 3 rfl
       have e4 := BoxN.cell (HQ.out _ hB1).1 4 rfl
       have e5 := BoxN.cell (HQ.out _ hB1).1 5 rfl)
    | fail)
  all_goals
    have HF : Hid (StoAt y2 (w.heap.size + 2) b n cb X b' n' cb' Y va un vc l' ∧ l'.map UE.u = l.map UE.u ∧ OwnH y2 y1.heap.size A hn C hs ∧ Below w.heap.size w y2 ∧ StoIn b b' va l' y1.heap.size ∧ w.heap.size + 2 ≤ y1.heap.size) := by
      have hz := HZ2.out
      have hy := hB1.size
      exact ⟨(hs1.stays hb2).low (by show _ ≤ W2.heap.size; omega), hm1, own2, HB2.out.trans (hB2.mono HB2.out.size), hs1.inn, by omega⟩
    have hy1 : w.heap.size + 2 ≤ y1.heap.size := HF.out.2.2.2.2.2
    clear hs1 hm1 own2 hb1 hb2 hB1 hB2 e0 e1 e2 e3 e4 e5 m0 m1 m2 m3 m4 m5 c0 c1 c2 c3 c4 c5 d0 d1 d2 d3 d4 d5 HQ HX HBd HB2
    go_wp2_with fail
    refine bodyPost_ret (v := .agg #[.slice b n cb, .slice b' n' cb', .int .i64 ep, .int .i64 nx, .slice va un vc, .slice A hn C]) (by simp [results, Tryz.f28, go_sem, r0, r1, r2, r3, r4, r5]) rfl ?_
    refine ⟨⟨_, rfl, b, n, cb, b', n', cb', va, un, vc, l', A, hn, C, rfl, ⟨?_, ?_⟩, HF.out.2.1, ?_⟩, ?_⟩
    · exact ((((((HF.out.1.setLow (by omega) _).setLow (by omega) _).setLow (by omega) _).setLow (by omega) _).setLow (by omega) _).setLow (by omega) _).low (by omega)
    · exact ((((((HF.out.2.2.1.setLow (by omega) _).setLow (by omega) _).setLow (by omega) _).setLow (by omega) _).setLow (by omega) _).setLow (by omega) _).low (by omega)
    · exact fun _ => ⟨y1.heap.size, by omega, HF.out.2.2.2.2.1, fun q e => (HF.out.2.2.1.lt q e).1⟩
    · exact (((((HF.out.2.2.2.1.setCell (by dsimp only; omega) _).setCell (by dsimp only; omega) _).setCell (by dsimp only; omega) _).setCell (by dsimp only; omega) _).setCell (by dsimp only; omega) _).setCell (by dsimp only; omega) _

end Go.Proofs.YtclkfjlnhcccdaaGreatDoor

namespace Go.Proofs.YtclkfjlnhcccdaaGreatDoor
open Go.RowKit
set_option linter.unusedVariables false

/-- The program's key: an upload's name. -/
theorem implKeyU_any (p : ByteArray) (q : Int) (a : Option Addr) (n c : Nat) (b : Bool) (w : World) : Calls Tryz.prog 161 #[.agg #[.string p, .int .i64 q, .slice a n c, .bool b]] w fun e w' => e = .returned (.string p) ∧ Below w.heap.size w w' := by
  have HB : Hid (Below w.heap.size w (w.alloc (.cells #[.string p, .int .i64 q, .slice a n c, .bool b] 112))) := (Below.refl _ _).alloc (Nat.le_refl _) _
  go_enter Tryz.func161, Tryz.ntmps161
  go_wp2_with fail
  go_ret
  exact ⟨rfl, HB.out⟩

/-- The method by which an upload is asked for its key. -/
theorem keyMU (p : ByteArray) (q : Int) (a : Option Addr) (n c : Nat) (b : Bool) (w : World) : Sem.run Tryz.prog (Go.method 295 112 (.agg #[.string p, .int .i64 q, .slice a n c, .bool b]) "loop.example/g00199/impl.key") w = .ok (161, .agg #[.string p, .int .i64 q, .slice a n c, .bool b]) w := by kernel_rfl

/-- The upload that is reached: its place in memory, or none. -/
def reachUO (a : Option Addr) (k : Option Nat) : Option Addr :=
  match a, k with
  | some ad, some k => some ⟨ad.block, k * 4, none⟩
  | _, _ => none

theorem reachUO_none (a : Option Addr) : reachUO a none = none := by cases a <;> rfl

set_option maxRecDepth 10000 in
set_option maxHeartbeats 800000 in
theorem implReachU_any (a : Option Addr) (n c lo : Nat) (id : ByteArray) (l : List UE) (w : World) (h : UpRow w lo (.slice a n c) l) (hn : n = l.length) (hl : n ≤ 1099511627776) :
    Calls Tryz.prog 130 #[.slice a n c, .string id] w fun e w' => e = .returned (.pointer (reachUO a (atU (l.map UE.u) id))) ∧ Below w.heap.size w w' := by
  have HR : Hid (∀ W, Below w.heap.size w W → UpRow W lo (.slice a n c) l) := fun W hb => h.stays hb
  have HN : Hid (n = l.length) := hn
  clear h hn
  go_enter Tryz.func130, Tryz.ntmps130
  go_wp2_with fail
  go_loopw [8] (fun v wr => ∃ k : Nat, k ≤ n ∧ v = .int .i64 k ∧ Hid (Below w.heap.size w wr) ∧ Hid (∀ j (hj : j < l.length), j < k → (l[j]).u.id ≠ id)) (fun v _ => n - (intOf v).toNat)
  case atStart => exact ⟨0, Nat.zero_le _, rfl, Below.refl _ _, fun j _ hj => absurd hj (Nat.not_lt_zero _)⟩
  case round =>
    obtain ⟨k, hk, rfl, HB, HJ⟩ := hrel
    by_cases hlt : k < n
    · have hkl : k < l.length := by rw [← HN.out]; exact hlt
      have hki : (k : Int) < (n : Int) := by omega
      obtain ⟨g, rfl, g0, g1, g2, g3, _⟩ := (HR.out _ HB.out).at HN.out hkl
      have he := ids_eq (l[k]).u.id id
      by_cases hid : (l[k]).u.id = id
      · rw [decide_eq_true hid] at he
        have HF : Hid (atU (l.map UE.u) id = some k) := atU_some (k := k) (by simpa using hkl) (by simpa using hid) (fun j hj hjk => by simpa using HJ.out j (by simpa using hj) hjk)
        clear hid HJ HR HN
        generalize l[k] = x at *
        have hkm := keyMU x.u.id x.u.want x.a x.n x.c x.u.done
        go_wp2_with fail
        refine (implKeyU_any x.u.id x.u.want x.a x.n x.c x.u.done _).mono ?_
        rintro e w1 ⟨rfl, hb1⟩
        have HB1 : Hid (Below w.heap.size w w1) := HB.out.trans (hb1.mono HB.out.size)
        clear hb1
        go_wp2_with fail
        go_ret
        exact ⟨by rw [HF.out]; simp [reachUO], HB1.out⟩
      · rw [decide_eq_false hid] at he
        have HJ2 : Hid (∀ j (hj : j < l.length), j < k + 1 → (l[j]).u.id ≠ id) := fun j hj hjk => by
          by_cases e : j = k
          · subst e; exact hid
          · exact HJ.out j hj (by omega)
        clear hid HJ
        generalize l[k] = x at *
        have hkm := keyMU x.u.id x.u.want x.a x.n x.c x.u.done
        go_wp2_with fail
        refine (implKeyU_any x.u.id x.u.want x.a x.n x.c x.u.done _).mono ?_
        rintro e w1 ⟨rfl, hb1⟩
        have HB1 : Hid (Below w.heap.size w w1) := HB.out.trans (hb1.mono HB.out.size)
        clear hb1
        go_wp2_with fail
        go_roundw
        case rel => exact ⟨k + 1, by omega, by go_num, HB1, HJ2⟩
        case measure => simp [intOf]; omega
    · have HF : Hid (atU (l.map UE.u) id = none) := atU_none (fun j hj => by simpa using HJ.out j (by simpa using hj) (by have := HN.out; simp at hj; omega))
      have hkl : n = k := by omega
      clear HJ HR HN
      subst hkl
      go_wp2_with fail
      go_ret
      exact ⟨by rw [HF.out, reachUO_none]; rfl, HB.out⟩

end Go.Proofs.YtclkfjlnhcccdaaGreatDoor

namespace Go.Proofs.YtclkfjlnhcccdaaGreatDoor
open Go.RowKit
set_option linter.unusedVariables false

/-- The variable holds an error. -/
def ErrN (w : World) : Prop := 1 < w.heap.size ∧ ∃ t v, w.cell? ⟨1, 0, none⟩ = some (.iface t v)

theorem ErrN.below {w W : World} (h : ErrN w) (hb : Below w.heap.size w W) : ErrN W := by
  obtain ⟨h1, t, v, h2⟩ := h
  exact ⟨Nat.lt_of_lt_of_le h1 hb.size, t, v, (hb.cell (p := ⟨1, 0, none⟩) h1).trans h2⟩

/-- A call gave up by a panic. -/
def Pan (e : Ending) : Prop := ∃ t v, e = .panicked [{ v := .iface t v, recovered := false }]

theorem mustFit_yes (w : World) : Calls Tryz.prog 120 #[.bool true] w fun e w' => e = .returned (.tuple #[]) ∧ w' = w := by
  go_enter Tryz.func120, Tryz.ntmps120
  go_wp2_with fail
  go_end0
  exact ⟨rfl, rfl⟩

theorem mustFit_no (w : World) (h : ErrN w) : Calls Tryz.prog 120 #[.bool false] w fun e w' => Pan e ∧ w' = w := by
  obtain ⟨_, t, v, hc⟩ := h
  go_enter Tryz.func120, Tryz.ntmps120
  go_wp2_with fail
  exact ⟨rfl, ⟨t, v, rfl⟩, rfl⟩

/-- What must fit does, or it gives up. -/
theorem mustFit_any (b : Bool) (w : World) (h : ErrN w) : Calls Tryz.prog 120 #[.bool b] w fun e w' => ((b = true ∧ e = .returned (.tuple #[])) ∨ (b = false ∧ Pan e)) ∧ w' = w := by
  cases b with
  | true => exact (mustFit_yes w).mono (fun e w' h => ⟨.inl ⟨rfl, h.1⟩, h.2⟩)
  | false => exact (mustFit_no w h).mono (fun e w' h => ⟨.inr ⟨rfl, h.1⟩, h.2⟩)

/-- The upload that must be there is told, or it gave up. -/
def ThereAns (o : Option Nat) (a : Option Addr) (e : Ending) : Prop := (∃ k g, o = some k ∧ a = some ⟨g, 0, none⟩ ∧ e = .returned (.pointer (some ⟨g, k * 4, none⟩))) ∨ (o = none ∧ Pan e)

set_option maxRecDepth 10000 in
set_option maxHeartbeats 800000 in
theorem implThere_any (fb : Nat) (a : Option Addr) (n c lo : Nat) (id : ByteArray) (l : List UE) (w : World) (hf : BoxN w fb 128 [.slice a n c]) (h : UpRow w lo (.slice a n c) l) (hn : n = l.length) (hl : n ≤ 1099511627776) (he : ErrN w) :
    Calls Tryz.prog 132 #[.pointer (some ⟨fb, 0, none⟩), .string id] w fun e w' => ThereAns (atU (l.map UE.u) id) a e ∧ Below w.heap.size w w' := by
  have HE : Hid (ErrN w) := he
  have HR : Hid (Calls Tryz.prog 130 #[.slice a n c, .string id] w fun e w' => e = .returned (.pointer (reachUO a (atU (l.map UE.u) id))) ∧ Below w.heap.size w w') := implReachU_any a n c lo id l w h hn hl
  have f0 := hf.cell 0 rfl
  cases hk : atU (l.map UE.u) id with
  | none =>
    rw [hk, reachUO_none] at HR
    clear hf h hk hn
    go_enter Tryz.func132, Tryz.ntmps132
    go_wp2_with fail
    refine HR.out.mono ?_
    rintro e w1 ⟨rfl, hb1⟩
    have HB1 : Hid (Below w.heap.size w w1) := hb1
    clear hb1
    go_wp2_with fail
    refine (mustFit_no w1 (HE.out.below HB1.out)).mono ?_
    rintro e w2 ⟨⟨t, v, rfl⟩, rfl⟩
    go_wp2_with fail
    exact ⟨rfl, .inr ⟨rfl, t, v, rfl⟩, HB1.out⟩
  | some k =>
    have hkl : k < (l.map UE.u).length := (atU_is hk).1
    obtain ⟨g, hg⟩ : ∃ g, a = some ⟨g, 0, none⟩ := by
      obtain ⟨g, hg, _⟩ := h.at hn (by simpa using hkl)
      exact ⟨g, hg⟩
    rw [hk, hg] at HR
    clear hf h hk hkl hn
    have HR2 : Hid (Calls Tryz.prog 130 #[.slice (some ⟨g, 0, none⟩) n c, .string id] w fun e w' => e = .returned (.pointer (some ⟨g, k * 4, none⟩)) ∧ Below w.heap.size w w') := HR.out
    subst hg
    clear HR
    go_enter Tryz.func132, Tryz.ntmps132
    go_wp2_with fail
    refine HR2.out.mono ?_
    rintro e w1 ⟨rfl, hb1⟩
    have HB1 : Hid (Below w.heap.size w w1) := hb1
    clear hb1
    go_wp2_with fail
    refine (mustFit_yes w1).mono ?_
    rintro e w2 ⟨rfl, rfl⟩
    go_wp2_with fail
    go_ret
    exact ⟨.inl ⟨k, g, rfl, rfl, rfl⟩, HB1.out⟩

end Go.Proofs.YtclkfjlnhcccdaaGreatDoor
