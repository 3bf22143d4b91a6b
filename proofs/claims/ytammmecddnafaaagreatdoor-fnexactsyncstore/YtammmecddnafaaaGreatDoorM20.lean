/- What the program's copy of a store answers. Rows of records wherever they lie, their bytes wherever these do. No program in it. A copy of a disk in a variable, beside the disk and a variable for the answer. No statement of the program but its table of types. What the program's hasSector answers. What a put does: the model; no program in it. What the program's PutSector answers. What the program's written answers: a store with records behind its last one. What a function of the store answers, in memory. No program in it but its table of types. What the program's MakeUp answers. An append onto an empty literal, of whatever may be appended: nothing of what was there changes, and where the row lies behind it. No program in it. What spec.l12Copy answers. What the specification's l14CopyUps answers. What the specification's copy of a store answers. Two steps of a region that draws its order: a call that leaves the world as it was, an append onto a row of the call's own. No program in it. -/
import Derived.Test.YtammmecddnafaaaGreatDoorM19
import Derived.Test.YtammmecddnafaaaGreatDoorM19
import Derived.Test.YtammmecddnafaaaGreatDoorM19
import Derived.Test.YtammmecddnafaaaGreatDoorM04
import Derived.Test.YtammmecddnafaaaGreatDoorM19
import Derived.Test.YtammmecddnafaaaGreatDoorM12
import Derived.Test.YtammmecddnafaaaGreatDoorM03
import Derived.Test.YtammmecddnafaaaGreatDoorM13
import Derived.Deep.CutBlock
import Derived.Test.YtammmecddnafaaaGreatDoorM18
import Derived.Test.YtammmecddnafaaaGreatDoorM05
import Derived.Test.YtammmecddnafaaaGreatDoorM16
import Derived.Test.YtammmecddnafaaaGreatDoorM01
import Derived.Deep.RegionLaw
import Derived.Deep.RegionHeld3
import Derived.Test.YtammmecddnafaaaGreatDoorM11
import Derived.Test.YtammmecddnafaaaGreatDoorM11
import Derived.Laws.AppendOwn
import Derived.WalkKit
namespace Go.Proofs.YtammmecddnafaaaGreatDoor
open Go.RowKit
set_option linter.unusedVariables false

set_option maxRecDepth 10000 in
set_option maxHeartbeats 3200000 in
theorem implScopy_any (a : Option Addr) (n ca : Nat) (X : List ByteArray) (a' : Option Addr) (n' ca' : Nat) (Y : List ByteArray) (ep nx : Int) (ua : Option Addr) (un uc lo : Nat) (l : List UE) (w : World) (h1 : Strs w a n X) (h2 : Strs w a' n' Y) (hn : n ≤ 1048576) (hn' : n' ≤ 1048576) (hu : UpRow w lo (.slice ua un uc) l) (hun : un = l.length) (hul : un ≤ 1048576) (hz : ∀ e ∈ l, e.n ≤ 1099511627776) :
    Calls Tryz.prog 35 #[.agg #[.slice a n ca, .slice a' n' ca', .int .i64 ep, .int .i64 nx, .slice ua un uc]] w fun e w' => (∃ v, e = .returned v ∧ AnsS w.heap.size X Y ep nx (l.map UE.u) v w') ∧ Below w.heap.size w w' := by
  have HLn : Hid (un = l.length ∧ ∀ e ∈ l, e.n ≤ 1099511627776) := ⟨hun, hz⟩
  have HLen : Hid (∀ l2 : List UE, l2.map UE.u = l.map UE.u → un = l2.length) := fun l2 h => by have := congrArg List.length h; simp at this; rw [hun, this]
  obtain ⟨W2, hW2⟩ : ∃ W2, (w.alloc (.cells #[.slice a n ca, .slice a' n' ca', .int .i64 ep, .int .i64 nx, .slice ua un uc] 32)).alloc (.cells #[.slice none 0 0, .slice none 0 0, .int .i64 0, .int .i64 0, .slice none 0 0] 32) = W2 := ⟨_, rfl⟩
  have HE : Hid ((w.alloc (.cells #[.slice a n ca, .slice a' n' ca', .int .i64 ep, .int .i64 nx, .slice ua un uc] 32)).alloc (.cells #[.slice none 0 0, .slice none 0 0, .int .i64 0, .int .i64 0, .slice none 0 0] 32) = W2) := hW2
  have HB2 : Hid (Below w.heap.size w W2) := by show Below _ _ _; rw [← hW2]; exact ((Below.refl _ _).alloc (Nat.le_refl _) _).alloc (by simp) _
  have q1 : BoxN W2 w.heap.size 32 [.slice a n ca, .slice a' n' ca', .int .i64 ep, .int .i64 nx, .slice ua un uc] := by rw [← hW2]; exact (BoxN.new _ _ _).alloc _
  have q2 : BoxN W2 (w.heap.size + 1) 32 [.slice none 0 0, .slice none 0 0, .int .i64 0, .int .i64 0, .slice none 0 0] := by
    rw [← hW2]
    have := BoxN.new (w.alloc (.cells #[.slice a n ca, .slice a' n' ca', .int .i64 ep, .int .i64 nx, .slice ua un uc] 32)) 32 [.slice none 0 0, .slice none 0 0, .int .i64 0, .int .i64 0, .slice none 0 0]
    rwa [World.size_alloc] at this
  have HQ : Hid (∀ W, Below W2.heap.size W2 W → BoxN W w.heap.size 32 [.slice a n ca, .slice a' n' ca', .int .i64 ep, .int .i64 nx, .slice ua un uc] ∧ BoxN W (w.heap.size + 1) 32 [.slice none 0 0, .slice none 0 0, .int .i64 0, .int .i64 0, .slice none 0 0]) := fun W h => ⟨q1.stays h, q2.stays h⟩
  have HX : Hid (∀ W, Below W2.heap.size W2 W → Strs W a n X ∧ Strs W a' n' Y ∧ UpRow W lo (.slice ua un uc) l) := fun W h => by
    have hw := HB2.out.trans (h.mono HB2.out.size)
    exact ⟨h1.below hw, h2.below hw, hu.stays hw⟩
  have hs2 : w.heap.size + 1 < W2.heap.size := q2.lt
  clear hW2 q1 q2 h1 h2 hu hun hz
  go_enter Tryz.func35, Tryz.ntmps35
  go_upto_region 1 with fail
  rw [HE.out]
  clear HE
  refine wp_region_grow 11 [Stay.val (.pointer (some ⟨w.heap.size, 0, none⟩)), Stay.val (.agg #[.slice a n ca, .slice a' n' ca']), ⟨fun v W => ∃ A1 C1 A2 C2, v = .agg #[.slice A1 X.length C1, .slice A2 Y.length C2] ∧ OwnSt W W2.heap.size (.slice A1 X.length C1) X.length X ∧ OwnSt W W2.heap.size (.slice A2 Y.length C2) Y.length Y ∧ ∀ q, A1.map (·.block) = some q → A2.map (·.block) ≠ some q, fun ⟨A1, C1, A2, C2, h0, h1, h2, h3⟩ hb => ⟨A1, C1, A2, C2, h0, h1.below hb, h2.below hb, h3⟩⟩, Stay.val (.pointer (some ⟨w.heap.size, 2, none⟩)), Stay.val (.int .i64 ep), Stay.val (.pointer (some ⟨w.heap.size, 3, none⟩)), Stay.val (.int .i64 nx), Stay.val (.pointer (some ⟨w.heap.size, 4, none⟩)), Stay.val (.slice ua un uc), ⟨fun v W => ∃ va vc l2, v = .slice va un vc ∧ UpRow W W2.heap.size (.slice va un vc) l2 ∧ l2.map UE.u = l.map UE.u, fun ⟨va, vc, l2, h0, h1, h2⟩ hb => ⟨va, vc, l2, h0, h1.stays hb, h2⟩⟩, ⟨fun v W => ∃ A1 C1 A2 C2 va vc l2, v = .agg #[.slice A1 X.length C1, .slice A2 Y.length C2, .int .i64 ep, .int .i64 nx, .slice va un vc] ∧ StoAt W W2.heap.size A1 X.length C1 X A2 Y.length C2 Y va un vc l2 ∧ l2.map UE.u = l.map UE.u, fun ⟨A1, C1, A2, C2, va, vc, l2, h0, h1, h2⟩ hb => ⟨A1, C1, A2, C2, va, vc, l2, h0, h1.stays hb, h2⟩⟩] (by kernel_rfl) (by kernel_rfl) ?_ ?_
  · refine (all_succ (all_succ (all_succ (all_succ (all_succ (all_succ (all_succ (all_succ (all_succ (all_succ (all_succ all_zero ?g0) ?g1) ?g2) ?g3) ?g4) ?g5) ?g6) ?g7) ?g8) ?g9) ?g10)
    case g0 =>
      intro o ho vs W hb hd
      have HBW : Hid (Below w.heap.size w W) := HB2.out.trans (hb.mono HB2.out.size)
      have HS : Hid (W2.heap.size ≤ W.heap.size) := hb.size
      have HXW : Hid (Below W2.heap.size W2 W) := hb
      clear hb
      obtain rfl := Option.some.inj ho
      clear ho hd
      intro K hK
      simp only [List.take, putsT, put_mk, List.setIfInBounds_toArray, List.set_cons_succ, List.set_cons_zero] at hK ⊢
      have HK : Hid _ := hK
      clear hK
      go_wp2_with fail
      exact HK.out _ _ (Below.refl _ _) rfl
    case g1 =>
      intro o ho vs W hb hd
      have HBW : Hid (Below w.heap.size w W) := HB2.out.trans (hb.mono HB2.out.size)
      have HS : Hid (W2.heap.size ≤ W.heap.size) := hb.size
      have HXW : Hid (Below W2.heap.size W2 W) := hb
      clear hb
      obtain rfl := Option.some.inj ho
      have h0 : vs 0 = _ := hd 0 (by decide) (by kernel_rfl)
      clear ho hd
      have hq := (HQ.out _ HXW.out).1
      have c0 := hq.cell 0 rfl
      have c1 := hq.cell 1 rfl
      clear hq
      intro K hK
      simp only [List.take, putsT, put_mk, List.setIfInBounds_toArray, List.set_cons_succ, List.set_cons_zero] at hK ⊢
      rw [h0] at hK ⊢
      clear h0
      have HK : Hid _ := hK
      clear hK
      go_wp2_with fail
      exact HK.out _ _ (Below.refl _ _) rfl
    case g2 =>
      intro o ho vs W hb hd
      have HBW : Hid (Below w.heap.size w W) := HB2.out.trans (hb.mono HB2.out.size)
      have HS : Hid (W2.heap.size ≤ W.heap.size) := hb.size
      have HXW : Hid (Below W2.heap.size W2 W) := hb
      clear hb
      obtain rfl := Option.some.inj ho
      have h1 : vs 1 = _ := hd 1 (by decide) (by kernel_rfl)
      clear ho hd
      intro K hK
      simp only [List.take, putsT, put_mk, List.setIfInBounds_toArray, List.set_cons_succ, List.set_cons_zero] at hK ⊢
      rw [h1] at hK ⊢
      clear h1
      have HK : Hid _ := hK
      clear hK
      go_wp2_with fail
      refine (implDcopy_any a n ca X a' n' ca' Y W (HX.out _ HXW.out).1 (HX.out _ HXW.out).2.1 (by omega) (by omega)).mono ?_
      rintro e w' ⟨⟨v1, rfl, A1, C1, A2, C2, rfl, own1, own1', hap⟩, hb1⟩
      go_wp2_with fail
      exact HK.out _ _ hb1 ⟨_, _, _, _, rfl, own1.low HS.out, own1'.low HS.out, hap⟩
    case g3 =>
      intro o ho vs W hb hd
      have HBW : Hid (Below w.heap.size w W) := HB2.out.trans (hb.mono HB2.out.size)
      have HS : Hid (W2.heap.size ≤ W.heap.size) := hb.size
      have HXW : Hid (Below W2.heap.size W2 W) := hb
      clear hb
      obtain rfl := Option.some.inj ho
      clear ho hd
      intro K hK
      simp only [List.take, putsT, put_mk, List.setIfInBounds_toArray, List.set_cons_succ, List.set_cons_zero] at hK ⊢
      have HK : Hid _ := hK
      clear hK
      go_wp2_with fail
      exact HK.out _ _ (Below.refl _ _) rfl
    case g4 =>
      intro o ho vs W hb hd
      have HBW : Hid (Below w.heap.size w W) := HB2.out.trans (hb.mono HB2.out.size)
      have HS : Hid (W2.heap.size ≤ W.heap.size) := hb.size
      have HXW : Hid (Below W2.heap.size W2 W) := hb
      clear hb
      obtain rfl := Option.some.inj ho
      have h3 : vs 3 = _ := hd 3 (by decide) (by kernel_rfl)
      clear ho hd
      have hq := (HQ.out _ HXW.out).1
      have c2 := hq.cell 2 rfl
      clear hq
      intro K hK
      simp only [List.take, putsT, put_mk, List.setIfInBounds_toArray, List.set_cons_succ, List.set_cons_zero] at hK ⊢
      rw [h3] at hK ⊢
      clear h3
      have HK : Hid _ := hK
      clear hK
      go_wp2_with fail
      exact HK.out _ _ (Below.refl _ _) rfl
    case g5 =>
      intro o ho vs W hb hd
      have HBW : Hid (Below w.heap.size w W) := HB2.out.trans (hb.mono HB2.out.size)
      have HS : Hid (W2.heap.size ≤ W.heap.size) := hb.size
      have HXW : Hid (Below W2.heap.size W2 W) := hb
      clear hb
      obtain rfl := Option.some.inj ho
      clear ho hd
      intro K hK
      simp only [List.take, putsT, put_mk, List.setIfInBounds_toArray, List.set_cons_succ, List.set_cons_zero] at hK ⊢
      have HK : Hid _ := hK
      clear hK
      go_wp2_with fail
      exact HK.out _ _ (Below.refl _ _) rfl
    case g6 =>
      intro o ho vs W hb hd
      have HBW : Hid (Below w.heap.size w W) := HB2.out.trans (hb.mono HB2.out.size)
      have HS : Hid (W2.heap.size ≤ W.heap.size) := hb.size
      have HXW : Hid (Below W2.heap.size W2 W) := hb
      clear hb
      obtain rfl := Option.some.inj ho
      have h5 : vs 5 = _ := hd 5 (by decide) (by kernel_rfl)
      clear ho hd
      have hq := (HQ.out _ HXW.out).1
      have c3 := hq.cell 3 rfl
      clear hq
      intro K hK
      simp only [List.take, putsT, put_mk, List.setIfInBounds_toArray, List.set_cons_succ, List.set_cons_zero] at hK ⊢
      rw [h5] at hK ⊢
      clear h5
      have HK : Hid _ := hK
      clear hK
      go_wp2_with fail
      exact HK.out _ _ (Below.refl _ _) rfl
    case g7 =>
      intro o ho vs W hb hd
      have HBW : Hid (Below w.heap.size w W) := HB2.out.trans (hb.mono HB2.out.size)
      have HS : Hid (W2.heap.size ≤ W.heap.size) := hb.size
      have HXW : Hid (Below W2.heap.size W2 W) := hb
      clear hb
      obtain rfl := Option.some.inj ho
      clear ho hd
      intro K hK
      simp only [List.take, putsT, put_mk, List.setIfInBounds_toArray, List.set_cons_succ, List.set_cons_zero] at hK ⊢
      have HK : Hid _ := hK
      clear hK
      go_wp2_with fail
      exact HK.out _ _ (Below.refl _ _) rfl
    case g8 =>
      intro o ho vs W hb hd
      have HBW : Hid (Below w.heap.size w W) := HB2.out.trans (hb.mono HB2.out.size)
      have HS : Hid (W2.heap.size ≤ W.heap.size) := hb.size
      have HXW : Hid (Below W2.heap.size W2 W) := hb
      clear hb
      obtain rfl := Option.some.inj ho
      have h7 : vs 7 = _ := hd 7 (by decide) (by kernel_rfl)
      clear ho hd
      have hq := (HQ.out _ HXW.out).1
      have c4 := hq.cell 4 rfl
      clear hq
      intro K hK
      simp only [List.take, putsT, put_mk, List.setIfInBounds_toArray, List.set_cons_succ, List.set_cons_zero] at hK ⊢
      rw [h7] at hK ⊢
      clear h7
      have HK : Hid _ := hK
      clear hK
      go_wp2_with fail
      exact HK.out _ _ (Below.refl _ _) rfl
    case g9 =>
      intro o ho vs W hb hd
      have HBW : Hid (Below w.heap.size w W) := HB2.out.trans (hb.mono HB2.out.size)
      have HS : Hid (W2.heap.size ≤ W.heap.size) := hb.size
      have HXW : Hid (Below W2.heap.size W2 W) := hb
      clear hb
      obtain rfl := Option.some.inj ho
      have h8 : vs 8 = _ := hd 8 (by decide) (by kernel_rfl)
      clear ho hd
      intro K hK
      simp only [List.take, putsT, put_mk, List.setIfInBounds_toArray, List.set_cons_succ, List.set_cons_zero] at hK ⊢
      rw [h8] at hK ⊢
      clear h8
      have HK : Hid _ := hK
      clear hK
      go_wp2_with fail
      refine (implEachUp_any ua un uc lo l W (HX.out _ HXW.out).2.2 HLn.out.1 hul HLn.out.2).mono ?_
      rintro e w' ⟨⟨va, vc, l2, rfl, hr, hm⟩, hb1⟩
      go_wp2_with fail
      exact HK.out _ _ hb1 ⟨_, _, _, rfl, hr.low HS.out, hm⟩
    case g10 =>
      intro o ho vs W hb hd
      have HBW : Hid (Below w.heap.size w W) := HB2.out.trans (hb.mono HB2.out.size)
      have HS : Hid (W2.heap.size ≤ W.heap.size) := hb.size
      have HXW : Hid (Below W2.heap.size W2 W) := hb
      clear hb
      obtain rfl := Option.some.inj ho
      obtain ⟨A1, C1, A2, C2, h2, o1, o2, hap⟩ := hd 2 (by decide) (by kernel_rfl)
      have h4 : vs 4 = _ := hd 4 (by decide) (by kernel_rfl)
      have h6 : vs 6 = _ := hd 6 (by decide) (by kernel_rfl)
      obtain ⟨va, vc, l2, h9, hr, hm⟩ := hd 9 (by decide) (by kernel_rfl)
      clear ho hd
      have HA : Hid (StoAt W W2.heap.size A1 X.length C1 X A2 Y.length C2 Y va un vc l2) := ⟨o1, o2, hap, hr, HLen.out l2 hm⟩
      clear o1 o2 hap hr
      intro K hK
      simp only [List.take, putsT, put_mk, List.setIfInBounds_toArray, List.set_cons_succ, List.set_cons_zero] at hK ⊢
      rw [h2, h4, h6, h9] at hK ⊢
      clear h2 h4 h6 h9
      have HK : Hid _ := hK
      clear hK
      go_wp2_with fail
      exact HK.out _ _ (Below.refl _ _) ⟨_, _, _, _, _, _, _, rfl, HA.out, hm⟩
  intro vs W hb hd
  have HBW : Hid (Below w.heap.size w W) := HB2.out.trans (hb.mono HB2.out.size)
  have HS : Hid (W2.heap.size ≤ W.heap.size) := hb.size
  have HXW : Hid (Below W2.heap.size W2 W) := hb
  clear hb
  simp only [List.take, List.drop, putsT, put_mk, List.setIfInBounds_toArray, List.set_cons_succ, List.set_cons_zero]
  obtain ⟨A1, C1, A2, C2, va, vc, l2, h10, hS, hM⟩ := hd 10 (by decide)
  have h10 : vs 10 = _ := h10
  rw [h10]
  clear h10 hd HS
  have HSt : Hid (StoAt W W2.heap.size A1 X.length C1 X A2 Y.length C2 Y va un vc l2) := hS
  have HM : Hid (l2.map UE.u = l.map UE.u) := hM
  have hqr := (HQ.out _ HXW.out).2
  have r0 := hqr.cell 0 rfl
  have r1 := hqr.cell 1 rfl
  have r2 := hqr.cell 2 rfl
  have r3 := hqr.cell 3 rfl
  have r4 := hqr.cell 4 rfl
  have f0 := hqr.frozen 0
  have f1 := hqr.frozen 1
  have f2 := hqr.frozen 2
  have f3 := hqr.frozen 3
  have f4 := hqr.frozen 4
  clear hqr hS hM HXW HQ HX
  go_wp2_with fail
  refine bodyPost_ret (v := .agg #[.slice A1 X.length C1, .slice A2 Y.length C2, .int .i64 ep, .int .i64 nx, .slice va un vc]) (by simp [results, Tryz.f35, go_sem, r0, r1, r2, r3, r4]) rfl ?_
  refine ⟨⟨_, rfl, A1, X.length, C1, A2, Y.length, C2, va, un, vc, l2, rfl, ?_, HM.out⟩, ?_⟩
  · exact (((((HSt.out.setLow (by omega) _).setLow (by omega) _).setLow (by omega) _).setLow (by omega) _).setLow (by omega) _).low (by omega)
  · exact ((((HBW.out.setCell (by dsimp only; omega) _).setCell (by dsimp only; omega) _).setCell (by dsimp only; omega) _).setCell (by dsimp only; omega) _).setCell (by dsimp only; omega) _

end Go.Proofs.YtammmecddnafaaaGreatDoor

namespace Go.Proofs.YtammmecddnafaaaGreatDoor
open Go.RowKit
set_option linter.unusedVariables false

def RcsI (w : World) (a : Option Addr) (n : Nat) (l : List RE) : Prop :=
  l.length = n ∧ (∀ e ∈ l, Seg w e.a e.n e.r.zs) ∧
  (n = 0 ∨ ∃ b off, a = some ⟨b, off, none⟩ ∧ b < w.heap.size ∧ ∀ i (hi : i < l.length), w.cell? ⟨b, off + i * 6, none⟩ = some (.int .i64 (l[i]).r.e) ∧ w.cell? ⟨b, off + i * 6 + 1, none⟩ = some (.int .i64 (l[i]).r.q) ∧ w.cell? ⟨b, off + i * 6 + 2, none⟩ = some (.int .i64 (l[i]).r.k) ∧ w.cell? ⟨b, off + i * 6 + 3, none⟩ = some (.string (l[i]).r.id) ∧ w.cell? ⟨b, off + i * 6 + 4, none⟩ = some (.int .i64 (l[i]).r.n) ∧ w.cell? ⟨b, off + i * 6 + 5, none⟩ = some (.slice (l[i]).a (l[i]).n (l[i]).c))

theorem RcsI.below {w w' : World} {a : Option Addr} {n : Nat} {l : List RE} (h : RcsI w a n l) (hb : Below w.heap.size w w') : RcsI w' a n l := by
  obtain ⟨h1, h2, h3⟩ := h
  refine ⟨h1, fun e he => (h2 e he).below hb, ?_⟩
  rcases h3 with h3 | ⟨b, off, rfl, hlt, hc⟩
  · exact .inl h3
  · refine .inr ⟨b, off, rfl, Nat.lt_of_lt_of_le hlt hb.size, fun i hi => ?_⟩
    obtain ⟨c0, c1, c2, c3, c4, c5⟩ := hc i hi
    have key : ∀ j v, w.cell? ⟨b, j, none⟩ = some v → w'.cell? ⟨b, j, none⟩ = some v := fun j v hv => (hb.cell (p := ⟨b, j, none⟩) hlt).trans hv
    exact ⟨key _ _ c0, key _ _ c1, key _ _ c2, key _ _ c3, key _ _ c4, key _ _ c5⟩

/-- The cells of the record at an index. -/
theorem RcsI.at {w : World} {a : Option Addr} {n : Nat} {l : List RE} (h : RcsI w a n l) {i : Nat} (hi : i < l.length) : ∃ b off, a = some ⟨b, off, none⟩ ∧ w.cell? ⟨b, off + i * 6, none⟩ = some (.int .i64 (l[i]).r.e) ∧ w.cell? ⟨b, off + i * 6 + 1, none⟩ = some (.int .i64 (l[i]).r.q) ∧ w.cell? ⟨b, off + i * 6 + 2, none⟩ = some (.int .i64 (l[i]).r.k) ∧ w.cell? ⟨b, off + i * 6 + 3, none⟩ = some (.string (l[i]).r.id) ∧ w.cell? ⟨b, off + i * 6 + 4, none⟩ = some (.int .i64 (l[i]).r.n) ∧ w.cell? ⟨b, off + i * 6 + 5, none⟩ = some (.slice (l[i]).a (l[i]).n (l[i]).c) := by
  rcases h.2.2 with h0 | ⟨b, off, rfl, _, hc⟩
  · have := h.1; omega
  · exact ⟨b, off, rfl, hc i hi⟩

theorem RcRow.rcsI {w : World} {base n c : Nat} {a : Option Addr} {l : List RE} (h : RcRow w base (.slice a n c) l) (hn : n = l.length) : RcsI w a n l := by
  refine ⟨hn.symm, fun e he => (h.2.1 e he).seg, ?_⟩
  by_cases h0 : n = 0
  · exact .inl h0
  · have h1 : 0 < l.length := by omega
    obtain ⟨g, rfl, _⟩ := h.at hn h1
    have hlt := (h.1.lt g rfl).2
    refine .inr ⟨g, 0, rfl, hlt, fun i hi => ?_⟩
    obtain ⟨g', hg', c0, c1, c2, c3, c4, c5, _⟩ := h.at hn hi
    injection hg' with hg'
    injection hg' with hg'
    subst hg'
    simp only [Nat.zero_add]
    exact ⟨c0, c1, c2, c3, c4, c5⟩

end Go.Proofs.YtammmecddnafaaaGreatDoor

namespace Go.Proofs.YtammmecddnafaaaGreatDoor
open Go.RowKit
set_option linter.unusedVariables false

def DOut (w W : World) (d d' : Value) (o : Nat) (v v' : Value) (k k' : Nat) (X Y : List ByteArray) : Prop :=
  Box2R W w.heap.size 29 d d' ∧ Box2R W (w.heap.size + 1) 29 (.slice none 0 0) (.slice none 0 0) ∧ Box2R W o 29 v v' ∧
  OwnSt W (w.heap.size + 2) v k X ∧ OwnSt W (w.heap.size + 2) v' k' Y ∧ (∀ q, blkOf v = some q → q < o ∧ blkOf v' ≠ some q) ∧ (∀ q, blkOf v' = some q → q < o) ∧ w.heap.size + 2 ≤ o ∧ Below w.heap.size w W

section
variable {w W W' : World} {d d' v v' : Value} {o k k' : Nat} {X Y : List ByteArray}

theorem DOut.stays (h : DOut w W d d' o v v' k k' X Y) (hb : Below W.heap.size W W') : DOut w W' d d' o v v' k k' X Y := by
  obtain ⟨h1, h2, h3, h4, h5, h6, h7, h8, h9⟩ := h
  exact ⟨h1.stays hb, h2.stays hb, h3.stays hb, h4.below hb, h5.below hb, h6, h7, h8, h9.trans (hb.mono h9.size)⟩

theorem DOut.new {x : World} (h1 : Box2R W w.heap.size 29 d d') (h2 : Box2R W (w.heap.size + 1) 29 (.slice none 0 0) (.slice none 0 0)) (hz : W.heap.size = w.heap.size + 2) (hb : Below w.heap.size w W) (hx : Below W.heap.size W x)
    (o1 : OwnSt x W.heap.size v k X) (o2 : OwnSt x W.heap.size v' k' Y) (hne : ∀ q, blkOf v = some q → blkOf v' ≠ some q) : DOut w (x.alloc (.cells #[v, v'] 29)) d d' x.heap.size v v' k k' X Y := by
  have ha := (Below.refl x.heap.size x).alloc (Nat.le_refl _) (.cells #[v, v'] 29)
  have hxs := hx.size
  refine ⟨(h1.stays hx).alloc _, (h2.stays hx).alloc _, Box2R.new _ _ _ _, (o1.below ha).low (by omega), (o2.below ha).low (by omega), fun q e => ⟨(o1.lt q e).2, hne q e⟩, fun q e => (o2.lt q e).2, by omega, ?_⟩
  have hbx := hb.trans (hx.mono hb.size)
  exact hbx.alloc hbx.size _

/-- One text of the first row is written. -/
theorem DOut.put0 {g c j : Nat} (h : DOut w W d d' o (.slice (some ⟨g, 0, none⟩) k c) v' k k' X Y) (x : ByteArray) (hx : x.size ≤ maxLen) : DOut w (W.setCell ⟨g, j, none⟩ (.string x)) d d' o (.slice (some ⟨g, 0, none⟩) k c) v' k k' (X.set j x) Y := by
  obtain ⟨h1, h2, h3, h4, h5, h6, h7, h8, h9⟩ := h
  have hg := (h4.lt g rfl).1
  have hgo := (h6 g rfl).1
  have hst := (h4.1.stored j (.string x)).1
  rw [scells_set] at hst
  refine ⟨h1.other (by omega) _, h2.other (by omega) _, h3.other (by omega) _, ⟨hst, fun y hy => ?_⟩, h5.setCell (h6 g rfl).2 _, h6, h7, h8, h9.setCell (by dsimp only; omega) _⟩
  rcases List.mem_or_eq_of_mem_set hy with hy | rfl
  · exact h4.2 y hy
  · exact hx

/-- One text of the second row is written. -/
theorem DOut.put1 {g c j : Nat} (h : DOut w W d d' o v (.slice (some ⟨g, 0, none⟩) k' c) k k' X Y) (x : ByteArray) (hx : x.size ≤ maxLen) : DOut w (W.setCell ⟨g, j, none⟩ (.string x)) d d' o v (.slice (some ⟨g, 0, none⟩) k' c) k k' X (Y.set j x) := by
  obtain ⟨h1, h2, h3, h4, h5, h6, h7, h8, h9⟩ := h
  have hg := (h5.lt g rfl).1
  have hgo := h7 g rfl
  have hst := (h5.1.stored j (.string x)).1
  rw [scells_set] at hst
  refine ⟨h1.other (by omega) _, h2.other (by omega) _, h3.other (by omega) _, h4.setCell (fun e => (h6 g e).2 rfl) _, ⟨hst, fun y hy => ?_⟩, h6, h7, h8, h9.setCell (by dsimp only; omega) _⟩
  rcases List.mem_or_eq_of_mem_set hy with hy | rfl
  · exact h5.2 y hy
  · exact hx

/-- The copy is the answer. -/
theorem DOut.done {A A' : Option Addr} {c c' : Nat} (h : DOut w W d d' o (.slice A k c) (.slice A' k' c') k k' X Y) : AnsD w.heap.size X Y (.agg #[.slice A k c, .slice A' k' c']) ((W.setCell ⟨w.heap.size + 1, 0, none⟩ (.slice A k c)).setCell ⟨w.heap.size + 1, 1, none⟩ (.slice A' k' c')) ∧ Below w.heap.size w ((W.setCell ⟨w.heap.size + 1, 0, none⟩ (.slice A k c)).setCell ⟨w.heap.size + 1, 1, none⟩ (.slice A' k' c')) := by
  obtain ⟨h1, h2, h3, h4, h5, h6, h7, h8, h9⟩ := h
  have n0 : blkOf (.slice A k c) ≠ some (w.heap.size + 1) := fun e => by have := (h4.lt _ e).1; omega
  have n1 : blkOf (.slice A' k' c') ≠ some (w.heap.size + 1) := fun e => by have := (h5.lt _ e).1; omega
  refine ⟨AnsD.mk' h4.len h5.len (((h4.setCell n0 _).setCell n0 _).low (by omega)) (((h5.setCell n1 _).setCell n1 _).low (by omega)) (fun q e e2 => ?_), (h9.setCell (by dsimp only; omega) _).setCell (by dsimp only; omega) _⟩
  refine (h6 q ?_).2 ?_
  · cases A <;> simp_all [blkOf]
  · cases A' <;> simp_all [blkOf]
end

end Go.Proofs.YtammmecddnafaaaGreatDoor

namespace Go.Proofs.YtammmecddnafaaaGreatDoor
open Go.RowKit
set_option linter.unusedVariables false

theorem ret_bH {a b : Bool} (h : a = b) : Ending.returned (.bool a) = .returned (.bool b) := by rw [h]

/-- Whether there is a sector i. -/
def hasB (n : Nat) (i : Int) : Bool := decide (0 ≤ i ∧ i < (n : Int))

theorem implHas_any (a : Option Addr) (n ca : Nat) (a' : Option Addr) (n' ca' : Nat) (i : Int) (w : World) (hn : n ≤ 1099511627776) :
    Calls Tryz.prog 94 #[.agg #[.slice a n ca, .slice a' n' ca'], .int .i64 i] w fun e w' => e = .returned (.bool (hasB n i)) ∧ Below w.heap.size w w' := by
  have HB : Hid (Below w.heap.size w (w.alloc (Obj.cells #[Value.slice a n ca, Value.slice a' n' ca'] 29))) := (Below.refl _ _).alloc (Nat.le_refl _) _
  by_cases h0 : 0 ≤ i
  · have HF : Hid (hasB n i = decide (i < (n : Int))) := by
      show _ = _
      rw [hasB, decide_eq_decide]
      omega
    go_enter Tryz.func94, Tryz.ntmps94
    go_wp2_with fail
    go_ret
    exact ⟨ret_bH HF.out.symm, HB.out⟩
  · have HF : Hid (hasB n i = false) := decide_eq_false (by omega)
    go_enter Tryz.func94, Tryz.ntmps94
    go_wp2_with fail
    go_ret
    exact ⟨ret_bH HF.out.symm, HB.out⟩

end Go.Proofs.YtammmecddnafaaaGreatDoor

namespace Go.Proofs.YtammmecddnafaaaGreatDoor
open Go.RowKit
set_option linter.unusedVariables false

/-- Whether a sector may be put. -/
def mayPut (xs ys : List ByteArray) (i : Int) (s : ByteArray) : Bool := okD xs ys && decide (0 ≤ i ∧ i ≤ (xs.length : Int) - 1) && decide (s.size ≤ 64)

/-- The sectors behind a put. -/
def putX (xs ys : List ByteArray) (i : Int) (s : ByteArray) : List ByteArray := if mayPut xs ys i s then xs.set i.toNat s else xs

theorem putX_len (xs ys : List ByteArray) (i : Int) (s : ByteArray) : (putX xs ys i s).length = xs.length := by
  rw [putX]
  split
  · rw [List.length_set]
  · rfl

end Go.Proofs.YtammmecddnafaaaGreatDoor

namespace Go.Proofs.YtammmecddnafaaaGreatDoor
open Go.RowKit
set_option linter.unusedVariables false

theorem blkOf_sP (a : Option Addr) (n c : Nat) : blkOf (.slice a n c) = a.map (·.block) := by cases a <;> rfl

set_option maxRecDepth 10000 in
set_option maxHeartbeats 3200000 in
theorem implPutD_any (a : Option Addr) (n ca : Nat) (xs : List ByteArray) (a' : Option Addr) (n' ca' : Nat) (ys : List ByteArray) (i : Int) (s : ByteArray) (w : World) (h1 : Strs w a n xs) (h2 : Strs w a' n' ys) (hn : n ≤ 2097152) (hn' : n' ≤ 2097152) (hs : s.size ≤ maxLen) :
    Calls Tryz.prog 68 #[.agg #[.slice a n ca, .slice a' n' ca'], .int .i64 i, .string s] w fun e w' => (∃ v, e = .returned (.tuple #[v, .bool (mayPut xs ys i s)]) ∧ AnsD w.heap.size (putX xs ys i s) ys v w') ∧ Below w.heap.size w w' := by
  have HX : Hid (∀ W, Below w.heap.size w W → Strs W a n xs ∧ Strs W a' n' ys) := fun W h => ⟨h1.below h, h2.below h⟩
  have HLn : Hid (xs.length = n ∧ ys.length = n') := ⟨h1.1, h2.1⟩
  obtain ⟨W2, hW2⟩ : ∃ W2, (w.alloc (.cells #[.slice a n ca, .slice a' n' ca'] 29)).alloc (.cells #[.slice none 0 0, .slice none 0 0] 29) = W2 := ⟨_, rfl⟩
  have HE : Hid ((w.alloc (.cells #[.slice a n ca, .slice a' n' ca'] 29)).alloc (.cells #[.slice none 0 0, .slice none 0 0] 29) = W2) := hW2
  have HB2 : Hid (Below w.heap.size w W2) := by show Below _ _ _; rw [← hW2]; exact ((Below.refl _ _).alloc (Nat.le_refl _) _).alloc (by simp) _
  have HZ2 : Hid (W2.heap.size = w.heap.size + 2) := by show _ = _; rw [← hW2]; simp
  have HQ1 : Hid (Box2R W2 w.heap.size 29 (.slice a n ca) (.slice a' n' ca')) := by show Box2R _ _ _ _ _; rw [← hW2]; exact (Box2R.new _ _ _ _).alloc _
  have HQ2 : Hid (Box2R W2 (w.heap.size + 1) 29 (.slice none 0 0) (.slice none 0 0)) := by
    show Box2R _ _ _ _ _
    rw [← hW2]
    have := Box2R.new (w.alloc (.cells #[.slice a n ca, .slice a' n' ca'] 29)) 29 (.slice none 0 0) (.slice none 0 0)
    rwa [World.size_alloc] at this
  clear hW2 h1 h2
  go_enter Tryz.func68, Tryz.ntmps68
  go_upto_region 1 with fail
  rw [HE.out]
  clear HE
  obtain ⟨c0, c1⟩ := HQ1.out.cells
  go_wp2_with fail
  refine (implDcopy_any a n ca xs a' n' ca' ys _ (HX.out _ HB2.out).1 (HX.out _ HB2.out).2 hn hn').mono ?_
  rintro e x3 ⟨⟨v, rfl, A, C, A', C', rfl, o1, o2, hap⟩, hb3⟩
  rw [HLn.out.1] at o1 ⊢
  rw [HLn.out.2] at o2 ⊢
  have HD : Hid (DOut w (x3.alloc (.cells #[.slice A n C, .slice A' n' C'] 29)) (.slice a n ca) (.slice a' n' ca') x3.heap.size (.slice A n C) (.slice A' n' C') n n' xs ys) := DOut.new HQ1.out HQ2.out HZ2.out HB2.out hb3 o1 o2 (fun q e e2 => by rw [blkOf_sP] at e e2; exact hap q e e2)
  clear o1 o2 hap hb3 HQ1 HQ2 HB2 HZ2 c0 c1
  go_upto_region 2 with fail
  obtain ⟨W3, hW3⟩ : ∃ W3, x3.alloc (.cells #[.slice A n C, .slice A' n' C'] 29) = W3 := ⟨_, rfl⟩
  rw [hW3] at HD ⊢
  clear hW3
  generalize x3.heap.size = o at *
  obtain ⟨c0, c1⟩ := HD.out.1.cells
  go_wp2_with fail
  refine (implDok_any a n ca xs a' n' ca' ys _ (HX.out _ HD.out.2.2.2.2.2.2.2.2).1 (HX.out _ HD.out.2.2.2.2.2.2.2.2).2 (by omega) (by omega)).mono ?_
  rintro e x4 ⟨rfl, hb4⟩
  have HDx : Hid (DOut w x4 (.slice a n ca) (.slice a' n' ca') o (.slice A n C) (.slice A' n' C') n n' xs ys) := HD.out.stays hb4
  clear hb4 HD c0 c1
  cases hok : okD xs ys
  · have HM : Hid (mayPut xs ys i s = false) := by show _ = _; rw [mayPut, hok]; rfl
    have HP : Hid (putX xs ys i s = xs) := by show _ = _; rw [putX, HM.out]; rfl
    clear hok
    obtain ⟨c0, c1⟩ := HDx.out.2.2.1.cells
    obtain ⟨r0, r1⟩ := HDx.out.2.1.cells
    have f0 := HDx.out.2.1.frozen 0
    have f1 := HDx.out.2.1.frozen 1
    have HR := (show Hid _ from HDx.out.done)
    clear HDx
    go_wp2_with fail
    refine bodyPost_ret (v := .tuple #[.agg #[.slice A n C, .slice A' n' C'], .bool false]) (by simp [results, Tryz.f68, go_sem, r0, r1]) rfl ?_
    exact ⟨⟨_, by rw [HM.out], by rw [HP.out]; exact HR.out.1⟩, HR.out.2⟩
  obtain ⟨c0, c1⟩ := HDx.out.1.cells
  go_wp2_with fail
  refine (implHas_any a n ca a' n' ca' i _ (by omega)).mono ?_
  rintro e x5 ⟨rfl, hb5⟩
  have HD5 : Hid (DOut w x5 (.slice a n ca) (.slice a' n' ca') o (.slice A n C) (.slice A' n' C') n n' xs ys) := HDx.out.stays hb5
  clear hb5 HDx c0 c1
  have HDx := HD5
  clear HD5
  by_cases hin : 0 ≤ i ∧ i ≤ (n : Int) - 1
  case neg =>
    have HM : Hid (mayPut xs ys i s = false) := by show _ = _; rw [mayPut, hok, HLn.out.1, decide_eq_false hin]; rfl
    have HP : Hid (putX xs ys i s = xs) := by show _ = _; rw [putX, HM.out]; rfl
    rw [show hasB n i = false from decide_eq_false (by omega)]
    clear hok hin
    obtain ⟨c0, c1⟩ := HDx.out.2.2.1.cells
    obtain ⟨r0, r1⟩ := HDx.out.2.1.cells
    have f0 := HDx.out.2.1.frozen 0
    have f1 := HDx.out.2.1.frozen 1
    have HR := (show Hid _ from HDx.out.done)
    clear HDx
    go_wp2_with fail
    refine bodyPost_ret (v := .tuple #[.agg #[.slice A n C, .slice A' n' C'], .bool false]) (by simp [results, Tryz.f68, go_sem, r0, r1]) rfl ?_
    exact ⟨⟨_, by rw [HM.out], by rw [HP.out]; exact HR.out.1⟩, HR.out.2⟩
  rw [show hasB n i = true from decide_eq_true (by omega)]
  by_cases hsz : s.size ≤ 64
  case neg =>
    have HM : Hid (mayPut xs ys i s = false) := by show _ = _; rw [mayPut, decide_eq_false hsz, Bool.and_false]
    have HP : Hid (putX xs ys i s = xs) := by show _ = _; rw [putX, HM.out]; rfl
    have hft : fitsD s = false := decide_eq_false hsz
    clear hok hin
    go_wp2_with fail
    refine (implLong_any s _ hs).mono ?_
    rintro e x6 ⟨rfl, rfl⟩
    rw [hft]
    obtain ⟨c0, c1⟩ := HDx.out.2.2.1.cells
    obtain ⟨r0, r1⟩ := HDx.out.2.1.cells
    have f0 := HDx.out.2.1.frozen 0
    have f1 := HDx.out.2.1.frozen 1
    have HR := (show Hid _ from HDx.out.done)
    clear HDx
    go_wp2_with fail
    refine bodyPost_ret (v := .tuple #[.agg #[.slice A n C, .slice A' n' C'], .bool false]) (by simp [results, Tryz.f68, go_sem, r0, r1]) rfl ?_
    exact ⟨⟨_, by rw [HM.out], by rw [HP.out]; exact HR.out.1⟩, HR.out.2⟩
  have HM : Hid (mayPut xs ys i s = true) := by show _ = _; rw [mayPut, hok, HLn.out.1, decide_eq_true hin, decide_eq_true hsz]; rfl
  have hft : fitsD s = true := decide_eq_true hsz
  obtain ⟨K, rfl⟩ := Int.eq_ofNat_of_zero_le hin.1
  have hK : K < n := by omega
  have HP : Hid (putX xs ys (K : Int) s = xs.set K s) := by show _ = _; rw [putX, HM.out, if_pos rfl, Int.toNat_natCast]
  clear hok
  obtain ⟨g, rfl⟩ : ∃ g, A = some ⟨g, 0, none⟩ := by
    rcases HDx.out.2.2.2.1.1.2 with ⟨_, h0⟩ | ⟨g, cap', cur, he, _⟩
    · omega
    · injection he with e1 _ _
      exact ⟨g, e1⟩
  have hKi : (K : Int) < (n : Int) := by omega
  go_wp2_with fail
  refine (implLong_any s _ hs).mono ?_
  rintro e x6 ⟨rfl, rfl⟩
  rw [hft]
  obtain ⟨c0, c1⟩ := HDx.out.2.2.1.cells
  have hcl : (scells xs).length = n := by rw [scells_len, HLn.out.1]
  have fz : x6.frozen? ⟨g, K, none⟩ = false := HDx.out.2.2.2.1.1.frozenAt _
  obtain ⟨u0, hu0⟩ : ∃ u, x6.cell? ⟨g, K, none⟩ = some u := by
    rw [HDx.out.2.2.2.1.1.cellAt _ (by omega)]
    exact ⟨_, List.getElem?_eq_getElem (by omega)⟩
  clear hcl
  have HD6 : Hid (DOut w (x6.setCell ⟨g, K, none⟩ (.string s)) (.slice a n ca) (.slice a' n' ca') o (.slice (some ⟨g, 0, none⟩) n C) (.slice A' n' C') n n' (xs.set K s) ys) := HDx.out.put0 s hs
  clear HDx
  go_upto_region 5 with fail
  obtain ⟨W6, hW6⟩ : ∃ W6, x6.setCell ⟨g, K, none⟩ (.string s) = W6 := ⟨_, rfl⟩
  rw [hW6] at HD6 ⊢
  clear hW6 c0 c1 fz hu0
  have HDx := HD6
  clear HD6
  obtain ⟨c0, c1⟩ := HDx.out.2.2.1.cells
  obtain ⟨r0, r1⟩ := HDx.out.2.1.cells
  have f0 := HDx.out.2.1.frozen 0
  have f1 := HDx.out.2.1.frozen 1
  have HR := (show Hid _ from HDx.out.done)
  clear HDx
  go_wp2_with fail
  refine bodyPost_ret (v := .tuple #[.agg #[.slice (some ⟨g, 0, none⟩) n C, .slice A' n' C'], .bool true]) (by simp [results, Tryz.f68, go_sem, r0, r1]) rfl ?_
  exact ⟨⟨_, by rw [HM.out], by rw [HP.out]; exact HR.out.1⟩, HR.out.2⟩

end Go.Proofs.YtammmecddnafaaaGreatDoor

namespace Go.Proofs.YtammmecddnafaaaGreatDoor
open Go.RowKit
set_option linter.unusedVariables false

/-- One more record that is written. -/
theorem wroteX_step {X : List ByteArray} {ep : Int} {nx : Nat} {rs : List R} {k : Nat} {r : R} (h : rs[k]? = some r) : wroteX X ep nx (rs.take (k + 1)) = (wroteX X ep nx (rs.take k)).set (nx + k) (txU (r.at ep (nx + k)).put) := by
  have hk : k < rs.length := (List.getElem?_eq_some_iff.1 h).1
  rw [List.take_add_one, h]
  show wroteX X ep nx (rs.take k ++ [r]) = _
  rw [wroteX_snoc, List.length_take, Nat.min_eq_left (by omega)]

theorem foldlM_takeW {rs : List R} {us us' : List U} (h : rs.foldlM oneU us = some us') (k : Nat) : ∃ u1, (rs.take k).foldlM oneU us = some u1 := by
  have e : rs = rs.take k ++ rs.drop k := (List.take_append_drop k rs).symm
  rw [e, List.foldlM_append] at h
  cases h1 : (rs.take k).foldlM oneU us with
  | none => rw [h1] at h; cases h
  | some u1 => exact ⟨u1, rfl⟩

set_option maxRecDepth 10000 in
set_option maxHeartbeats 3200000 in
theorem implWritten_any (a : Option Addr) (n ca : Nat) (X : List ByteArray) (a' : Option Addr) (n' ca' : Nat) (Y : List ByteArray) (ep nx : Int) (ua : Option Addr) (un uc lo : Nat) (l : List UE) (ra : Option Addr) (m rc : Nat) (rs : List RE) (us' : List U) (w : World) (h1 : Strs w a n X) (h2 : Strs w a' n' Y) (hn : n ≤ 1048576) (hn' : n' ≤ 1048576) (hzx : ∀ x ∈ X, x.size ≤ 1048576) (hu : UpRow w lo (.slice ua un uc) l) (hun : un = l.length) (hul : un ≤ 1048576) (hz : ∀ e ∈ l, e.n ≤ 1099511627776) (ht : RecT w) (he : ErrN w)
    (hrow : RcsI w ra m rs) (hso : SOk X Y ep nx (l.map UE.u)) (hk : ∀ r ∈ rs.map RE.r, idB r.id.data.toList = true ∧ kindB r.k r.n r.zs.length = true ∧ ∀ x ∈ r.zs, 0 ≤ x ∧ x ≤ 255) (hl : nx + (m : Int) ≤ (X.length : Int)) (ho : (rs.map RE.r).foldlM oneU (l.map UE.u) = some us') :
    Calls Tryz.prog 36 #[.agg #[.slice a n ca, .slice a' n' ca', .int .i64 ep, .int .i64 nx, .slice ua un uc], .slice ra m rc] w fun e w' => (∃ v, e = .returned v ∧ AnsS w.heap.size (wroteX X ep nx.toNat (rs.map RE.r)) Y ep (nx + (m : Int)) us' v w') ∧ Below w.heap.size w w' := by
  have hmm : maxLen < 9223372036854775808 := by decide
  obtain ⟨hen, hn0, hnX, hX200⟩ := hso.nums
  have hY2 : Y.length ≤ 200 := by have := (okD_iff.1 hso.1).1; omega
  obtain ⟨W2, hW2⟩ : ∃ W2, (w.alloc (.cells #[.slice a n ca, .slice a' n' ca', .int .i64 ep, .int .i64 nx, .slice ua un uc] 32)).alloc (.cells #[.slice none 0 0, .slice none 0 0, .int .i64 0, .int .i64 0, .slice none 0 0] 32) = W2 := ⟨_, rfl⟩
  have HE : Hid ((w.alloc (.cells #[.slice a n ca, .slice a' n' ca', .int .i64 ep, .int .i64 nx, .slice ua un uc] 32)).alloc (.cells #[.slice none 0 0, .slice none 0 0, .int .i64 0, .int .i64 0, .slice none 0 0] 32) = W2) := hW2
  have HB2 : Hid (Below w.heap.size w W2) := by show Below _ _ _; rw [← hW2]; exact ((Below.refl _ _).alloc (Nat.le_refl _) _).alloc (by simp) _
  have q1 : BoxN W2 w.heap.size 32 [.slice a n ca, .slice a' n' ca', .int .i64 ep, .int .i64 nx, .slice ua un uc] := by rw [← hW2]; exact (BoxN.new _ _ _).alloc _
  have q2 : BoxN W2 (w.heap.size + 1) 32 [.slice none 0 0, .slice none 0 0, .int .i64 0, .int .i64 0, .slice none 0 0] := by
    rw [← hW2]
    have := BoxN.new (w.alloc (.cells #[.slice a n ca, .slice a' n' ca', .int .i64 ep, .int .i64 nx, .slice ua un uc] 32)) 32 [.slice none 0 0, .slice none 0 0, .int .i64 0, .int .i64 0, .slice none 0 0]
    rwa [World.size_alloc] at this
  have HQ : Hid (∀ W, Below W2.heap.size W2 W → BoxN W w.heap.size 32 [.slice a n ca, .slice a' n' ca', .int .i64 ep, .int .i64 nx, .slice ua un uc] ∧ BoxN W (w.heap.size + 1) 32 [.slice none 0 0, .slice none 0 0, .int .i64 0, .int .i64 0, .slice none 0 0]) := fun W h => ⟨q1.stays h, q2.stays h⟩
  have HX : Hid (∀ W, Below W2.heap.size W2 W → Strs W a n X ∧ Strs W a' n' Y ∧ UpRow W lo (.slice ua un uc) l ∧ RcsI W ra m rs ∧ RecT W ∧ ErrN W) := fun W h => by
    have hw := HB2.out.trans (h.mono HB2.out.size)
    exact ⟨h1.below hw, h2.below hw, hu.stays hw, hrow.below hw, ht.below hw, he.below hw⟩
  have HL : Hid (un = l.length ∧ (∀ e ∈ l, e.n ≤ 1099511627776) ∧ (∀ x ∈ X, x.size ≤ 1048576) ∧ X.length = n ∧ rs.length = m) := ⟨hun, hz, hzx, h1.1, hrow.1⟩
  have HSo : Hid (SOk X Y ep nx (l.map UE.u)) := hso
  have HK : Hid (∀ r ∈ rs.map RE.r, idB r.id.data.toList = true ∧ kindB r.k r.n r.zs.length = true ∧ ∀ x ∈ r.zs, 0 ≤ x ∧ x ≤ 255) := hk
  have HO : Hid ((rs.map RE.r).foldlM oneU (l.map UE.u) = some us') := ho
  have hs2 : w.heap.size + 1 < W2.heap.size := q2.lt
  obtain ⟨M, hM⟩ := Int.eq_ofNat_of_zero_le hn0
  have HMe : Hid (nx.toNat = M) := by show _ = _; omega
  have hmX : M + m ≤ X.length := by omega
  have HXn : Hid (X.length = n) := h1.1
  clear hW2 q1 q2 h1 h2 hu hun hz hzx ht he hrow hso hk ho hnX
  subst hM
  obtain ⟨c0, c1, c2, c3, c4⟩ := (show _ ∧ _ ∧ _ ∧ _ ∧ _ from ⟨(HQ.out _ (Below.refl _ _)).1.cell 0 rfl, (HQ.out _ (Below.refl _ _)).1.cell 1 rfl, (HQ.out _ (Below.refl _ _)).1.cell 2 rfl, (HQ.out _ (Below.refl _ _)).1.cell 3 rfl, (HQ.out _ (Below.refl _ _)).1.cell 4 rfl⟩)
  go_enter Tryz.func36, Tryz.ntmps36
  go_upto_region 1 with fail
  rw [HE.out]
  clear HE
  go_wp2_with fail
  refine (implScopy_any a n ca X a' n' ca' Y ep (M : Int) ua un uc lo l W2 (HX.out _ (Below.refl _ _)).1 (HX.out _ (Below.refl _ _)).2.1 hn hn' (HX.out _ (Below.refl _ _)).2.2.1 HL.out.1 hul HL.out.2.1).mono ?_
  rintro e y1 ⟨⟨v, rfl, hv⟩, hb1⟩
  obtain ⟨b, cb, b', cb', va, vc, l', rfl, hs1, hm1⟩ := hv.get
  rw [List.length_map, ← HL.out.1] at hs1 ⊢
  have HBx : Hid (BoxN (y1.alloc (.cells #[.slice b X.length cb, .slice b' Y.length cb', .int .i64 ep, .int .i64 (M : Int), .slice va un vc] 32)) y1.heap.size 32 [.slice b X.length cb, .slice b' Y.length cb', .int .i64 ep, .int .i64 (M : Int), .slice va un vc]) := BoxN.new _ _ _
  have HSx : Hid (StoAt (y1.alloc (.cells #[.slice b X.length cb, .slice b' Y.length cb', .int .i64 ep, .int .i64 (M : Int), .slice va un vc] 32)) W2.heap.size b X.length cb X b' Y.length cb' Y va un vc l') := hs1.stays ((Below.refl _ _).alloc (Nat.le_refl _) _)
  have HWx : Hid (Below W2.heap.size W2 (y1.alloc (.cells #[.slice b X.length cb, .slice b' Y.length cb', .int .i64 ep, .int .i64 (M : Int), .slice va un vc] 32))) := hb1.alloc hb1.size _
  have hlo : W2.heap.size ≤ y1.heap.size := hb1.size
  clear hv hs1 hb1 hm1 c0 c1 c2 c3 c4
  go_wp2_with fail
  obtain ⟨w1, hw1⟩ : ∃ w1, y1.alloc (.cells #[.slice b X.length cb, .slice b' Y.length cb', .int .i64 ep, .int .i64 (M : Int), .slice va un vc] 32) = w1 := ⟨_, rfl⟩
  rw [hw1] at HBx HSx HWx ⊢
  clear hw1
  generalize y1.heap.size = bo at *
  go_loopw [12] (fun i wr => ∃ (k : Nat) (A A' : Option Addr) (C C' : Nat) (J : Int), k ≤ m ∧ i = .int .i64 (k : Int) ∧ Hid (J = ((M + k : Nat) : Int)) ∧ Hid (BoxN wr bo 32 [.slice A X.length C, .slice A' Y.length C', .int .i64 ep, .int .i64 J, .slice va un vc]) ∧ Hid (StoAt wr W2.heap.size A X.length C (wroteX X ep M ((rs.map RE.r).take k)) A' Y.length C' Y va un vc l') ∧ Hid (Below W2.heap.size W2 wr)) (fun i _ => m - (intOf i).toNat)
  case atStart => exact ⟨0, b, b', cb, cb', (M : Int), Nat.zero_le _, rfl, rfl, HBx, HSx, HWx⟩
  case round =>
    clear HBx HSx HWx
    obtain ⟨k, A, A', C, C', J, hkm, rfl, HJ, HBx, HSx, HWx⟩ := hrel
    have hbo : bo < wr.heap.size := HBx.out.lt
    by_cases hlt : k < m
    case neg =>
      obtain rfl : k = m := by omega
      have HSo2 : Hid (SOk (wroteX X ep M (rs.map RE.r)) Y ep J us') := by
        show SOk _ _ _ _ _
        rw [HJ.out]
        have h := wrote_ok HSo.out HK.out (by rw [List.length_map, HL.out.2.2.2.2]; exact hl) HO.out
        rw [HMe.out, List.length_map, HL.out.2.2.2.2] at h
        rw [show ((M + k : Nat) : Int) = (M : Int) + (k : Int) by omega]
        exact h
      have hsx := HSx.out
      rw [List.take_of_length_le (by rw [List.length_map, HL.out.2.2.2.2]; exact Nat.le_refl _)] at hsx
      obtain ⟨X', hX'⟩ : ∃ X', wroteX X ep M (rs.map RE.r) = X' := ⟨_, rfl⟩
      have HXe : Hid (wroteX X ep M (rs.map RE.r) = X') := hX'
      have HXl' : Hid (X'.length = X.length) := by show _ = _; rw [← hX']; exact wroteX_len _ _ _ _
      rw [hX'] at hsx HSo2
      have HSt : Hid (StoAt wr W2.heap.size A X.length C X' A' Y.length C' Y va un vc l') := hsx
      have hz64 : Hid (∀ x ∈ X', x.size ≤ 1048576) := fun x hx => by have := (okD_iff.1 HSo2.out.1).2.2.1 x hx; omega
      clear hX' hsx HSx HSo HK HO
      obtain ⟨o0, o1, o2, o3, o4⟩ := (show _ ∧ _ ∧ _ ∧ _ ∧ _ from ⟨HBx.out.cell 0 rfl, HBx.out.cell 1 rfl, HBx.out.cell 2 rfl, HBx.out.cell 3 rfl, HBx.out.cell 4 rfl⟩)
      go_wp2_with fail
      refine (implScan_any A X.length C X' A' Y.length C' wr HSt.out.now.strs (by omega) hz64.out (HX.out _ HWx.out).2.2.2.2.1).mono ?_
      rintro _ y2 ⟨⟨v2, rs2, rfl, hrow2, hlm2⟩, hb2⟩
      obtain ⟨ra2, rc2, rfl⟩ := hrow2.shape
      obtain ⟨M2, hM2⟩ : ∃ M2, rs2.length = M2 := ⟨_, rfl⟩
      rw [hM2] at hrow2 ⊢
      have HR2 : Hid (RcRow y2 wr.heap.size (.slice ra2 M2 rc2) rs2 ∧ M2 = rs2.length ∧ rs2.map RE.r = scanR X') := ⟨hrow2, hM2.symm, hlm2⟩
      have HSh : Hid (∀ e ∈ rs2, e.n ≤ 24) := rows_short hrow2 hlm2 (scanFrom_ok X' 0 0).2
      have hM2n : M2 ≤ 1048576 := by
        have h1 := (scanFrom_ok X' 0 0).1
        have h3 := congrArg List.length hlm2
        rw [List.length_map, hM2] at h3
        have h4 : (scanR X').length = (scanFrom 0 0 X').length := rfl
        have h5 := HXl'.out
        omega
      have HB3 : Hid (Below wr.heap.size wr y2) := hb2
      have HW3 : Hid (Below W2.heap.size W2 y2) := HWx.out.trans (hb2.mono HWx.out.size)
      clear hrow2 hlm2 hM2 hb2 o0 o1 o2 o3 o4
      go_wp2_with fail
      refine (implFold_any ra2 M2 rc2 wr.heap.size rs2 24 y2 HR2.out.1 HR2.out.2.1 (by omega) HSh.out (by omega) (by omega) (rows_ns HR2.out.2.2) (HX.out _ HW3.out).2.2.2.2.2).mono ?_
      rintro _ y3 ⟨⟨x3, l3, rfl, hrow3, hm3, h310⟩, hb3⟩
      rw [HR2.out.2.2, foldP_ok, HSo2.out.2.2.1] at hm3 ⊢
      obtain ⟨xa, xc, rfl⟩ := hrow3.shape
      have hb3' : Below wr.heap.size wr y3 := HB3.out.trans (hb3.mono HB3.out.size)
      have hB3 := HBx.out.stays hb3'
      have hS3 := (HSt.out.stays hb3').withUps (hrow3.low (Nat.le_trans HWx.out.size HB3.out.size)) rfl
      have HW4 : Hid (Below W2.heap.size W2 y3) := HW3.out.trans (hb3.mono HW3.out.size)
      obtain ⟨o0, o1, o2, o3, o4⟩ := (show _ ∧ _ ∧ _ ∧ _ ∧ _ from ⟨hB3.cell 0 rfl, hB3.cell 1 rfl, hB3.cell 2 rfl, hB3.cell 3 rfl, hB3.cell 4 rfl⟩)
      have z4 := hB3.frozen 4
      dsimp only [Option.isSome, Option.getD] at hm3 ⊢
      obtain ⟨x5, hx5⟩ : ∃ x5, y3.setCell ⟨bo, 4, none⟩ (.slice xa l3.length xc) = x5 := ⟨_, rfl⟩
      have HE5 : Hid (y3.setCell ⟨bo, 4, none⟩ (.slice xa l3.length xc) = x5) := hx5
      have HB5 : Hid (BoxN x5 bo 32 [.slice A X.length C, .slice A' Y.length C', .int .i64 ep, .int .i64 J, .slice xa l3.length xc]) := by show BoxN _ _ _ _; rw [← hx5]; exact hB3.set 4 _
      have HS5 : Hid (StoAt x5 W2.heap.size A X.length C X' A' Y.length C' Y xa l3.length xc l3) := by show StoAt _ _ _ _ _ _ _ _ _ _ _ _ _ _; rw [← hx5]; exact hS3.setBox hB3 _
      have HW5 : Hid (Below W2.heap.size W2 x5) := by show Below _ _ _; rw [← hx5]; exact HW4.out.setCell hlo _
      have HM3 : Hid (l3.map UE.u = us') := hm3
      clear hx5 hm3 hb3 hb3' hB3 hS3 hrow3 h310 HR2 HSh HB3 HW3 HW4 HSt HBx HWx
      go_upto_region 10 with fail
      rw [HE5.out]
      clear HE5 o0 o1 o2 o3 o4 z4
      have HBw : Hid (Below w.heap.size w x5) := HB2.out.trans (HW5.out.mono HB2.out.size)
      have hqr := (HQ.out _ HW5.out).2
      obtain ⟨o0, o1, o2, o3, o4⟩ := (show _ ∧ _ ∧ _ ∧ _ ∧ _ from ⟨HB5.out.cell 0 rfl, HB5.out.cell 1 rfl, HB5.out.cell 2 rfl, HB5.out.cell 3 rfl, HB5.out.cell 4 rfl⟩)
      obtain ⟨r0, r1, r2, r3, r4⟩ := (show _ ∧ _ ∧ _ ∧ _ ∧ _ from ⟨hqr.cell 0 rfl, hqr.cell 1 rfl, hqr.cell 2 rfl, hqr.cell 3 rfl, hqr.cell 4 rfl⟩)
      obtain ⟨f0, f1, f2, f3, f4⟩ := (show _ ∧ _ ∧ _ ∧ _ ∧ _ from ⟨hqr.frozen 0, hqr.frozen 1, hqr.frozen 2, hqr.frozen 3, hqr.frozen 4⟩)
      clear hqr HQ HX HW5 HB5
      go_wp2_with fail
      refine bodyPost_ret (v := .agg #[.slice A X.length C, .slice A' Y.length C', .int .i64 ep, .int .i64 J, .slice xa l3.length xc]) (by simp [results, Tryz.f36, go_sem, r0, r1, r2, r3, r4]) rfl ?_
      refine ⟨⟨_, rfl, A, X.length, C, A', Y.length, C', xa, l3.length, xc, l3, ?_, ?_, HM3.out⟩, ?_⟩
      · rw [HJ.out, show ((M + k : Nat) : Int) = (M : Int) + (k : Int) by omega]
      · rw [HMe.out, HXe.out]
        exact (((((HS5.out.setLow (by omega) _).setLow (by omega) _).setLow (by omega) _).setLow (by omega) _).setLow (by omega) _).low (by omega)
      · exact ((((HBw.out.setCell (by dsimp only; omega) _).setCell (by dsimp only; omega) _).setCell (by dsimp only; omega) _).setCell (by dsimp only; omega) _).setCell (by dsimp only; omega) _
    have hkl : k < rs.length := by rw [HL.out.2.2.2.2]; exact hlt
    have hki : (k : Int) < (m : Int) := by omega
    have hk0 : (0 : Int) ≤ (k : Int) := by omega
    obtain ⟨rb, ro, rfl, g0, g1, g2, g3, g4, g5⟩ := (HX.out _ HWx.out).2.2.2.1.at hkl
    have HSg : Hid (Seg wr (rs[k]).a (rs[k]).n (rs[k]).r.zs) := (HX.out _ HWx.out).2.2.2.1.2.1 _ (List.getElem_mem hkl)
    have hkr := HK.out (rs[k]).r (List.mem_map_of_mem (List.getElem_mem hkl))
    have hrk : (rs.map RE.r)[k]? = some (rs[k]).r := by rw [List.getElem?_map, List.getElem?_eq_getElem hkl]; rfl
    obtain ⟨u1, hu1⟩ := foldlM_takeW HO.out k
    have hsk : SOk (wroteX X ep M ((rs.map RE.r).take k)) Y ep ((M : Int) + (k : Int)) u1 := by
      have h := wrote_ok (rs := (rs.map RE.r).take k) HSo.out (fun r hr => HK.out r (List.mem_of_mem_take hr)) (by rw [List.length_take, List.length_map]; omega) hu1
      have e1 : ((rs.map RE.r).take k).length = k := by rw [List.length_take, List.length_map]; omega
      rw [HMe.out, e1] at h
      exact h
    have hst := wroteX_step (X := X) (ep := ep) (nx := M) hrk
    generalize rs[k] = x at *
    obtain ⟨Xk, hXk⟩ : ∃ Xk, wroteX X ep M ((rs.map RE.r).take k) = Xk := ⟨_, rfl⟩
    rw [hXk] at HSx hst hsk
    have HXkl : Hid (Xk.length = X.length) := by show _ = _; rw [← hXk]; exact wroteX_len _ _ _ _
    have hok : okRec ep J x.r.k x.r.id x.r.n x.r.zs.length = true := by
      rw [okRec, hkr.1, hkr.2.1, decide_eq_true hen, decide_eq_true (show (0 : Int) ≤ J ∧ J ≤ 199 by have := HJ.out; omega)]
      rfl
    obtain ⟨tx, htx⟩ : ∃ tx, putT ep J x.r.k x.r.id x.r.n x.r.zs = tx := ⟨_, rfl⟩
    have hok' : (x.r.at ep (M + k)).ok = true := by have h := hok; rw [HJ.out] at h; exact h
    have htp : txU (x.r.at ep (M + k)).put = tx := by rw [← htx, HJ.out, ← putT_ok hok']; rfl
    rw [htp] at hst
    have htz : tx.size ≤ 48 := by rw [← htp]; exact put_size hok'
    have HPx : Hid (putX Xk Y J tx = Xk.set (M + k) tx) := by
      show _ = _
      rw [putX, if_pos (by rw [mayPut, hsk.1, decide_eq_true (show (0 : Int) ≤ J ∧ J ≤ (Xk.length : Int) - 1 by have := HXkl.out; have := HJ.out; omega), decide_eq_true (show tx.size ≤ 64 by omega)]; rfl)]
      rw [HJ.out]
      rfl
    have HMay : Hid (mayPut Xk Y J tx = true) := by
      show _ = _
      rw [mayPut, hsk.1, decide_eq_true (show (0 : Int) ≤ J ∧ J ≤ (Xk.length : Int) - 1 by have := HXkl.out; have := HJ.out; omega), decide_eq_true (show tx.size ≤ 64 by omega)]
      rfl
    have HSt' : Hid (wroteX X ep M ((rs.map RE.r).take (k + 1)) = Xk.set (M + k) tx) := hst
    have hid8 : x.r.id.size ≤ 8 := by have := okRec_iff hok; omega
    have hn24 : x.n ≤ 24 := by have h1 := okRec_iff hok; have h2 := HSg.out.1; omega
    obtain ⟨x1, hx1⟩ : ∃ x1, wr.alloc (.cells #[.int .i64 x.r.e, .int .i64 x.r.q, .int .i64 x.r.k, .string x.r.id, .int .i64 x.r.n, .slice x.a x.n x.c] 59) = x1 := ⟨_, rfl⟩
    have HE1 : Hid (wr.alloc (.cells #[.int .i64 x.r.e, .int .i64 x.r.q, .int .i64 x.r.k, .string x.r.id, .int .i64 x.r.n, .slice x.a x.n x.c] 59) = x1) := hx1
    have hb1 : Below wr.heap.size wr x1 := by rw [← hx1]; exact (Below.refl _ _).alloc (Nat.le_refl _) _
    have hR1 : BoxN x1 wr.heap.size 59 [.int .i64 x.r.e, .int .i64 x.r.q, .int .i64 x.r.k, .string x.r.id, .int .i64 x.r.n, .slice x.a x.n x.c] := by rw [← hx1]; exact BoxN.new _ _ _
    have hB1 := HBx.out.stays hb1
    have hS1 := HSx.out.stays hb1
    have hne : bo ≠ wr.heap.size := by omega
    have hQ1 := (HQ.out _ (HWx.out.trans (hb1.mono HWx.out.size))).1
    have s2 := hQ1.cell 2 rfl
    have n3 := hB1.cell 3 rfl
    have r0 := hR1.cell 0 rfl
    have r1 := hR1.cell 1 rfl
    have z0 := hR1.frozen 0
    have z1 := hR1.frozen 1
    obtain ⟨x2, hx2⟩ : ∃ x2, (x1.setCell ⟨wr.heap.size, 0, none⟩ (.int .i64 ep)).setCell ⟨wr.heap.size, 1, none⟩ (.int .i64 J) = x2 := ⟨_, rfl⟩
    have hww : w.heap.size ≠ wr.heap.size := by have := HWx.out.size; omega
    have HE2 : Hid (((x1.setCell ⟨wr.heap.size, 0, none⟩ (.int .i64 ep)).setCell ⟨wr.heap.size, 1, none⟩ (.int .i64 J)).drew = x2.drew) := by show _ = _; rw [← hx2]
    have HR2 : Hid (BoxN x2.drew wr.heap.size 59 [.int .i64 ep, .int .i64 J, .int .i64 x.r.k, .string x.r.id, .int .i64 x.r.n, .slice x.a x.n x.c]) := by show x2.heap[_]? = _; rw [← hx2]; exact (hR1.set 0 _).set 1 _
    have HB2x : Hid (BoxN x2.drew bo 32 [.slice A X.length C, .slice A' Y.length C', .int .i64 ep, .int .i64 J, .slice va un vc]) := by show x2.heap[_]? = _; rw [← hx2]; exact (hB1.other hne _).other hne _
    have HS2 : Hid (StoAt x2.drew W2.heap.size A X.length C Xk A' Y.length C' Y va un vc l') := by
      have h : StoAt x2 W2.heap.size A X.length C Xk A' Y.length C' Y va un vc l' := by
        rw [← hx2]
        exact (hS1.setBox (i := 0) hR1 _).setBox (i := 1) (hR1.set 0 _) _
      exact h.stays (Below.refl _ _).drew
    have HW2 : Hid (Below wr.heap.size wr x2.drew) := by
      have h : Below wr.heap.size wr x2 := by rw [← hx2]; exact (hb1.setCell (Nat.le_refl _) _).setCell (Nat.le_refl _) _
      exact h.drew
    clear hx1 hb1 hR1 hB1 hS1 hQ1 hx2 hsk hst hu1 htp hXk hrk hkr
    go_upto_region 5 with fail
    rw [HE1.out]
    clear HE1 g0 g1 g2 g3 g4 g5
    go_cut [38, 39, 40, 41, 42, 43, 44, 45, 46] from 16 (fun u38 u39 u40 u41 u42 u43 u44 u45 u46 W => (u38 = undef ∧ u39 = undef ∧ u40 = undef ∧ u41 = undef ∧ u42 = undef ∧ u43 = undef ∧ u44 = undef ∧ u45 = undef ∧ u46 = undef) ∧ Hid (BoxN W wr.heap.size 59 [.int .i64 ep, .int .i64 J, .int .i64 x.r.k, .string x.r.id, .int .i64 x.r.n, .slice x.a x.n x.c]) ∧ Hid (BoxN W bo 32 [.slice A X.length C, .slice A' Y.length C', .int .i64 ep, .int .i64 J, .slice va un vc]) ∧ Hid (StoAt W W2.heap.size A X.length C Xk A' Y.length C' Y va un vc l') ∧ Hid (Below wr.heap.size wr W))
    case first =>
      go_region_with fail
      all_goals
        go_wp2_with fail
        go_meet
        rw [HE2.out]
        exact ⟨⟨rfl, rfl, rfl, rfl, rfl, rfl, rfl, rfl, rfl⟩, HR2, HB2x, HS2, HW2⟩
    case rest =>
    obtain ⟨x3, hx3⟩ : ∃ x3, wc = x3 := ⟨_, rfl⟩
    rw [hx3] at hcut ⊢
    obtain ⟨⟨rfl, rfl, rfl, rfl, rfl, rfl, rfl, rfl, rfl⟩, HR3, HB3, HS3, HW3⟩ := hcut
    clear hx3 HE2 HR2 HB2x HS2 HW2 s2 n3 r0 r1 z0 z1
    have HBd : Hid (Below x3.heap.size x3 x3.drew) := (Below.refl _ _).drew
    have hw3s : wr.heap.size ≤ x3.heap.size := HW3.out.size
    have HWW : Hid (Below W2.heap.size W2 x3) := HWx.out.trans (HW3.out.mono HWx.out.size)
    have hw2s : W2.heap.size ≤ x3.heap.size := HWW.out.size
    have HPr : Hid (Calls Tryz.prog 69 #[.agg #[.int .i64 ep, .int .i64 J, .int .i64 x.r.k, .string x.r.id, .int .i64 x.r.n, .slice x.a x.n x.c]] x3.drew fun e w' => e = .returned (.string tx) ∧ Below x3.heap.size x3 w') := by
      have hT : RecT x3.drew := (HX.out _ (HWW.out.trans (HBd.out.mono hw2s))).2.2.2.2.1
      refine (implPutR_any ep J x.r.k x.r.id x.r.n x.a x.n x.c x.r.zs x3.drew ((HSg.out.below HW3.out).below HBd.out) (by unfold maxLen; omega) (by omega) hT).mono ?_
      rintro _ y ⟨rfl, hb⟩
      exact ⟨by rw [htx], HBd.out.trans (hb.mono (Nat.le_refl _))⟩
    have HPs : Hid (∀ W, Below x3.heap.size x3 W → Calls Tryz.prog 68 #[.agg #[.slice A X.length C, .slice A' Y.length C'], .int .i64 J, .string tx] W fun e w' => ∃ A1 C1 A2 C2, e = .returned (.tuple #[.agg #[.slice A1 X.length C1, .slice A2 Y.length C2], .bool true]) ∧ OwnSt w' W.heap.size (.slice A1 X.length C1) X.length (Xk.set (M + k) tx) ∧ OwnSt w' W.heap.size (.slice A2 Y.length C2) Y.length Y ∧ (∀ q, A1.map (·.block) = some q → A2.map (·.block) ≠ some q) ∧ Below W.heap.size W w') := fun W hb => by
      have hs := HS3.out.stays hb
      refine (implPutD_any A X.length C Xk A' Y.length C' Y J tx W hs.now.strs hs.sure.strs (by omega) (by omega) (by unfold maxLen; omega)).mono ?_
      rintro _ z ⟨⟨v, rfl, A1, C1, A2, C2, rfl, ow, ow', hap⟩, hbz⟩
      have hmay : mayPut Xk Y J tx = true := HMay.out
      rw [HPx.out, List.length_set, HXkl.out] at ow
      refine ⟨A1, C1, A2, C2, ?_, ow, ow', hap, hbz⟩
      rw [hmay, HPx.out, List.length_set, HXkl.out]
    clear htx
    obtain ⟨p0, p1, p2, p3, p4, p5⟩ := (show _ ∧ _ ∧ _ ∧ _ ∧ _ ∧ _ from ⟨HR3.out.cell 0 rfl, HR3.out.cell 1 rfl, HR3.out.cell 2 rfl, HR3.out.cell 3 rfl, HR3.out.cell 4 rfl, HR3.out.cell 5 rfl⟩)
    have o0 := HB3.out.cell 0 rfl
    have o1 := HB3.out.cell 1 rfl
    go_upto_region 6 with fail
    go_cut [38, 39, 40, 41, 42, 43, 44, 45, 46] from 16 (fun u38 u39 u40 u41 u42 u43 u44 u45 u46 W => (u38 = undef ∧ u39 = undef ∧ u40 = undef ∧ u41 = undef ∧ u42 = undef ∧ u43 = undef ∧ u44 = undef ∧ u45 = undef ∧ u46 = undef) ∧ ∃ (A1 A2 : Option Addr) (C1 C2 : Nat), Hid (BoxN W bo 32 [.slice A1 X.length C1, .slice A2 Y.length C2, .int .i64 ep, .int .i64 J, .slice va un vc]) ∧ Hid (StoAt W W2.heap.size A1 X.length C1 (Xk.set (M + k) tx) A2 Y.length C2 Y va un vc l') ∧ Hid (Below W2.heap.size W2 W))
    case first =>
      go_region_with (first
        | (go_at_call 69; refine HPr.out.mono ?_; rintro _ y ⟨rfl, hby⟩
           obtain ⟨y0, y1⟩ := (show _ ∧ _ from ⟨(HB3.out.stays hby).cell 0 rfl, (HB3.out.stays hby).cell 1 rfl⟩)
           have y2 := (HR3.out.stays hby).cell 1 rfl)
        | (go_at_call 68; refine (HPs.out y hby).mono ?_; rintro _ z ⟨A1, C1, A2, C2, rfl, ow, ow', hap, hbz⟩
           have hbz' : Below x3.heap.size x3 z := hby.trans (hbz.mono hby.size)
           have hBz := HB3.out.stays hbz'
           obtain ⟨t0, t1⟩ := (show _ ∧ _ from ⟨hBz.cell 0 rfl, hBz.cell 1 rfl⟩)
           obtain ⟨f0, f1⟩ := (show _ ∧ _ from ⟨hBz.frozen 0, hBz.frozen 1⟩))
        | fail)
      all_goals
        have HF1 : Hid (BoxN ((z.setCell ⟨bo, 0, none⟩ (.slice A1 X.length C1)).setCell ⟨bo, 1, none⟩ (.slice A2 Y.length C2)) bo 32 [.slice A1 X.length C1, .slice A2 Y.length C2, .int .i64 ep, .int .i64 J, .slice va un vc]) := (hBz.set 0 _).set 1 _
        have HF2 : Hid (StoAt ((z.setCell ⟨bo, 0, none⟩ (.slice A1 X.length C1)).setCell ⟨bo, 1, none⟩ (.slice A2 Y.length C2)) W2.heap.size A1 X.length C1 (Xk.set (M + k) tx) A2 Y.length C2 Y va un vc l') := by
          have hs := HS3.out.stays hbz'
          have hyl : W2.heap.size ≤ y.heap.size := Nat.le_trans hw2s hby.size
          have h9 : StoAt z W2.heap.size A1 X.length C1 (Xk.set (M + k) tx) A2 Y.length C2 Y va un vc l' := ⟨ow.low hyl, ow'.low hyl, hap, hs.ups, hs.len⟩
          exact (h9.setBox (i := 0) hBz _).setBox (i := 1) (hBz.set 0 _) _
        have HF3 : Hid (Below W2.heap.size W2 ((z.setCell ⟨bo, 0, none⟩ (.slice A1 X.length C1)).setCell ⟨bo, 1, none⟩ (.slice A2 Y.length C2))) := ((HWW.out.trans (hbz'.mono hw2s)).setCell hlo _).setCell hlo _
        clear ow ow' hap hbz hbz' hBz t0 t1 f0 f1 hby y0 y1 y2
        go_wp2_with fail
        go_meet
        exact ⟨⟨rfl, rfl, rfl, rfl, rfl, rfl, rfl, rfl, rfl⟩, A1, A2, C1, C2, HF1, HF2, HF3⟩
    case rest =>
    obtain ⟨x6, hx6⟩ : ∃ x6, wc = x6 := ⟨_, rfl⟩
    rw [hx6] at hcut ⊢
    obtain ⟨⟨rfl, rfl, rfl, rfl, rfl, rfl, rfl, rfl, rfl⟩, A1, A2, C1, C2, HB6, HS6, HW6⟩ := hcut
    clear hx6 HPr HPs HBd HR3 HB3 HS3 HW3 HWW p0 p1 p2 p3 p4 p5 o0 o1
    have n3 := HB6.out.cell 3 rfl
    have f3 := HB6.out.frozen 3
    have HJ1 : Hid (J + 1 = ((M + (k + 1) : Nat) : Int)) := by show _ = _; have := HJ.out; omega
    have HF1 : Hid (BoxN (x6.setCell ⟨bo, 3, none⟩ (.int .i64 (J + 1))) bo 32 [.slice A1 X.length C1, .slice A2 Y.length C2, .int .i64 ep, .int .i64 (J + 1), .slice va un vc]) := HB6.out.set 3 _
    have HF2 : Hid (StoAt (x6.setCell ⟨bo, 3, none⟩ (.int .i64 (J + 1))) W2.heap.size A1 X.length C1 (wroteX X ep M ((rs.map RE.r).take (k + 1))) A2 Y.length C2 Y va un vc l') := by
      show StoAt _ _ _ _ _ _ _ _ _ _ _ _ _ _
      rw [HSt'.out]
      exact HS6.out.setBox HB6.out _
    have HF3 : Hid (Below W2.heap.size W2 (x6.setCell ⟨bo, 3, none⟩ (.int .i64 (J + 1)))) := HW6.out.setCell hlo _
    have hb63 : J + 1 < 9223372036854775808 := by have := HJ.out; omega
    have hb64 : -9223372036854775808 ≤ J + 1 := by have := HJ.out; omega
    clear HB6 HS6 HW6
    go_wp2_with fail
    go_roundw
    case rel => exact ⟨k + 1, A1, A2, C1, C2, J + 1, by omega, by go_num, HJ1, HF1, HF2, HF3⟩
    case measure => simp [intOf]; omega

end Go.Proofs.YtammmecddnafaaaGreatDoor

namespace Go.Proofs.YtammmecddnafaaaGreatDoor
open Go.RowKit
set_option linter.unusedVariables false

/-- A store and a code are answered. -/
def WAns (base : Nat) (Y : List ByteArray) (ep : Int) (a : WA) (e : Ending) (w' : World) : Prop := ∃ v, e = .returned (.tuple #[v, .int .i64 a.c]) ∧ AnsS base a.X Y ep a.nx a.us v w'

/-- Uploads that say the same have as many bytes. -/
theorem sizes_same {W W' : World} {b b' B : Nat} {v v' : Value} {l l' : List UE} (hm : l'.map UE.u = l.map UE.u) (h' : UpRow W' b' v' l') (h : UpRow W b v l) (hz : ∀ e ∈ l, e.n ≤ B) : ∀ e ∈ l', e.n ≤ B := by
  intro e he
  have h1 : e.u ∈ l.map UE.u := by rw [← hm]; exact List.mem_map_of_mem he
  obtain ⟨x, hx, hxe⟩ := List.mem_map.1 h1
  have h2 := (h'.2.1 e he).seg.1
  have h3 := (h.2.1 x hx).seg.1
  have h4 := hz x hx
  rw [hxe] at h3
  omega

end Go.Proofs.YtammmecddnafaaaGreatDoor

namespace Go.Proofs.YtammmecddnafaaaGreatDoor
open Go.RowKit
set_option linter.unusedVariables false

set_option maxRecDepth 10000 in
set_option maxHeartbeats 3200000 in
theorem implMake_any (a : Option Addr) (n ca : Nat) (X : List ByteArray) (a' : Option Addr) (n' ca' : Nat) (Y : List ByteArray) (ep nx : Int) (ua : Option Addr) (un uc lo : Nat) (l : List UE) (id : ByteArray) (want : Int) (w : World) (h1 : Strs w a n X) (h2 : Strs w a' n' Y) (hn : n ≤ 1048576) (hn' : n' ≤ 1048576) (hzx : ∀ x ∈ X, x.size ≤ 1048576) (hu : UpRow w lo (.slice ua un uc) l) (hun : un = l.length) (hul : un ≤ 1048576) (hz : ∀ e ∈ l, e.n ≤ 1099511627776) (hid : id.size ≤ maxLen) (hsl : SlOk a n ca) (ht : RecT w) (he : ErrN w) :
    Calls Tryz.prog 10 #[.agg #[.slice a n ca, .slice a' n' ca', .int .i64 ep, .int .i64 nx, .slice ua un uc], .string id, .int .i64 want] w fun e w' => WAns w.heap.size Y ep (makeA X Y ep nx (l.map UE.u) id want) e w' ∧ Below w.heap.size w w' := by
  have hmm : maxLen < 9223372036854775808 := by decide
  obtain ⟨W2, hW2⟩ : ∃ W2, (w.alloc (.cells #[.slice a n ca, .slice a' n' ca', .int .i64 ep, .int .i64 nx, .slice ua un uc] 32)).alloc (.cells #[.slice none 0 0, .slice none 0 0, .int .i64 0, .int .i64 0, .slice none 0 0] 32) = W2 := ⟨_, rfl⟩
  have HE : Hid ((w.alloc (.cells #[.slice a n ca, .slice a' n' ca', .int .i64 ep, .int .i64 nx, .slice ua un uc] 32)).alloc (.cells #[.slice none 0 0, .slice none 0 0, .int .i64 0, .int .i64 0, .slice none 0 0] 32) = W2) := hW2
  have HB2 : Hid (Below w.heap.size w W2) := by show Below _ _ _; rw [← hW2]; exact ((Below.refl _ _).alloc (Nat.le_refl _) _).alloc (by simp) _
  have q1 : BoxN W2 w.heap.size 32 [.slice a n ca, .slice a' n' ca', .int .i64 ep, .int .i64 nx, .slice ua un uc] := by rw [← hW2]; exact (BoxN.new _ _ _).alloc _
  have q2 : BoxN W2 (w.heap.size + 1) 32 [.slice none 0 0, .slice none 0 0, .int .i64 0, .int .i64 0, .slice none 0 0] := by
    rw [← hW2]
    have := BoxN.new (w.alloc (.cells #[.slice a n ca, .slice a' n' ca', .int .i64 ep, .int .i64 nx, .slice ua un uc] 32)) 32 [.slice none 0 0, .slice none 0 0, .int .i64 0, .int .i64 0, .slice none 0 0]
    rwa [World.size_alloc] at this
  have HQ : Hid (∀ W, Below W2.heap.size W2 W → BoxN W w.heap.size 32 [.slice a n ca, .slice a' n' ca', .int .i64 ep, .int .i64 nx, .slice ua un uc] ∧ BoxN W (w.heap.size + 1) 32 [.slice none 0 0, .slice none 0 0, .int .i64 0, .int .i64 0, .slice none 0 0]) := fun W h => ⟨q1.stays h, q2.stays h⟩
  have HX : Hid (∀ W, Below W2.heap.size W2 W → Strs W a n X ∧ Strs W a' n' Y ∧ UpRow W lo (.slice ua un uc) l ∧ RecT W ∧ ErrN W) := fun W h => by
    have hw := HB2.out.trans (h.mono HB2.out.size)
    exact ⟨h1.below hw, h2.below hw, hu.stays hw, ht.below hw, he.below hw⟩
  have HL : Hid (un = l.length ∧ (∀ e ∈ l, e.n ≤ 1099511627776) ∧ (∀ x ∈ X, x.size ≤ 1048576) ∧ X.length = n) := ⟨hun, hz, hzx, h1.1⟩
  have hs2 : w.heap.size + 1 < W2.heap.size := q2.lt
  clear hW2 q1 q2 h1 h2 hu hun hz hzx ht he
  have HA0 : Hid (Below W2.heap.size W2 W2) := Below.refl _ _
  obtain ⟨c0, c1, c2, c3, c4⟩ := (show _ ∧ _ ∧ _ ∧ _ ∧ _ from ⟨(HQ.out _ HA0.out).1.cell 0 rfl, (HQ.out _ HA0.out).1.cell 1 rfl, (HQ.out _ HA0.out).1.cell 2 rfl, (HQ.out _ HA0.out).1.cell 3 rfl, (HQ.out _ HA0.out).1.cell 4 rfl⟩)
  go_enter Tryz.func10, Tryz.ntmps10
  go_upto_region 1 with fail
  rw [HE.out]
  clear HE
  go_wp2_with fail
  refine (implMakeC_any a n ca X a' n' ca' Y ep nx ua un uc lo l id want W2 (HX.out _ HA0.out).1 (HX.out _ HA0.out).2.1 hn hn' HL.out.2.2.1 (HX.out _ HA0.out).2.2.1 HL.out.1 hul hid hsl (HX.out _ HA0.out).2.2.2.1 (HX.out _ HA0.out).2.2.2.2).mono ?_
  rintro _ y1 ⟨rfl, hb1⟩
  have HC1 : Hid (Below W2.heap.size W2 y1) := hb1
  clear hb1 c0 c1 c2 c3 c4
  obtain ⟨cc, hcc⟩ : ∃ cc, (makeA X Y ep nx (l.map UE.u) id want).c = cc := ⟨_, rfl⟩
  rw [hcc]
  obtain ⟨c0, c1, c2, c3, c4⟩ := (show _ ∧ _ ∧ _ ∧ _ ∧ _ from ⟨(HQ.out _ HC1.out).1.cell 0 rfl, (HQ.out _ HC1.out).1.cell 1 rfl, (HQ.out _ HC1.out).1.cell 2 rfl, (HQ.out _ HC1.out).1.cell 3 rfl, (HQ.out _ HC1.out).1.cell 4 rfl⟩)
  by_cases h0 : cc = 0
  case neg =>
    have HRs : Hid (makeA X Y ep nx (l.map UE.u) id want = ⟨X, nx, l.map UE.u, cc⟩) := by
      show _ = _
      have h9 : (makeA X Y ep nx (l.map UE.u) id want).c ≠ 0 := by rw [hcc]; exact h0
      rw [← hcc]
      exact makeA_no h9
    have hd0 : (cc != 0) = true := by simpa using h0
    clear hcc h0
    go_wp2_with fail
    refine (implScopy_any a n ca X a' n' ca' Y ep nx ua un uc lo l y1 (HX.out _ HC1.out).1 (HX.out _ HC1.out).2.1 hn hn' (HX.out _ HC1.out).2.2.1 HL.out.1 hul HL.out.2.1).mono ?_
    rintro _ y2 ⟨⟨v, rfl, hv⟩, hb2⟩
    obtain ⟨b, cb, b', cb', va, vc, l', rfl, hs2', hm2⟩ := hv.get
    have HC2 : Hid (Below W2.heap.size W2 y2) := HC1.out.trans (hb2.mono HC1.out.size)
    have HSt : Hid (StoAt y2 W2.heap.size b X.length cb X b' Y.length cb' Y va (l.map UE.u).length vc l' ∧ l'.map UE.u = l.map UE.u) := ⟨hs2'.low HC1.out.size, hm2⟩
    have HBw : Hid (Below w.heap.size w y2) := HB2.out.trans (HC2.out.mono HB2.out.size)
    obtain ⟨K, hK⟩ : ∃ K, (l.map UE.u).length = K := ⟨_, rfl⟩
    rw [hK] at HSt ⊢
    obtain ⟨r0, r1, r2, r3, r4⟩ := (show _ ∧ _ ∧ _ ∧ _ ∧ _ from ⟨(HQ.out _ HC2.out).2.cell 0 rfl, (HQ.out _ HC2.out).2.cell 1 rfl, (HQ.out _ HC2.out).2.cell 2 rfl, (HQ.out _ HC2.out).2.cell 3 rfl, (HQ.out _ HC2.out).2.cell 4 rfl⟩)
    obtain ⟨f0, f1, f2, f3, f4⟩ := (show _ ∧ _ ∧ _ ∧ _ ∧ _ from ⟨(HQ.out _ HC2.out).2.frozen 0, (HQ.out _ HC2.out).2.frozen 1, (HQ.out _ HC2.out).2.frozen 2, (HQ.out _ HC2.out).2.frozen 3, (HQ.out _ HC2.out).2.frozen 4⟩)
    clear hv hs2' hm2 hb2 HQ HX HC1 HC2 hK c0 c1 c2 c3 c4
    go_wp2_with fail
    refine bodyPost_ret (v := .tuple #[.agg #[.slice b X.length cb, .slice b' Y.length cb', .int .i64 ep, .int .i64 nx, .slice va K vc], .int .i64 cc]) (by simp [results, Tryz.f10, go_sem, r0, r1, r2, r3, r4]) rfl ?_
    refine ⟨?_, ?_⟩
    · rw [WAns, HRs.out]
      exact ⟨_, rfl, b, X.length, cb, b', Y.length, cb', va, K, vc, l', rfl, (((((HSt.out.1.setLow (by omega) _).setLow (by omega) _).setLow (by omega) _).setLow (by omega) _).setLow (by omega) _).low (by omega), HSt.out.2⟩
    · exact ((((HBw.out.setCell (by dsimp only; omega) _).setCell (by dsimp only; omega) _).setCell (by dsimp only; omega) _).setCell (by dsimp only; omega) _).setCell (by dsimp only; omega) _
  subst h0
  obtain ⟨hso, hkk, hroom, us', hfo, hmod⟩ := makeA_yes hcc
  have HRs : Hid (makeA X Y ep nx (l.map UE.u) id want = ⟨wroteX X ep nx.toNat [makeR id want], nx + 1, us', 0⟩) := hmod
  have HSo : Hid (SOk X Y ep nx (l.map UE.u)) := hso
  have HKk : Hid (idB id.data.toList = true ∧ kindB 1 want 0 = true ∧ [makeR id want].foldlM oneU (l.map UE.u) = some us' ∧ nx + 1 ≤ (X.length : Int)) := ⟨hkk.1, hkk.2, hfo, hroom⟩
  clear hcc hso hkk hroom hfo hmod
  obtain ⟨y2, hy2⟩ : ∃ y2, y1.alloc (.cells #[.int .i64 0, .int .i64 0, .int .i64 1, .string id, .int .i64 want, .slice none 0 0] 59) = y2 := ⟨_, rfl⟩
  have HE2 : Hid (y1.alloc (.cells #[.int .i64 0, .int .i64 0, .int .i64 1, .string id, .int .i64 want, .slice none 0 0] 59) = y2) := hy2
  have hb2 : Below y1.heap.size y1 y2 := by rw [← hy2]; exact (Below.refl _ _).alloc (Nat.le_refl _) _
  have hbx : BoxN y2 y1.heap.size 59 [.int .i64 0, .int .i64 0, .int .i64 1, .string id, .int .i64 want, .slice none 0 0] := by rw [← hy2]; exact BoxN.new _ _ _
  have HC2 : Hid (Below W2.heap.size W2 y2) := HC1.out.trans (hb2.mono HC1.out.size)
  have HRow : Hid (RcsI y2 (some ⟨y1.heap.size, 0, none⟩) 1 [⟨makeR id want, none, 0, 0⟩]) := by
    refine ⟨rfl, fun e he => ?_, .inr ⟨y1.heap.size, 0, rfl, hbx.lt, fun i hi => ?_⟩⟩
    · obtain rfl : e = ⟨makeR id want, none, 0, 0⟩ := by simpa using he
      exact ⟨rfl, by simp [makeR], .inl rfl⟩
    · obtain rfl : i = 0 := by simpa using hi
      exact ⟨hbx.cell 0 rfl, hbx.cell 1 rfl, hbx.cell 2 rfl, hbx.cell 3 rfl, hbx.cell 4 rfl, hbx.cell 5 rfl⟩
  have HKs : Hid (∀ r ∈ ([⟨makeR id want, none, 0, 0⟩] : List RE).map RE.r, idB r.id.data.toList = true ∧ kindB r.k r.n r.zs.length = true ∧ ∀ x ∈ r.zs, 0 ≤ x ∧ x ≤ 255) := fun r hr => by
    obtain rfl : r = makeR id want := by simpa using hr
    exact ⟨HKk.out.1, HKk.out.2.1, by simp [makeR]⟩
  have HWr : Hid (Calls Tryz.prog 36 #[.agg #[.slice a n ca, .slice a' n' ca', .int .i64 ep, .int .i64 nx, .slice ua un uc], .slice (some ⟨y1.heap.size, 0, none⟩) 1 1] y2 fun e w' => (∃ v, e = .returned v ∧ AnsS y2.heap.size (wroteX X ep nx.toNat [makeR id want]) Y ep (nx + 1) us' v w') ∧ Below y2.heap.size y2 w') :=
    implWritten_any a n ca X a' n' ca' Y ep nx ua un uc lo l (some ⟨y1.heap.size, 0, none⟩) 1 1 [⟨makeR id want, none, 0, 0⟩] us' y2 (HX.out _ HC2.out).1 (HX.out _ HC2.out).2.1 hn hn' HL.out.2.2.1 (HX.out _ HC2.out).2.2.1 HL.out.1 hul HL.out.2.1 (HX.out _ HC2.out).2.2.2.1 (HX.out _ HC2.out).2.2.2.2 HRow.out HSo.out HKs.out HKk.out.2.2.2 HKk.out.2.2.1
  clear hy2 hb2 hbx
  go_wp2_with fail
  rw [HE2.out]
  refine HWr.out.mono ?_
  rintro _ y3 ⟨⟨v, rfl, hv⟩, hb3⟩
  obtain ⟨b, cb, b', cb', va, vc, l', rfl, hs3, hm3⟩ := hv.get
  have HC3 : Hid (Below W2.heap.size W2 y3) := HC2.out.trans (hb3.mono HC2.out.size)
  obtain ⟨NN, hNN⟩ : ∃ NN, (wroteX X ep nx.toNat [makeR id want]).length = NN := ⟨_, rfl⟩
  obtain ⟨K, hK⟩ : ∃ K, us'.length = K := ⟨_, rfl⟩
  rw [hNN, hK] at hs3
  rw [hNN, hK]
  have HSt : Hid (StoAt y3 W2.heap.size b NN cb (wroteX X ep nx.toNat [makeR id want]) b' Y.length cb' Y va K vc l' ∧ l'.map UE.u = us') := ⟨hs3.low HC2.out.size, hm3⟩
  have HBw : Hid (Below w.heap.size w y3) := HB2.out.trans (HC3.out.mono HB2.out.size)
  obtain ⟨r0, r1, r2, r3, r4⟩ := (show _ ∧ _ ∧ _ ∧ _ ∧ _ from ⟨(HQ.out _ HC3.out).2.cell 0 rfl, (HQ.out _ HC3.out).2.cell 1 rfl, (HQ.out _ HC3.out).2.cell 2 rfl, (HQ.out _ HC3.out).2.cell 3 rfl, (HQ.out _ HC3.out).2.cell 4 rfl⟩)
  obtain ⟨f0, f1, f2, f3, f4⟩ := (show _ ∧ _ ∧ _ ∧ _ ∧ _ from ⟨(HQ.out _ HC3.out).2.frozen 0, (HQ.out _ HC3.out).2.frozen 1, (HQ.out _ HC3.out).2.frozen 2, (HQ.out _ HC3.out).2.frozen 3, (HQ.out _ HC3.out).2.frozen 4⟩)
  clear hv hs3 hm3 hb3 HQ HX HC1 HC2 HC3 hK hNN HWr HRow HE2 c0 c1 c2 c3 c4
  go_wp2_with fail
  refine bodyPost_ret (v := .tuple #[.agg #[.slice b NN cb, .slice b' Y.length cb', .int .i64 ep, .int .i64 (nx + 1), .slice va K vc], .int .i64 0]) (by simp [results, Tryz.f10, go_sem, r0, r1, r2, r3, r4]) rfl ?_
  refine ⟨?_, ?_⟩
  · rw [WAns, HRs.out]
    exact ⟨_, rfl, b, NN, cb, b', Y.length, cb', va, K, vc, l', rfl, (((((HSt.out.1.setLow (by omega) _).setLow (by omega) _).setLow (by omega) _).setLow (by omega) _).setLow (by omega) _).low (by omega), HSt.out.2⟩
  · exact ((((HBw.out.setCell (by dsimp only; omega) _).setCell (by dsimp only; omega) _).setCell (by dsimp only; omega) _).setCell (by dsimp only; omega) _).setCell (by dsimp only; omega) _

end Go.Proofs.YtammmecddnafaaaGreatDoor

namespace Go.Proofs.YtammmecddnafaaaGreatDoor
open Go.RowKit
set_option linter.unusedVariables false

theorem run_append_lit {P : Program} (w : World) (base : Nat) (t tx ty e : TypeId) (i : TypeInfo) (z : Value) (size bytes : Nat) (ht : P.underlying t = some (.slice e)) (hi : P.info? e = some i) (hz : i.zero = some z)
    (hsize : i.size = size) (hby : i.bytes = bytes) (hzs : z.cells.size = size) (hsz : 0 < size)
    (g : Nat) (hg : w.heap[g]? = some (.cells #[] e (0, 0))) (hbg : base ≤ g)
    (x : Value) (m : Nat) (news : List Value) (hs : Src P size tx x m news w)
    (h63 : m ≤ maxLen) (hbytes : m * bytes ≤ 140737488355328) (hbase : base ≤ w.heap.size) :
    ∃ g' c' w', (Builtin.append_ #[t, tx] ty #[.slice (some ⟨g, 0, none⟩) 0 0, x]).run P w = .ok (.slice (some ⟨g', 0, none⟩) m c') w' ∧ w'.ownsRow base e size (.slice (some ⟨g', 0, none⟩) m c') m news ∧ Below w.heap.size w w' ∧ (g' = g ∨ w.heap.size ≤ g') := by
  subst hsize
  subst hby
  have hsmall : m ≤ 9223372036854775807 := by simp only [maxLen] at h63; omega
  have hl := hs.newsLen
  by_cases hm : m = 0
  · subst hm
    obtain rfl : news = [] := List.eq_nil_of_length_eq_zero (by simpa using hl)
    have hr := run_room_any w t tx ty e i ht hi g 0 0 #[] hg x 0 [] hs (by omega) (by simp)
    have hh := setRow_heap w g #[] #[] e (0, 0) hg
    refine ⟨g, 0, w.setRow g #[], by simpa using hr, ⟨by simp, .inr ⟨g, 0, #[], rfl, hbg, hh, Nat.le_refl _, Nat.zero_le _, by simp, by simp⟩⟩, ⟨rfl, rfl, rfl, by simp, fun k hk => ?_⟩, .inl rfl⟩
    by_cases hkg : k = g
    · subst hkg
      rw [hh, hg]
    · exact setRow_other w g k _ hkg
  · have hold := run_firstCells_some (P := P) w.drew i.size 0 ⟨g, 0, none⟩ 0 0 [] (by simp) (by simp)
    have hr := run_append_grow_src (P := P) w t tx ty e i z ht hi hz (some ⟨g, 0, none⟩) 0 0 [] hold x m news hs (by omega) (by omega) (growslice_fits (by omega) (by simpa using hbytes))
    have hge := grownCap_ge w (0 + m) 0 e
    have hcm' : grownCap w (0 + m) 0 e ≤ maxLen := grownCap_le_maxLen w (0 + m) 0 e (by omega)
    rw [Nat.zero_add] at hr hge hcm'
    refine ⟨_, _, _, hr, ⟨hl, .inr ⟨w.heap.size, _, _, rfl, hbase, heap_alloc_new w.drew _, hge, hcm', ?_, ?_⟩⟩, ⟨rfl, rfl, rfl, by simp, fun k hk => heap_alloc_old w.drew _ hk⟩, .inr (Nat.le_refl _)⟩
    · simp only [Array.size_append, List.size_toArray, size_zeroCells, hzs, List.nil_append, hl, ← Nat.add_mul]
      congr 1
      omega
    · simp only [Array.toList_append, List.nil_append]
      rw [← hl]
      exact List.take_left

theorem step_append_lit {P : Program} {ops : Array Oper} {o : Oper} {a : Act} {w : World} {K : Act → World → Prop} {Q : Exit → Act → World → Prop} {E : Prop} (hgd : o.guard = none) (s x : Operand) (t tx : TypeId)
    (ho : o.op = .call { callee := .builtin .append, args := #[s, x], argTypes := #[t, tx] })
    (base : Nat) (e : TypeId) (i : TypeInfo) (z : Value) (size bytes : Nat) (ht : P.underlying t = some (.slice e)) (hi : P.info? e = some i) (hz : i.zero = some z)
    (hsize : i.size = size) (hby : i.bytes = bytes) (hzs : z.cells.size = size) (hsz : 0 < size)
    (g : Nat) (hs : a.eval s = .slice (some ⟨g, 0, none⟩) 0 0) (hg : w.heap[g]? = some (.cells #[] e (0, 0))) (hbg : base ≤ g)
    (u : Value) (m : Nat) (news : List Value) (hx : a.eval x = u) (hsrc : Src P size tx u m news w)
    (h63 : m ≤ maxLen) (hbytes : m * bytes ≤ 140737488355328) (hbase : base ≤ w.heap.size)
    (h : ∀ g' c' w', w'.ownsRow base e size (.slice (some ⟨g', 0, none⟩) m c') m news → Below w.heap.size w w' → (g' = g ∨ w.heap.size ≤ g') → K (a.put o.dst (.slice (some ⟨g', 0, none⟩) m c')) w') :
    if Region.wanted o (yielded ops a.tmps) = true then Oper.wp P o a w K Q else E := by
  have hw : Region.wanted o (yielded ops a.tmps) = true := by simp [Region.wanted, hgd]
  rw [if_pos hw]
  obtain ⟨g', c', w', hr, h2, h3, h4⟩ := run_append_lit (P := P) w base t tx o.type e i z size bytes ht hi hz hsize hby hzs hsz g hg hbg u m news hsrc h63 hbytes hbase
  unfold Oper.wp execOp
  simp only [ho, resolve, invoke, builtin, Sem.run_bind, Sem.run_pure, Result.andThen_ok, List.map_toArray, List.map_cons, List.map_nil, hs, hx, hr]
  exact h g' c' w' h2 h3 h4

end Go.Proofs.YtammmecddnafaaaGreatDoor

namespace Go.Proofs.YtammmecddnafaaaGreatDoor
open Go.RowKit
set_option linter.unusedVariables false

set_option maxRecDepth 10000 in
set_option maxHeartbeats 3200000 in
theorem specDcopy_any (a : Option Addr) (n ca : Nat) (xs : List ByteArray) (a' : Option Addr) (n' ca' : Nat) (ys : List ByteArray) (w : World) (h1 : Strs w a n xs) (h2 : Strs w a' n' ys) (hn : n ≤ 2097152) (hn' : n' ≤ 2097152) :
    Calls Tryz.prog 51 #[.agg #[.slice a n ca, .slice a' n' ca']] w fun e w' => (∃ v, e = .returned v ∧ AnsD w.heap.size xs ys v w') ∧ Below w.heap.size w w' := by
  obtain ⟨i0, hi, hz0, hz1, hz2⟩ := info_parts info_string
  have HM0 : Hid (∀ x ∈ xs, x.size ≤ maxLen) := h1.2.1
  have HM1 : Hid (∀ x ∈ ys, x.size ≤ maxLen) := h2.2.1
  have HLn : Hid (xs.length = n ∧ ys.length = n') := ⟨h1.1, h2.1⟩
  obtain ⟨W2, hW2⟩ : ∃ W2, (w.alloc (.cells #[.slice a n ca, .slice a' n' ca'] 29)).alloc (.cells #[.slice none 0 0, .slice none 0 0] 29) = W2 := ⟨_, rfl⟩
  have HE : Hid ((w.alloc (.cells #[.slice a n ca, .slice a' n' ca'] 29)).alloc (.cells #[.slice none 0 0, .slice none 0 0] 29) = W2) := hW2
  have HB2 : Hid (Below w.heap.size w W2) := by show Below _ _ _; rw [← hW2]; exact ((Below.refl _ _).alloc (Nat.le_refl _) _).alloc (by simp) _
  have HZ2 : Hid (W2.heap.size = w.heap.size + 2) := by show _ = _; rw [← hW2]; simp
  have q1 : Box2R W2 w.heap.size 29 (.slice a n ca) (.slice a' n' ca') := by rw [← hW2]; exact (Box2R.new _ _ _ _).alloc _
  have q2 : Box2R W2 (w.heap.size + 1) 29 (.slice none 0 0) (.slice none 0 0) := by
    rw [← hW2]
    have := Box2R.new (w.alloc (.cells #[.slice a n ca, .slice a' n' ca'] 29)) 29 (.slice none 0 0) (.slice none 0 0)
    rwa [World.size_alloc] at this
  have HQ : Hid (∀ W, Below W2.heap.size W2 W → Box2R W w.heap.size 29 (.slice a n ca) (.slice a' n' ca') ∧ Box2R W (w.heap.size + 1) 29 (.slice none 0 0) (.slice none 0 0)) := fun W h => ⟨q1.stays h, q2.stays h⟩
  have HX : Hid (∀ W, Below W2.heap.size W2 W → Strs W a n xs ∧ Strs W a' n' ys) := fun W h => by
    have hw := HB2.out.trans (h.mono HB2.out.size)
    exact ⟨h1.below hw, h2.below hw⟩
  have HBa : Hid (Below W2.heap.size W2 (W2.alloc (.cells #[] 9))) := (Below.refl _ _).alloc (Nat.le_refl _) _
  have HBb : Hid (Below W2.heap.size W2 ((W2.alloc (.cells #[] 9)).alloc (.cells #[] 9))) := ((Below.refl _ _).alloc (Nat.le_refl _) _).alloc (by simp) _
  have HBad : Hid (Below W2.heap.size W2 (W2.alloc (.cells #[] 9)).drew) := HBa.out.drew
  have HBbd : Hid (Below W2.heap.size W2 ((W2.alloc (.cells #[] 9)).alloc (.cells #[] 9)).drew) := HBb.out.drew
  have HLa : Hid ((W2.alloc (.cells #[] 9)).heap[W2.heap.size]? = some (.cells #[] 9)) := heap_alloc_new _ _
  have HLb : Hid (((W2.alloc (.cells #[] 9)).alloc (.cells #[] 9)).heap[W2.heap.size]? = some (.cells #[] 9)) := by
    show _ = _
    rw [heap_alloc_old _ _ (by simp)]
    exact heap_alloc_new _ _
  have HLc : Hid (((W2.alloc (.cells #[] 9)).alloc (.cells #[] 9)).heap[W2.heap.size + 1]? = some (.cells #[] 9)) := by
    have := heap_alloc_new (W2.alloc (.cells #[] 9)) (.cells #[] 9)
    rwa [World.size_alloc] at this
  clear hW2 q1 q2 h1 h2
  have hne : w.heap.size ≠ w.heap.size + 1 := by omega
  have hs2 : w.heap.size + 1 < W2.heap.size := by have := HZ2.out; omega
  go_enter Tryz.func51, Tryz.ntmps51
  go_upto_region 1 with fail
  rw [HE.out]
  clear HE
  obtain ⟨c0, c1⟩ := (HQ.out _ (Below.refl _ _)).1.cells
  go_cut [] from 3 (fun W => Hid (∃ g1 c1 g2 c2, Box2R W (w.heap.size + 1) 29 (.slice (some ⟨g1, 0, none⟩) n c1) (.slice (some ⟨g2, 0, none⟩) n' c2) ∧ g1 ≠ g2 ∧ OwnSt W w.heap.size (.slice (some ⟨g1, 0, none⟩) n c1) n xs ∧ OwnSt W w.heap.size (.slice (some ⟨g2, 0, none⟩) n' c2) n' ys ∧ Below w.heap.size w W))
  case first =>
    go_region_held3 (fun W => W.cell? ⟨w.heap.size, 0, none⟩ = some (.slice a n ca) ∧ W.cell? ⟨w.heap.size, 1, none⟩ = some (.slice a' n' ca')) (first | (refine ⟨?_, ?_⟩ <;> assumption) | (refine ⟨?_, ?_⟩ <;> (exact cellD_kept hne (cellD_kept hne (by assumption)))) | go_keep) (first
      | (refine step_append_lit rfl (.tmp 7) (.tmp 9) 22 22 rfl W2.heap.size 9 i0 (.string ⟨#[]⟩) 1 16 Tryz.underlying22 hi hz0 hz1 hz2 rfl (by decide) (W2.heap.size + 1) rfl hl2 (by omega) _ n' (scells ys) rfl (HX.out _ hB1).2.src (by unfold maxLen; omega) (by omega) hB1.size ?_; intro g2 c2 y2 hown2 hb2 hw2; have hB2 : Below W2.heap.size W2 y2 := hB1.trans (hb2.mono hB1.size); obtain ⟨m0, m1⟩ := (HQ.out _ hB2).1.cells; obtain ⟨r0, r1⟩ := (HQ.out _ hB2).2.cells; have f0 := (HQ.out _ hB2).2.frozen 0; have f1 := (HQ.out _ hB2).2.frozen 1; have hne12 : g1 ≠ g2 := (by rcases hw2 with h | h <;> omega); have hownP := own_below hown1 hb2)
      | (refine step_append_lit rfl (.tmp 7) (.tmp 9) 22 22 rfl W2.heap.size 9 i0 (.string ⟨#[]⟩) 1 16 Tryz.underlying22 hi hz0 hz1 hz2 rfl (by decide) W2.heap.size rfl hl3 (by omega) _ n' (scells ys) rfl (HX.out _ hB1).2.src (by unfold maxLen; omega) (by omega) hB1.size ?_; intro g2 c2 y2 hown2 hb2 hw2; have hB2 : Below W2.heap.size W2 y2 := hB1.trans (hb2.mono hB1.size); obtain ⟨m0, m1⟩ := (HQ.out _ hB2).1.cells; obtain ⟨r0, r1⟩ := (HQ.out _ hB2).2.cells; have f0 := (HQ.out _ hB2).2.frozen 0; have f1 := (HQ.out _ hB2).2.frozen 1; have hne12 : g1 ≠ g2 := (by rcases hw2 with h | h <;> omega); have hownP := own_below hown1 hb2)
      | (refine step_append_lit rfl (.tmp 7) (.tmp 9) 22 22 rfl W2.heap.size 9 i0 (.string ⟨#[]⟩) 1 16 Tryz.underlying22 hi hz0 hz1 hz2 rfl (by decide) y1.heap.size rfl (heap_alloc_new y1 _) (by omega) _ n' (scells ys) rfl (HX.out _ (hB1.alloc hB1.size (.cells #[] 9))).2.src (by unfold maxLen; omega) (by omega) (hB1.alloc hB1.size (.cells #[] 9)).size ?_; intro g2 c2 y2 hown2 hb2 hw2; have hB2 : Below W2.heap.size W2 y2 := (hB1.alloc hB1.size (.cells #[] 9)).trans (hb2.mono (hB1.alloc hB1.size (.cells #[] 9)).size); obtain ⟨m0, m1⟩ := (HQ.out _ hB2).1.cells; obtain ⟨r0, r1⟩ := (HQ.out _ hB2).2.cells; have f0 := (HQ.out _ hB2).2.frozen 0; have f1 := (HQ.out _ hB2).2.frozen 1; have hne12 : g1 ≠ g2 := (by rw [World.size_alloc] at hw2; rcases hw2 with h | h <;> omega); have hownP := own_below hown1 (((Below.refl y1.heap.size y1).alloc (Nat.le_refl _) _).trans (hb2.mono (by simp))))
      | (refine step_append_lit rfl (.tmp 3) (.tmp 5) 22 22 rfl W2.heap.size 9 i0 (.string ⟨#[]⟩) 1 16 Tryz.underlying22 hi hz0 hz1 hz2 rfl (by decide) W2.heap.size rfl HLa.out (by omega) _ n (scells xs) rfl (HX.out _ HBad.out).1.src (by unfold maxLen; omega) (by omega) HBad.out.size ?_; intro g1 c1 y1 hown1 hb1 hw1; have hB1 : Below W2.heap.size W2 y1 := HBad.out.trans (hb1.mono HBad.out.size); obtain ⟨e0, e1⟩ := (HQ.out _ hB1).1.cells; have hy1 := hB1.size; have hg1 := (show g1 < y1.heap.size from (OwnSt.lt ⟨hown1, HM0.out⟩ g1 rfl).2); have mark1 := trivial)
      | (refine step_append_lit rfl (.tmp 3) (.tmp 5) 22 22 rfl W2.heap.size 9 i0 (.string ⟨#[]⟩) 1 16 Tryz.underlying22 hi hz0 hz1 hz2 rfl (by decide) W2.heap.size rfl HLb.out (by omega) _ n (scells xs) rfl (HX.out _ HBbd.out).1.src (by unfold maxLen; omega) (by omega) HBbd.out.size ?_; intro g1 c1 y1 hown1 hb1 hw1; have hB1 : Below W2.heap.size W2 y1 := HBbd.out.trans (hb1.mono HBbd.out.size); obtain ⟨e0, e1⟩ := (HQ.out _ hB1).1.cells; have hy1 := hB1.size; have hg1 := (show g1 < y1.heap.size from (OwnSt.lt ⟨hown1, HM0.out⟩ g1 rfl).2); have hl2 : y1.heap[W2.heap.size + 1]? = some (.cells #[] 9) := (hb1.block _ (by show W2.heap.size + 1 < ((W2.alloc (.cells #[] 9)).alloc (.cells #[] 9)).heap.size; simp)).trans HLc.out; have hap : g1 ≠ W2.heap.size + 1 := (by have hz : ((W2.alloc (.cells #[] 9)).alloc (.cells #[] 9)).drew.heap.size = W2.heap.size + 2 := (by show ((W2.alloc (.cells #[] 9)).alloc (.cells #[] 9)).heap.size = _; simp); rcases hw1 with h | h <;> omega))
      | (refine step_append_lit rfl (.tmp 3) (.tmp 5) 22 22 rfl W2.heap.size 9 i0 (.string ⟨#[]⟩) 1 16 Tryz.underlying22 hi hz0 hz1 hz2 rfl (by decide) (W2.heap.size + 1) rfl HLc.out (by omega) _ n (scells xs) rfl (HX.out _ HBbd.out).1.src (by unfold maxLen; omega) (by omega) HBbd.out.size ?_; intro g1 c1 y1 hown1 hb1 hw1; have hB1 : Below W2.heap.size W2 y1 := HBbd.out.trans (hb1.mono HBbd.out.size); obtain ⟨e0, e1⟩ := (HQ.out _ hB1).1.cells; have hy1 := hB1.size; have hg1 := (show g1 < y1.heap.size from (OwnSt.lt ⟨hown1, HM0.out⟩ g1 rfl).2); have hl3 : y1.heap[W2.heap.size]? = some (.cells #[] 9) := (hb1.block _ (by show W2.heap.size < ((W2.alloc (.cells #[] 9)).alloc (.cells #[] 9)).heap.size; simp; omega)).trans HLb.out; have hap : g1 ≠ W2.heap.size := (by have hz : ((W2.alloc (.cells #[] 9)).alloc (.cells #[] 9)).drew.heap.size = W2.heap.size + 2 := (by show ((W2.alloc (.cells #[] 9)).alloc (.cells #[] 9)).heap.size = _; simp); rcases hw1 with h | h <;> omega))
      | fail)
    all_goals
      have HF : Hid (Box2R ((y2.setCell ⟨w.heap.size + 1, 0, none⟩ (.slice (some ⟨g1, 0, none⟩) n c1)).setCell ⟨w.heap.size + 1, 1, none⟩ (.slice (some ⟨g2, 0, none⟩) n' c2)) (w.heap.size + 1) 29 (.slice (some ⟨g1, 0, none⟩) n c1) (.slice (some ⟨g2, 0, none⟩) n' c2) ∧ g1 ≠ g2 ∧ OwnSt ((y2.setCell ⟨w.heap.size + 1, 0, none⟩ (.slice (some ⟨g1, 0, none⟩) n c1)).setCell ⟨w.heap.size + 1, 1, none⟩ (.slice (some ⟨g2, 0, none⟩) n' c2)) w.heap.size (.slice (some ⟨g1, 0, none⟩) n c1) n xs ∧ OwnSt ((y2.setCell ⟨w.heap.size + 1, 0, none⟩ (.slice (some ⟨g1, 0, none⟩) n c1)).setCell ⟨w.heap.size + 1, 1, none⟩ (.slice (some ⟨g2, 0, none⟩) n' c2)) w.heap.size (.slice (some ⟨g2, 0, none⟩) n' c2) n' ys ∧ Below w.heap.size w ((y2.setCell ⟨w.heap.size + 1, 0, none⟩ (.slice (some ⟨g1, 0, none⟩) n c1)).setCell ⟨w.heap.size + 1, 1, none⟩ (.slice (some ⟨g2, 0, none⟩) n' c2))) := by
        have o1 : OwnSt y2 W2.heap.size (.slice (some ⟨g1, 0, none⟩) n c1) n xs := ⟨hownP, HM0.out⟩
        have o2 : OwnSt y2 W2.heap.size (.slice (some ⟨g2, 0, none⟩) n' c2) n' ys := ⟨hown2, HM1.out⟩
        have l1 := (o1.lt g1 rfl).1
        have l2 := (o2.lt g2 rfl).1
        have hbw := HB2.out.trans (hB2.mono HB2.out.size)
        exact ⟨((HQ.out _ hB2).2.set0 _).set1 _, hne12, ((o1.setCell (by simp [blkOf]; omega) _).setCell (by simp [blkOf]; omega) _).low (by omega), ((o2.setCell (by simp [blkOf]; omega) _).setCell (by simp [blkOf]; omega) _).low (by omega), (hbw.setCell (by dsimp only; omega) _).setCell (by dsimp only; omega) _⟩
      clear hown1 hown2 hownP hb1 hb2 hB1 hB2 hw1 hw2 e0 e1 m0 m1 r0 r1 f0 f1 hg1 hy1
      go_wp2_with fail
      go_meet
      exact ⟨g1, c1, g2, c2, HF.out⟩
  case rest =>
  obtain ⟨x3, hx3⟩ : ∃ x3, wc = x3 := ⟨_, rfl⟩
  rw [hx3] at hcut ⊢
  obtain ⟨g1, c1, g2, c2, hbx, hne12, o1, o2, hbw⟩ := hcut
  have HO : Hid (OwnSt x3 w.heap.size (.slice (some ⟨g1, 0, none⟩) n c1) n xs ∧ OwnSt x3 w.heap.size (.slice (some ⟨g2, 0, none⟩) n' c2) n' ys ∧ Below w.heap.size w x3) := ⟨o1, o2, hbw⟩
  clear hx3 o1 o2 hbw HBa HBb HBad HBbd HLa HLb HLc
  obtain ⟨d0, d1⟩ := hbx.cells
  go_wp2_with fail
  refine bodyPost_ret (v := .agg #[.slice (some ⟨g1, 0, none⟩) n c1, .slice (some ⟨g2, 0, none⟩) n' c2]) (by simp [results, Tryz.f51, go_sem, d0, d1]) rfl ?_
  have hl := HLn.out
  exact ⟨⟨_, rfl, AnsD.mk' (by omega) (by omega) HO.out.1 HO.out.2.1 (fun q e e2 => hne12 (by simp at e e2; omega))⟩, HO.out.2.2⟩

end Go.Proofs.YtammmecddnafaaaGreatDoor

namespace Go.Proofs.YtammmecddnafaaaGreatDoor
open Go.RowKit
set_option linter.unusedVariables false

set_option maxRecDepth 10000 in
set_option maxHeartbeats 1600000 in
theorem specCopyU_any (a : Option Addr) (n c lo : Nat) (l : List UE) (w : World) (h : UpRow w lo (.slice a n c) l) (hn : n = l.length) (hl : n ≤ 1048576) (hz : ∀ e ∈ l, e.n ≤ 1099511627776) :
    Calls Tryz.prog 52 #[.slice a n c] w fun e w' => (∃ v l', e = .returned v ∧ UpRow w' w.heap.size v l' ∧ l'.map UE.u = l.map UE.u ∧ ∀ e ∈ l', ∃ g, e.a = some ⟨g, 0, none⟩) ∧ Below w.heap.size w w' := by
  obtain ⟨i0, hi, hz0, hz1, hz2⟩ := info_parts info_up
  obtain ⟨j0, ji, jz0, jz1, jz2⟩ := info_parts Tryz.info5
  have HX : Hid (∀ W, Below w.heap.size w W → UpRow W lo (.slice a n c) l) := fun W hb => h.stays hb
  have HN : Hid (n = l.length) := hn
  have HZ : Hid (∀ e ∈ l, e.n ≤ 1099511627776) := hz
  clear h hn hz
  have HO0 : Hid (UpRow (w.alloc (.cells #[] 69)) w.heap.size (.slice (some ⟨w.heap.size, 0, none⟩) 0 0) []) := UpRow.nil w
  have HB0 : Hid (Below w.heap.size w (w.alloc (.cells #[] 69))) := (Below.refl _ _).alloc (Nat.le_refl _) _
  go_enter Tryz.func52, Tryz.ntmps52
  go_wp2_with fail
  go_loopw [3, 4] (fun v i wr => ∃ (k : Nat) (l' : List UE), k ≤ n ∧ l'.length = k ∧ i = .int .i64 (k : Int) ∧ Hid (UpRow wr w.heap.size v l') ∧ Hid (l'.map UE.u = (l.map UE.u).take k) ∧ Hid (∀ e ∈ l', ∃ g, e.a = some ⟨g, 0, none⟩) ∧ Hid (Below w.heap.size w wr)) (fun _ i _ => n - (intOf i).toNat)
  case atStart => exact ⟨0, [], Nat.zero_le _, rfl, rfl, HO0, rfl, (fun e he => absurd he (List.not_mem_nil)), HB0⟩
  case round =>
    clear HO0 HB0
    obtain ⟨k, l', hk, hlk, rfl, HO, HM, HSm, HW⟩ := hrel
    obtain ⟨va, vc, hve⟩ := HO.out.shape
    subst hve
    rw [hlk] at HO ⊢
    by_cases hlt : k < n
    case neg =>
      obtain rfl : k = n := by omega
      have HF : Hid (l'.map UE.u = l.map UE.u) := by show _ = _; rw [HM.out, List.take_of_length_le (by rw [List.length_map, HN.out]; exact Nat.le_refl _)]
      clear HM
      go_wp2_with fail
      go_ret
      exact ⟨⟨_, l', rfl, HO.out, HF.out, HSm.out⟩, HW.out⟩
    have hkl : k < l.length := by rw [← HN.out]; exact hlt
    have hki : (k : Int) < (n : Int) := by omega
    have hk0 : (0 : Int) ≤ (k : Int) := by omega
    obtain ⟨g, rfl, g0, g1, g2, g3, _⟩ := (HX.out _ HW.out).at HN.out hkl
    have HSg : Hid (Seg wr (l[k]).a (l[k]).n (l[k]).u.zs) := ((HX.out _ HW.out).2.1 (l[k]) (List.getElem_mem hkl)).seg
    have hen : (l[k]).n ≤ 1099511627776 := HZ.out _ (List.getElem_mem hkl)
    have HM2 : Hid (l'.map UE.u ++ [(l[k]).u] = (l.map UE.u).take (k + 1)) := by show _ = _; rw [List.take_add_one, List.getElem?_map, List.getElem?_eq_getElem hkl, HM.out]; rfl
    clear HM
    generalize l[k] = e at *
    have hb1 := (Below.refl wr.heap.size wr).alloc (Nat.le_refl _) (.cells #[.string e.u.id, .int .i64 e.u.want, .slice e.a e.n e.c, .bool e.u.done] 69)
    have HB1 : Hid (Below w.heap.size w (wr.alloc (.cells #[.string e.u.id, .int .i64 e.u.want, .slice e.a e.n e.c, .bool e.u.done] 69))) := HW.out.trans (hb1.mono HW.out.size)
    have HO1 : Hid (UpRow (wr.alloc (.cells #[.string e.u.id, .int .i64 e.u.want, .slice e.a e.n e.c, .bool e.u.done] 69)) w.heap.size (.slice va k vc) l') := HO.out.stays hb1
    have HS1 : Hid (Seg (wr.alloc (.cells #[.string e.u.id, .int .i64 e.u.want, .slice e.a e.n e.c, .bool e.u.done] 69)) e.a e.n e.u.zs) := HSg.out.below hb1
    have HU1 : Hid (BoxN (wr.alloc (.cells #[.string e.u.id, .int .i64 e.u.want, .slice e.a e.n e.c, .bool e.u.done] 69)) wr.heap.size 69 [.string e.u.id, .int .i64 e.u.want, .slice e.a e.n e.c, .bool e.u.done]) := BoxN.new _ _ _
    have hlo : w.heap.size ≤ wr.heap.size := HW.out.size
    have HAp : Hid (∀ x ∈ l', ∀ q, x.a.map (·.block) = some q → q < wr.heap.size) := fun x hx q hq => (HO.out.lts.2 x hx q hq).2
    have HVa : Hid (∀ q, (Value.slice va k vc).ownBlock = some q → q < wr.heap.size) := fun q hq => (HO.out.lts.1 q hq).2
    clear hb1 HSg HW HO
    go_upto_region 6 with fail
    obtain ⟨x1, hx1⟩ : ∃ x1, wr.alloc (.cells #[.string e.u.id, .int .i64 e.u.want, .slice e.a e.n e.c, .bool e.u.done] 69) = x1 := ⟨_, rfl⟩
    rw [hx1] at HB1 HO1 HS1 HU1 ⊢
    clear hx1 g0 g1 g2 g3
    generalize wr.heap.size = bx at *
    have hbx : bx < x1.heap.size := HU1.out.lt
    have hb2 := (Below.refl x1.heap.size x1).alloc (Nat.le_refl _) (.cells #[] 5)
    have HR2 : Hid ((x1.alloc (.cells #[] 5)).ownsRow x1.heap.size 5 1 (.slice (some ⟨x1.heap.size, 0, none⟩) 0 0) 0 []) := World.ownsRow_lit x1 #[] 0 (Nat.le_refl _) (Nat.zero_le _) rfl
    have HSr : Hid (Src Tryz.prog 1 39 (.slice e.a e.n e.c) e.n (e.u.zs.map (Value.int .u8)) (x1.alloc (.cells #[] 5))) := (HS1.out.below hb2).src
    have hU2 := HU1.out.stays hb2
    have u2 := hU2.cell 2 rfl
    have HZr : Hid (∀ x ∈ e.u.zs, 0 ≤ x ∧ x ≤ 255) := HS1.out.2.1
    have HL2 : Hid (x1.heap.size ≤ (x1.alloc (.cells #[] 5)).heap.size) := hb2.size
    go_wp2_with (at_builtin; refine wpList_append_loc rfl _ _ 39 39 rfl x1.heap.size 5 j0 (.int .u8 0) 1 1 Tryz.underlying39 ji jz0 jz1 jz2 rfl (by decide) x1.heap.size 0 0 [] rfl HR2.out (.slice e.a e.n e.c) e.n (e.u.zs.map (Value.int .u8)) rfl HSr.out (by unfold maxLen; omega) (by omega) HL2.out ?_; intro gA C x3 hown3 hg3 _; refine Hid.out ?_)
    refine hidden ?_
    obtain ⟨A, hAe⟩ : ∃ A : Option Addr, some ⟨gA, 0, none⟩ = A := ⟨_, rfl⟩
    have HAe : Hid (some ⟨gA, 0, none⟩ = A) := hAe
    rw [hAe] at hown3 ⊢
    have hown3' : x3.ownsRow x1.heap.size 5 1 (.slice A e.n C) e.n (e.u.zs.map (Value.int .u8)) := by
      have h := hown3
      rw [Nat.zero_add] at h
      simpa using h
    clear hAe
    have ho3 : Owns x3 x1.heap.size A e.n C e.u.zs := ⟨hown3', HZr.out⟩
    have hU3 := hU2.grown hg3 (fun q => by injection q with q; omega)
    have hO3 : UpRow x3 w.heap.size (.slice va k vc) l' := (HO1.out.stays hb2).grown hg3 (fun q hq hq2 => by injection hq with hq; have := HVa.out q hq2; omega) (fun x hx q hq hq2 => by injection hq with hq; have := HAp.out x hx q hq2; omega)
    have hB3 : Below w.heap.size w x3 := (HB1.out.trans (hb2.mono HB1.out.size)).grown hg3 (by have := HB1.out.size; have := hb2.size; omega) (fun q hq => by injection hq with hq; have := HB1.out.size; omega)
    have y2 := hU3.cell 2 rfl
    have z2 := hU3.frozen 2
    have hA : A.map (·.block) ≠ some bx := fun q => by have := (ho3.lt _ q).1; omega
    have hgs : x3.grownBy (x3.setCell ⟨bx, 2, none⟩ (.slice A e.n C)) (some bx) := grownBy_setU x3 bx 2 _
    have HU4 : Hid (BoxN (x3.setCell ⟨bx, 2, none⟩ (.slice A e.n C)) bx 69 [.string e.u.id, .int .i64 e.u.want, .slice A e.n C, .bool e.u.done]) := hU3.set 2 _
    have HO4 : Hid (UpRow (x3.setCell ⟨bx, 2, none⟩ (.slice A e.n C)) w.heap.size (.slice va k vc) l') := hO3.grown hgs (fun q hq hq2 => by injection hq with hq; have := HVa.out q hq2; omega) (fun x hx q hq hq2 => by injection hq with hq; have := HAp.out x hx q hq2; omega)
    have HD4 : Hid (Owns (x3.setCell ⟨bx, 2, none⟩ (.slice A e.n C)) (bx + 1) A e.n C e.u.zs) := owns_low (owns_set ho3 hA) (by omega)
    have HB4 : Hid (Below w.heap.size w (x3.setCell ⟨bx, 2, none⟩ (.slice A e.n C))) := hB3.setCell (by dsimp only; omega) _
    clear hown3 hown3' ho3 hU3 hO3 hB3 hA hgs hg3 hU2 u2 HR2 HSr HB1 HO1 HS1 HU1 hb2 HL2
    go_upto_region 7 with fail
    obtain ⟨x4, hx4⟩ : ∃ x4, (x3.setCell ⟨bx, 2, none⟩ (.slice A e.n C)) = x4 := ⟨_, rfl⟩
    rw [hx4] at HU4 HO4 HD4 HB4 ⊢
    clear hx4 y2 z2
    have hbx4 : bx < x4.heap.size := HU4.out.lt
    have hw4 : w.heap.size ≤ x4.heap.size := HB4.out.size
    obtain ⟨t0, t1, t2, t3⟩ := (show _ ∧ _ ∧ _ ∧ _ from ⟨HU4.out.cell 0 rfl, HU4.out.cell 1 rfl, HU4.out.cell 2 rfl, HU4.out.cell 3 rfl⟩)
    have HNw : Hid (∀ j u, (UE.cells ⟨e.u, A, e.n, C⟩)[j]? = some u → (x4.alloc (.cells #[.string e.u.id, .int .i64 e.u.want, .slice A e.n C, .bool e.u.done] 69)).cell? ((⟨x4.heap.size, 0, none⟩ : Addr).add j) = some u) := four_new x4 e.u A e.n C
    have HO4' : Hid ((x4.alloc (.cells #[.string e.u.id, .int .i64 e.u.want, .slice A e.n C, .bool e.u.done] 69)).ownsRow w.heap.size 69 4 (.slice va k vc) k (ueCells l')) := by
      have h := HO4.out.1.alloc (.cells #[.string e.u.id, .int .i64 e.u.want, .slice A e.n C, .bool e.u.done] 69)
      rw [hlk] at h
      exact h
    have HAp' : Hid (∀ x ∈ l', ∀ q, x.a.map (·.block) = some q → q < bx + 1) := fun x hx q hq => by have := HAp.out x hx q hq; omega
    go_wp2_with (at_builtin; refine wpList_append_own _ rfl _ _ 30 rfl w.heap.size 69 i0 (.agg #[.string ⟨#[]⟩, .int .i64 0, .slice none 0 0, .bool false]) 4 56 Tryz.underlying30 hi hz0 hz1 hz2 rfl (by decide) (.slice va k vc) k _ rfl HO4'.out ⟨x4.heap.size, 0, none⟩ 1 1 (UE.cells ⟨e.u, A, e.n, C⟩) rfl rfl HNw.out (four_one e.u A e.n C) (by unfold maxLen; omega) (by omega) (by simp; omega) ?_; intro v5 x5 hown5 hg5 _; refine Hid.out ?_)
    refine hidden ?_
    have HO5 : Hid (UpRow x5 w.heap.size v5 (l' ++ [⟨e.u, A, e.n, C⟩])) := HO4.out.snoc HD4.out (by omega) HAp'.out (by rw [hlk]; exact hown5) hg5
    have HB5 : Hid (Below w.heap.size w x5) := (HB4.out.alloc HB4.out.size _).grown hg5 (by simp; omega) (fun q hq => (HO4.out.lts.1 q hq).1)
    have HM5 : Hid ((l' ++ [(⟨e.u, A, e.n, C⟩ : UE)]).map UE.u = (l.map UE.u).take (k + 1)) := by show _ = _; rw [List.map_append]; exact HM2.out
    have HSm5 : Hid (∀ x ∈ l' ++ [(⟨e.u, A, e.n, C⟩ : UE)], ∃ g, x.a = some ⟨g, 0, none⟩) := fun x hx => by
      rcases List.mem_append.1 hx with hx | hx
      · exact HSm.out x hx
      · obtain rfl : x = ⟨e.u, A, e.n, C⟩ := by simpa using hx
        exact ⟨gA, HAe.out.symm⟩
    clear hown5 hg5 HNw HO4' HO4 HD4 HU4 HB4 t0 t1 t2 t3 HM2
    obtain ⟨v5a, v5c, rfl⟩ := HO5.out.shape
    rw [List.length_append, hlk] at HO5 ⊢
    go_wp2_with fail
    go_roundw
    case rel => exact ⟨k + 1, l' ++ [⟨e.u, A, e.n, C⟩], by omega, by simp [hlk], by go_num, HO5, HM5, HSm5, HB5⟩
    case measure => simp [intOf]; omega

end Go.Proofs.YtammmecddnafaaaGreatDoor

namespace Go.Proofs.YtammmecddnafaaaGreatDoor
open Go.RowKit
set_option linter.unusedVariables false

set_option maxRecDepth 10000 in
set_option maxHeartbeats 3200000 in
theorem specScopy_any (a : Option Addr) (n ca : Nat) (X : List ByteArray) (a' : Option Addr) (n' ca' : Nat) (Y : List ByteArray) (ep nx : Int) (ua : Option Addr) (un uc lo : Nat) (l : List UE) (w : World) (h1 : Strs w a n X) (h2 : Strs w a' n' Y) (hn : n ≤ 1048576) (hn' : n' ≤ 1048576) (hu : UpRow w lo (.slice ua un uc) l) (hun : un = l.length) (hul : un ≤ 1048576) (hz : ∀ e ∈ l, e.n ≤ 1099511627776) :
    Calls Tryz.prog 25 #[.agg #[.slice a n ca, .slice a' n' ca', .int .i64 ep, .int .i64 nx, .slice ua un uc]] w fun e w' => (∃ v, e = .returned v ∧ AnsS w.heap.size X Y ep nx (l.map UE.u) v w') ∧ Below w.heap.size w w' := by
  have HLn : Hid (X.length = n ∧ Y.length = n' ∧ un = l.length ∧ ∀ e ∈ l, e.n ≤ 1099511627776) := ⟨h1.1, h2.1, hun, hz⟩
  obtain ⟨W2, hW2⟩ : ∃ W2, (w.alloc (.cells #[.slice a n ca, .slice a' n' ca', .int .i64 ep, .int .i64 nx, .slice ua un uc] 32)).alloc (.cells #[.slice none 0 0, .slice none 0 0, .int .i64 0, .int .i64 0, .slice none 0 0] 32) = W2 := ⟨_, rfl⟩
  have HE : Hid ((w.alloc (.cells #[.slice a n ca, .slice a' n' ca', .int .i64 ep, .int .i64 nx, .slice ua un uc] 32)).alloc (.cells #[.slice none 0 0, .slice none 0 0, .int .i64 0, .int .i64 0, .slice none 0 0] 32) = W2) := hW2
  have HB2 : Hid (Below w.heap.size w W2) := by show Below _ _ _; rw [← hW2]; exact ((Below.refl _ _).alloc (Nat.le_refl _) _).alloc (by simp) _
  have HZ2 : Hid (W2.heap.size = w.heap.size + 2) := by show _ = _; rw [← hW2]; simp
  have q1 : BoxN W2 w.heap.size 32 [.slice a n ca, .slice a' n' ca', .int .i64 ep, .int .i64 nx, .slice ua un uc] := by rw [← hW2]; exact (BoxN.new _ _ _).alloc _
  have q2 : BoxN W2 (w.heap.size + 1) 32 [.slice none 0 0, .slice none 0 0, .int .i64 0, .int .i64 0, .slice none 0 0] := by
    rw [← hW2]
    have := BoxN.new (w.alloc (.cells #[.slice a n ca, .slice a' n' ca', .int .i64 ep, .int .i64 nx, .slice ua un uc] 32)) 32 [.slice none 0 0, .slice none 0 0, .int .i64 0, .int .i64 0, .slice none 0 0]
    rwa [World.size_alloc] at this
  have HQ : Hid (∀ W, Below W2.heap.size W2 W → BoxN W w.heap.size 32 [.slice a n ca, .slice a' n' ca', .int .i64 ep, .int .i64 nx, .slice ua un uc] ∧ BoxN W (w.heap.size + 1) 32 [.slice none 0 0, .slice none 0 0, .int .i64 0, .int .i64 0, .slice none 0 0]) := fun W h => ⟨q1.stays h, q2.stays h⟩
  have HX : Hid (∀ W, Below W2.heap.size W2 W → Strs W a n X ∧ Strs W a' n' Y ∧ UpRow W lo (.slice ua un uc) l) := fun W h => by
    have hw := HB2.out.trans (h.mono HB2.out.size)
    exact ⟨h1.below hw, h2.below hw, hu.stays hw⟩
  have HBd : Hid (Below W2.heap.size W2 W2.drew) := (Below.refl _ _).drew
  clear hW2 q1 q2 h1 h2 hu hun hz
  have hne : w.heap.size ≠ w.heap.size + 1 := by omega
  have hs2 : w.heap.size + 1 < W2.heap.size := by have := HZ2.out; omega
  go_enter Tryz.func25, Tryz.ntmps25
  go_upto_region 1 with fail
  rw [HE.out]
  clear HE
  have bq := (HQ.out _ (Below.refl _ _)).1
  have c0 := bq.cell 0 rfl
  have c1 := bq.cell 1 rfl
  have c2 := bq.cell 2 rfl
  have c3 := bq.cell 3 rfl
  have c4 := bq.cell 4 rfl
  clear bq
  go_region_held3 (fun W => W.cell? ⟨w.heap.size, 0, none⟩ = some (.slice a n ca) ∧ W.cell? ⟨w.heap.size, 1, none⟩ = some (.slice a' n' ca') ∧ W.cell? ⟨w.heap.size, 2, none⟩ = some (.int .i64 ep) ∧ W.cell? ⟨w.heap.size, 3, none⟩ = some (.int .i64 nx) ∧ W.cell? ⟨w.heap.size, 4, none⟩ = some (.slice ua un uc)) (first | with_reducible exact ⟨m0, m1, m2, m3, m4⟩ | with_reducible exact ⟨e0, e1, e2, e3, e4⟩ | with_reducible exact ⟨cellD_kept hne (cellD_kept hne (cellD_kept hne (cellD_kept hne (cellD_kept hne m0)))), cellD_kept hne (cellD_kept hne (cellD_kept hne (cellD_kept hne (cellD_kept hne m1)))), cellD_kept hne (cellD_kept hne (cellD_kept hne (cellD_kept hne (cellD_kept hne m2)))), cellD_kept hne (cellD_kept hne (cellD_kept hne (cellD_kept hne (cellD_kept hne m3)))), cellD_kept hne (cellD_kept hne (cellD_kept hne (cellD_kept hne (cellD_kept hne m4))))⟩ | exact ⟨c0, c1, c2, c3, c4⟩) (first
    | (go_at_call 52; refine (specCopyU_any ua un uc lo l _ (HX.out _ hB1).2.2 HLn.out.2.2.1 hul HLn.out.2.2.2).mono ?_; rintro e y2 ⟨⟨v2, l2, rfl, own2, hm2, hg2⟩, hb2⟩
       have hB2 : Below W2.heap.size W2 y2 := hB1.trans (hb2.mono hB1.size)
       have m0 := (HQ.out _ hB2).1.cell 0 rfl
       have m1 := (HQ.out _ hB2).1.cell 1 rfl
       have m2 := (HQ.out _ hB2).1.cell 2 rfl
       have m3 := (HQ.out _ hB2).1.cell 3 rfl
       have m4 := (HQ.out _ hB2).1.cell 4 rfl
       have r0 := (HQ.out _ hB2).2.cell 0 rfl
       have r1 := (HQ.out _ hB2).2.cell 1 rfl
       have r2 := (HQ.out _ hB2).2.cell 2 rfl
       have r3 := (HQ.out _ hB2).2.cell 3 rfl
       have r4 := (HQ.out _ hB2).2.cell 4 rfl
       have f0 := (HQ.out _ hB2).2.frozen 0
       have f1 := (HQ.out _ hB2).2.frozen 1
       have f2 := (HQ.out _ hB2).2.frozen 2
       have f3 := (HQ.out _ hB2).2.frozen 3
       have f4 := (HQ.out _ hB2).2.frozen 4
       obtain ⟨A3, C3, rfl⟩ := own2.shape)
    | (go_at_call 51; refine (specDcopy_any a n ca X a' n' ca' Y _ (HX.out _ HBd.out).1 (HX.out _ HBd.out).2.1 (by omega) (by omega)).mono ?_; rintro e y1 ⟨⟨v1, rfl, A1, C1, A2, C2, rfl, own1, own1', hap⟩, hb1⟩
       have hB1 : Below W2.heap.size W2 y1 := HBd.out.trans (hb1.mono (Nat.le_refl _))
       have e0 := (HQ.out _ hB1).1.cell 0 rfl
       have e1 := (HQ.out _ hB1).1.cell 1 rfl
       have e2 := (HQ.out _ hB1).1.cell 2 rfl
       have e3 := (HQ.out _ hB1).1.cell 3 rfl
       have e4 := (HQ.out _ hB1).1.cell 4 rfl)
    | fail)
  all_goals
    have HF : Hid (StoAt y2 (w.heap.size + 2) A1 X.length C1 X A2 Y.length C2 Y A3 l2.length C3 l2 ∧ l2.map UE.u = l.map UE.u ∧ Below w.heap.size w y2) := by
      have hz := HZ2.out
      refine ⟨⟨(own1.below hb2).low (by show _ ≤ W2.heap.size; omega), (own1'.below hb2).low (by show _ ≤ W2.heap.size; omega), hap, own2.low (by have := hB1.size; omega), rfl⟩, hm2, HB2.out.trans (hB2.mono HB2.out.size)⟩
    clear own1 own1' own2 hap hb1 hb2 hB1 hB2 hm2 hg2 e0 e1 e2 e3 e4 m0 m1 m2 m3 m4 c0 c1 c2 c3 c4 HQ HX HBd HB2
    go_wp2_with fail
    refine bodyPost_ret (v := .agg #[.slice A1 X.length C1, .slice A2 Y.length C2, .int .i64 ep, .int .i64 nx, .slice A3 l2.length C3]) (by simp [results, Tryz.f25, go_sem, r0, r1, r2, r3, r4]) rfl ?_
    refine ⟨⟨_, rfl, A1, X.length, C1, A2, Y.length, C2, A3, l2.length, C3, l2, rfl, ?_, HF.out.2.1⟩, ?_⟩
    · exact (((((HF.out.1.setLow (by omega) _).setLow (by omega) _).setLow (by omega) _).setLow (by omega) _).setLow (by omega) _).low (by omega)
    · exact ((((HF.out.2.2.setCell (by dsimp only; omega) _).setCell (by dsimp only; omega) _).setCell (by dsimp only; omega) _).setCell (by dsimp only; omega) _).setCell (by dsimp only; omega) _

end Go.Proofs.YtammmecddnafaaaGreatDoor

namespace Go.Proofs.YtammmecddnafaaaGreatDoor
open Go.RowKit
set_option linter.unusedVariables false

theorem step_append_own {P : Program} {ops : Array Oper} {o : Oper} {a : Act} {w : World} {K : Act → World → Prop} {Q : Exit → Act → World → Prop} {E : Prop}
    (hg : o.guard = none) (s x : Operand) (t : TypeId) (ho : o.op = .call { callee := .builtin .append, args := #[s, x], argTypes := #[t, t] })
    (base : Nat) (e : TypeId) (i : TypeInfo) (z : Value) (size bytes : Nat) (ht : P.underlying t = some (.slice e)) (hi : P.info? e = some i) (hz : i.zero = some z)
    (hsize : i.size = size) (hby : i.bytes = bytes) (hzs : z.cells.size = size) (hsz : 0 < size)
    (v : Value) (n : Nat) (xs : List Value) (hs : a.eval s = v) (hown : w.ownsRow base e size v n xs)
    (ad : Addr) (m c : Nat) (news : List Value) (hx : a.eval x = .slice (some ad) m c) (hl : news.length = m * size) (hnews : ∀ j u, news[j]? = some u → w.cell? (ad.add j) = some u) (h1 : ∀ u ∈ news, u.oneCell' = true)
    (h63 : n + m ≤ maxLen) (hbytes : (n + m) * bytes ≤ 140737488355328) (hbase : base ≤ w.heap.size)
    (h : ∀ v' w', w'.ownsRow base e size v' (n + m) (xs ++ news) → w.grownBy w' v.ownBlock → K (a.put o.dst v') w') :
    if Region.wanted o (yielded ops a.tmps) = true then Oper.wp P o a w K Q else E := by
  have hw : Region.wanted o (yielded ops a.tmps) = true := by simp [Region.wanted, hg]
  rw [if_pos hw]
  exact wp_append_own w s x t ho base e i z size bytes ht hi hz hsize hby hzs hsz v n xs hs hown ad m c news hx hl hnews h1 h63 hbytes hbase fun v' w' h2 h3 _ => h v' w' h2 h3

theorem step_call_same {P : Program} {ops : Array Oper} {o : Oper} {a : Act} {w : World} {K : Act → World → Prop} {Q : Exit → Act → World → Prop} {E : Prop}
    (hg : o.guard = none) (f : FuncId) (x : Operand) (t : TypeId) (ho : o.op = .call { callee := .value (.func f), args := #[x], argTypes := #[t] })
    (hent : ∀ args w, (callFunc f args).run P w = .ok (.enter f args) w) (u v : Value) (hx : a.eval x = u)
    (hc : Calls P f #[u] w fun e w' => e = .returned v ∧ w' = w) (h : K (a.put o.dst v) w) :
    if Region.wanted o (yielded ops a.tmps) = true then Oper.wp P o a w K Q else E := by
  have hw : Region.wanted o (yielded ops a.tmps) = true := by simp [Region.wanted, hg]
  rw [if_pos hw]
  have hf : a.eval (.func f) = .func (.func f) #[] #[] := rfl
  unfold Oper.wp
  simp [execOp, ho, resolve, invoke, Deferred.ofValue, hent, hf, hx, Oper.upon_enter]
  refine hc.mono ?_
  rintro e w' ⟨rfl, rfl⟩
  exact h

end Go.Proofs.YtammmecddnafaaaGreatDoor
