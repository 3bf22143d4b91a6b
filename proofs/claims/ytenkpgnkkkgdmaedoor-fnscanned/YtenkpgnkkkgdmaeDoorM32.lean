/- The law that the records of a drawn disk have the numbers of their sectors, their epochs do not go down, and none is above the top; under its table. -/
import Derived.Test.YtenkpgnkkkgdmaeDoorM17
import Derived.Test.YtenkpgnkkkgdmaeDoorM17
import Derived.Test.YtenkpgnkkkgdmaeDoorM27
import Derived.Test.YtenkpgnkkkgdmaeDoorM30
import Derived.Test.YtenkpgnkkkgdmaeDoorM30
import Derived.Test.YtenkpgnkkkgdmaeDoorM31
import Derived.Test.YtenkpgnkkkgdmaeDoorM31
import Derived.Test.YtenkpgnkkkgdmaeDoorM31
import Derived.BigQuiet
namespace Go.Proofs.YtenkpgnkkkgdmaeDoor
open Go.RowKit
set_option linter.unusedVariables false

theorem secAt_there {xs : List ByteArray} {k : Nat} {x : ByteArray} (h : xs[k]? = some x) : secAt xs (k : Int) = x := by
  have hk : k < xs.length := (List.getElem?_eq_some_iff.1 h).1
  rw [secAt, if_pos ⟨by omega, by omega⟩, Int.toNat_natCast, List.getD_eq_getElem?_getD, h]
  rfl

set_option maxRecDepth 10000 in
set_option maxHeartbeats 3200000 in
theorem lawScan_any (a : Option Addr) (len cap : Nat) (zs : List Int) (w : World) (hm : len ≤ maxLen) (hs : Seg w a len zs) (ht : RecT w) :
    Calls Tryd.prog 6 #[.slice a len cap] w fun e w' => e = .returned (.bool true) ∧ Below w.heap.size w w' := by
  have HS : Hid (Seg w a len zs) := hs
  have HRT : Hid (∀ W, Below w.heap.size w W → RecT W) := fun W h => ht.below h
  clear hs ht
  by_cases hbig : (1048576 : Int) < (len : Int)
  · have hd : Hid (decide ((1048576 : Int) < (len : Int)) = true) := by show _ = _; simpa using hbig
    go_enter Tryd.func6, Tryd.ntmps6
    go_wp2_with fail
    refine (big_any a len cap w hm).mono ?_
    rintro e w1 ⟨rfl, hw1⟩
    subst w1
    rw [hd.out]
    go_wp2_with fail
    go_ret
    exact ⟨rfl, Below.refl _ _⟩
  have hd : Hid (decide ((1048576 : Int) < (len : Int)) = false) := by show _ = _; simpa using hbig
  have hl : len ≤ 1099511627776 := by omega
  clear hbig
  go_enter Tryd.func6, Tryd.ntmps6
  go_wp2_with fail
  refine (big_any a len cap w hm).mono ?_
  rintro e w1 ⟨rfl, hw1⟩
  subst w1
  rw [hd.out]
  go_wp2_with fail
  refine (drawScan_any a len cap zs w HS.out hl).mono ?_
  rintro e w2 ⟨⟨A, C, A', C', X, Y, rfl, s1, s2, hz⟩, hb2⟩
  have h23 : Below w2.heap.size w2 (w2.alloc (.cells #[.slice A 5 C, .slice A' 5 C'] 54)) := (Below.refl _ _).alloc (Nat.le_refl _) _
  have HB3 : Hid (Below w.heap.size w (w2.alloc (.cells #[.slice A 5 C, .slice A' 5 C'] 54))) := hb2.trans (h23.mono hb2.size)
  have HQ3 : Hid (Box2R (w2.alloc (.cells #[.slice A 5 C, .slice A' 5 C'] 54)) w2.heap.size 54 (.slice A 5 C) (.slice A' 5 C')) := Box2R.new _ _ _ _
  have HS3 : Hid (Strs (w2.alloc (.cells #[.slice A 5 C, .slice A' 5 C'] 54)) A 5 X) := s1.below h23
  have HZ : Hid (∀ x ∈ X, x.size ≤ 1048576) := fun x hx => by have := hz x hx; omega
  clear s1 s2 hz hb2 h23
  go_upto_region 4 with fail
  obtain ⟨w3, hw3⟩ : ∃ w3, w2.alloc (.cells #[.slice A 5 C, .slice A' 5 C'] 54) = w3 := ⟨_, rfl⟩
  rw [hw3] at HB3 HQ3 HS3 ⊢
  clear hw3
  generalize w2.heap.size = b at *
  have HT : Hid (∀ W, Below w3.heap.size w3 W → Box2R W b 54 (.slice A 5 C) (.slice A' 5 C') ∧ Strs W A 5 X ∧ RecT W ∧ Below w.heap.size w W) := fun W h => by
    have h1 : Below w.heap.size w W := HB3.out.trans (h.mono HB3.out.size)
    exact ⟨HQ3.out.stays h, HS3.out.below h, HRT.out W h1, h1⟩
  clear HB3 HQ3 HS3 HRT HS
  obtain ⟨c0, c1⟩ := (HT.out w3 (Below.refl _ _)).1.cells
  go_wp2_with fail
  refine (implScan_any A 5 C X A' 5 C' w3 (HT.out w3 (Below.refl _ _)).2.1 (by omega) HZ.out (HT.out w3 (Below.refl _ _)).2.2.1).mono ?_
  rintro e w4 ⟨⟨v, l, rfl, hrow, hlm⟩, hb4⟩
  clear c0 c1
  obtain ⟨va, vc, rfl⟩ := hrow.shape
  obtain ⟨M, hM⟩ : ∃ M, l.length = M := ⟨_, rfl⟩
  rw [hM] at hrow ⊢
  have HM : Hid (l.length = M) := hM
  have HLm : Hid (l.map RE.r = scanR X) := hlm
  have HR4 : Hid (RcRow w4 w3.heap.size (.slice va M vc) l) := hrow
  have HB4 : Hid (Below w3.heap.size w3 w4) := hb4
  clear hM hlm hrow hb4
  obtain ⟨c0, c1⟩ := (HT.out w4 HB4.out).1.cells
  go_wp2_with fail
  refine (implTop_any A 5 C X A' 5 C' w4 (HT.out w4 HB4.out).2.1 (by omega) HZ.out (HT.out w4 HB4.out).2.2.1).mono ?_
  rintro e w5 ⟨rfl, hb5⟩
  have HB5 : Hid (Below w3.heap.size w3 w5) := HB4.out.trans (hb5.mono HB4.out.size)
  have HR5 : Hid (RcRow w5 w3.heap.size (.slice va M vc) l) := HR4.out.stays hb5
  clear hb5 HB4 HR4 c0 c1
  obtain ⟨c0, c1⟩ := (HT.out w5 HB5.out).1.cells
  go_wp2_with fail
  refine (specScan_any A 5 C X A' 5 C' w5 (HT.out w5 HB5.out).2.1 (by omega) HZ.out).mono ?_
  rintro e w6 ⟨⟨v2, l2, rfl, hrow2, hlm2⟩, hb6⟩
  obtain ⟨va2, vc2, rfl⟩ := hrow2.shape
  have hM2 : l2.length = M := by
    have e1 := congrArg List.length HLm.out
    have e2 := congrArg List.length hlm2
    rw [List.length_map] at e1 e2
    rw [e2, ← e1, HM.out]
  rw [hM2]
  have HB6 : Hid (Below w3.heap.size w3 w6) := HB5.out.trans (hb6.mono HB5.out.size)
  have HR6 : Hid (RcRow w6 w3.heap.size (.slice va M vc) l) := HR5.out.stays hb6
  clear hb6 HB5 HR5 c0 c1 hrow2 hlm2 hM2
  obtain ⟨c0, c1⟩ := (HT.out w6 HB6.out).1.cells
  have hm5 : M ≤ 5 := by
    have h1 := scanFrom_len X 0 0
    have h2 := (HT.out w6 HB6.out).2.1.1
    have h3 : M = (scanFrom 0 0 X).length := by
      have e1 := congrArg List.length HLm.out
      rw [List.length_map] at e1
      rw [← HM.out, e1]
      rfl
    omega
  go_wp2_with fail
  refine (specTop_any A 5 C X A' 5 C' w6 (HT.out w6 HB6.out).2.1 (by omega) HZ.out).mono ?_
  rintro e w7 ⟨rfl, hb7⟩
  have HB7 : Hid (Below w3.heap.size w3 w7) := HB6.out.trans (hb7.mono HB6.out.size)
  have HR7 : Hid (∀ W, Below w7.heap.size w7 W → RcRow W w3.heap.size (.slice va M vc) l) := fun W h => (HR6.out.stays hb7).stays h
  clear hb7 HB6 HR6 c0 c1
  have HTp : Hid (∀ (k : Nat) (r : R), (scanR X)[k]? = some r → (∃ x, X[k]? = some x ∧ recOf x = some r) ∧ r.q = (k : Int) ∧ r.e ≤ topE X) := fun k r h => scan_one h
  generalize topE X = tp at *
  go_wp2_with fail
  go_loopw [6] (fun v wr => ∃ k : Nat, v = .int .i64 (k : Int) ∧ k ≤ M ∧ Hid (Below w7.heap.size w7 wr)) (fun v _ => M - (intOf v).toNat)
  case atStart => exact ⟨0, rfl, Nat.zero_le _, Below.refl _ _⟩
  case round =>
    obtain ⟨k, rfl, hkM, HW⟩ := hrel
    have HWT := (show Hid _ from HT.out wr (HB7.out.trans (HW.out.mono HB7.out.size)))
    by_cases hk : k < M
    case neg =>
      obtain rfl : k = M := by omega
      have HBf : Hid (Below w.heap.size w wr) := HWT.out.2.2.2
      clear HWT HW
      go_wp2_with fail
      go_ret
      exact ⟨rfl, HBf.out⟩
    have hki : (k : Int) < (M : Int) := by omega
    have hk0 : (0 : Int) ≤ (k : Int) := by omega
    obtain ⟨c0, c1⟩ := HWT.out.1.cells
    have hkl : k < l.length := by rw [HM.out]; exact hk
    obtain ⟨r, hr⟩ : ∃ r, (l[k]).r = r := ⟨_, rfl⟩
    have HLr : Hid ((l[k]).r = r) := hr
    have hat : (scanR X)[k]? = some r := by rw [← HLm.out, List.getElem?_map, List.getElem?_eq_getElem hkl, ← hr]; rfl
    obtain ⟨⟨x, hx, hrx⟩, hq, he⟩ := HTp.out k r hat
    have HX : Hid (X[k]? = some x) := hx
    have hxz : x.size ≤ 1048576 := HZ.out x (List.mem_of_getElem? hx)
    have HRx : Hid (recOf x = some r) := hrx
    have HQ : Hid (r.q = (k : Int)) := hq
    have HEt : Hid (r.e ≤ tp) := he
    have HAt : Hid ((scanR X)[k]? = some r) := hat
    clear hr hq he
    clear hx hrx hat
    go_wp2_with fail
    refine (implSec_any A 5 C X A' 5 C' (k : Int) wr HWT.out.2.1 (by omega)).mono ?_
    rintro _ x1 ⟨rfl, hb1⟩
    rw [secAt_there HX.out]
    have HB1 : Hid (Below w7.heap.size w7 x1) := HW.out.trans (hb1.mono HW.out.size)
    have HT1 : Hid (RecT x1) := HWT.out.2.2.1.below hb1
    clear hb1 HW HWT c0 c1
    go_wp2_with fail
    refine (implGetR_any x x1 (by omega) HT1.out).mono ?_
    rintro _ x2 ⟨⟨v, rfl, hgot⟩, hb2⟩
    obtain ⟨Ag, Cg, rfl⟩ : ∃ Ag Cg, v = .tuple #[.agg #[.int .i64 r.e, .int .i64 r.q, .int .i64 r.k, .string r.id, .int .i64 r.n, .slice Ag r.zs.length Cg], .bool true] := by
      rcases hgot with ⟨h1, _⟩ | ⟨r', Ag, Cg, h1, h2, _⟩
      · rw [HRx.out] at h1; cases h1
      · rw [HRx.out] at h1
        injection h1 with h1
        subst h1
        exact ⟨Ag, Cg, h2⟩
    have hb3 := (Below.refl x2.heap.size x2).alloc (Nat.le_refl _) (.cells #[.int .i64 r.e, .int .i64 r.q, .int .i64 r.k, .string r.id, .int .i64 r.n, .slice Ag r.zs.length Cg] 43)
    have HB3 : Hid (Below w7.heap.size w7 (x2.alloc (.cells #[.int .i64 r.e, .int .i64 r.q, .int .i64 r.k, .string r.id, .int .i64 r.n, .slice Ag r.zs.length Cg] 43))) := HB1.out.trans ((hb2.trans (hb3.mono hb2.size)).mono HB1.out.size)
    have HN3 : Hid (BoxN (x2.alloc (.cells #[.int .i64 r.e, .int .i64 r.q, .int .i64 r.k, .string r.id, .int .i64 r.n, .slice Ag r.zs.length Cg] 43)) x2.heap.size 43 [.int .i64 r.e, .int .i64 r.q, .int .i64 r.k, .string r.id, .int .i64 r.n, .slice Ag r.zs.length Cg]) := BoxN.new _ _ _
    clear hgot hb2 hb3 HB1 HT1
    go_upto_region 12 with fail
    obtain ⟨x3, hx3⟩ : ∃ x3, x2.alloc (.cells #[.int .i64 r.e, .int .i64 r.q, .int .i64 r.k, .string r.id, .int .i64 r.n, .slice Ag r.zs.length Cg] 43) = x3 := ⟨_, rfl⟩
    rw [hx3] at HB3 HN3 ⊢
    clear hx3
    generalize x2.heap.size = bx at *
    obtain ⟨g, rfl, g0, g1, _⟩ := (HR7.out x3 HB3.out).at HM.out.symm hkl
    have n1 := HN3.out.cell 1 rfl
    rw [HLr.out] at g0 g1
    rw [HQ.out] at g1 n1
    have HPr : Hid (∀ j, j + 1 = k → ∃ ep : Int, x3.cell? ⟨g, j * 6, none⟩ = some (.int .i64 ep) ∧ ep ≤ r.e) := fun j hj => by
      subst hj
      have hjl : j < l.length := by omega
      obtain ⟨g2, hg2, h0, _⟩ := (HR7.out x3 HB3.out).at HM.out.symm hjl
      injection hg2 with hg2
      injection hg2 with hg2 _ _
      subst hg2
      exact ⟨_, h0, scan_two (X := X) (k := j) (by rw [← HLm.out, List.getElem?_map, List.getElem?_eq_getElem hjl]; rfl) HAt.out⟩
    generalize r.e = ev at *
    have hte : decide (tp < ev) = false := decide_eq_false (by have := HEt.out; omega)
    clear HN3 HRx HX HQ HEt
    by_cases hkz : k = 0
    · subst hkz
      go_quiet (fail)
      have HBq : Hid (Below w7.heap.size w7 (x3.drewN nq)) := below_drewN HB3.out nq
      go_wp2_with fail
      go_roundw
      case rel => exact ⟨0 + 1, by go_num, by omega, HBq⟩
      case measure => simp [intOf]; omega
    · obtain ⟨j, rfl⟩ : ∃ j, k = j + 1 := ⟨k - 1, by omega⟩
      obtain ⟨ep, h0, hle⟩ := HPr.out j rfl
      have hde : decide (ev < ep) = false := decide_eq_false (by omega)
      have hkp : (0 : Int) < ((j + 1 : Nat) : Int) := by omega
      have hjw : IntKind.i64.wrap (((j + 1 : Nat) : Int) - 1) = (j : Int) := by rw [IntWalk.i64_in _ (by omega)]; omega
      have hj0 : (0 : Int) ≤ (j : Int) := by omega
      have hjM : (j : Int) < (M : Int) := by omega
      go_quiet (fail)
      have HBq : Hid (Below w7.heap.size w7 (x3.drewN nq)) := below_drewN HB3.out nq
      go_wp2_with fail
      go_roundw
      case rel => exact ⟨j + 1 + 1, by go_num, by omega, HBq⟩
      case measure => simp [intOf]; omega

end Go.Proofs.YtenkpgnkkkgdmaeDoor
