/- The law that what drawn records make is right: uploads rise, and none has more than it wants; more records make more of it; under its error. -/
import Derived.Test.YtogopmngbjkcjafDoorM30
import Derived.Test.YtogopmngbjkcjafDoorM33
import Derived.Test.YtogopmngbjkcjafDoorM18
import Derived.Test.YtogopmngbjkcjafDoorM34
import Derived.Test.YtogopmngbjkcjafDoorM16
import Derived.Test.YtogopmngbjkcjafDoorM23
import Derived.Test.YtogopmngbjkcjafDoorM34
import Derived.BigQuiet
namespace Go.Proofs.YtogopmngbjkcjafDoor
open Go.RowKit
set_option linter.unusedVariables false

theorem reCells_take (l : List RE) : ∀ p, reCells (l.take p) = (reCells l).take (p * 6) := by
  induction l with
  | nil => intro p; simp [reCells]
  | cons e l ih =>
    intro p
    cases p with
    | zero => simp [reCells]
    | succ p =>
      rw [List.take_succ_cons, reCells_cons, reCells_cons, ih p, show (p + 1) * 6 = p * 6 + 6 by omega]
      rfl

theorem RcRow.init {W : World} {lo g M rc : Nat} {rs : List RE} (h : RcRow W lo (.slice (some ⟨g, 0, none⟩) M rc) rs) (hM : M = rs.length) {p : Nat} (hp : p ≤ M) : RcRow W lo (.slice (some ⟨g, 0, none⟩) p rc) (rs.take p) := by
  have hl : (rs.take p).length = p := by rw [List.length_take]; omega
  refine ⟨?_, fun e he => h.2.1 e (List.mem_of_mem_take he), h.2.2.sublist (List.take_sublist _ _)⟩
  have h1 := h.1
  rw [← hM] at h1
  have h2 := row_short h1 hp
  rw [← reCells_take] at h2
  rw [hl]
  exact h2

theorem RcRow.head {W : World} {lo M rc : Nat} {ra : Option Addr} {rs : List RE} (h : RcRow W lo (.slice ra M rc) rs) (h0 : M ≠ 0) : ∃ g, ra = some ⟨g, 0, none⟩ ∧ M ≤ rc := by
  rcases h.1.2 with ⟨e, _⟩ | ⟨g, cap, cur, he, _, _, hnc, _⟩
  · injection e with e1 e2 e3
    exact absurd e2 h0
  · injection he with e1 e2 e3
    subst e1 e3
    exact ⟨g, rfl, by omega⟩

set_option maxRecDepth 10000 in
set_option maxHeartbeats 12800000 in
theorem lawFolded_any (a : Option Addr) (len cap : Nat) (zs : List Int) (w : World) (hm : len ≤ maxLen) (hs : Seg w a len zs) (he : ErrN w) :
    Calls Tryd.prog 3 #[.slice a len cap] w fun e w' => e = .returned (.bool true) ∧ Below w.heap.size w w' := by
  have HR : Hid (∀ W, Below w.heap.size w W → Seg W a len zs ∧ ErrN W) := fun W h => ⟨hs.below h, he.below h⟩
  clear hs he
  by_cases hbig : (1048576 : Int) < (len : Int)
  · have hd : Hid (decide ((1048576 : Int) < (len : Int)) = true) := by show _ = _; simpa using hbig
    go_enter Tryd.func3, Tryd.ntmps3
    go_wp2_with fail
    refine (big_any a len cap w hm).mono ?_
    rintro e w1 ⟨rfl, hw1⟩
    subst w1
    rw [hd.out]
    go_wp2_with fail
    go_ret
    exact ⟨rfl, Below.refl _ _⟩
  have hd : Hid (decide ((1048576 : Int) < (len : Int)) = false) := by show _ = _; simpa using hbig
  have hl : len ≤ 1099511627776 := by omega
  clear hbig
  go_enter Tryd.func3, Tryd.ntmps3
  go_wp2_with fail
  refine (big_any a len cap w hm).mono ?_
  rintro e w1 ⟨rfl, hw1⟩
  subst w1
  rw [hd.out]
  clear hd
  go_wp2_with fail
  refine (drawFold_any a len cap zs w (HR.out w (Below.refl _ _)).1 hl).mono ?_
  rintro e w2 ⟨⟨v, rfl, ra, M, rc, rs, rfl, hrow, hM, hM2, hn25, hrn⟩, hb2⟩
  have HT : Hid (∀ W, Below w2.heap.size w2 W → RcRow W w.heap.size (.slice ra M rc) rs ∧ ErrN W ∧ Below w.heap.size w W) := fun W h => by
    have g : Below w.heap.size w W := hb2.trans (h.mono hb2.size)
    exact ⟨hrow.stays h, (HR.out W g).2, g⟩
  have HM : Hid (M = rs.length) := hM
  have HN : Hid (∀ e ∈ rs, e.n ≤ 25) := hn25
  have HRn : Hid (∀ e ∈ rs, 0 ≤ e.r.n ∧ e.r.n ≤ 1000000000) := hrn
  clear hrow hb2 hM hn25 hrn HR
  have HT2 := (show Hid _ from HT.out w2 (Below.refl _ _))
  go_wp2_with fail
  refine (implFold_any ra M rc w.heap.size rs 25 w2 HT2.out.1 HM.out (by omega) HN.out (by omega) (by omega) (fun e he => by have := HRn.out e he; omega) HT2.out.2.1).mono ?_
  rintro e w3 ⟨⟨x, lu, rfl, hup, hlu, hl10⟩, hb3⟩
  rw [foldP_ok] at hlu ⊢
  obtain ⟨xa, xc, rfl⟩ := hup.shape
  obtain ⟨K, hK⟩ : ∃ K, lu.length = K := ⟨_, rfl⟩
  rw [hK] at hup hl10 ⊢
  have HK : Hid (K = lu.length) := hK.symm
  have HB3 : Hid (Below w2.heap.size w2 w3) := hb3
  have HU : Hid (UpRow w3 w2.heap.size (.slice xa K xc) lu) := hup
  have HT3 := (show Hid _ from HT.out w3 HB3.out)
  clear hup hb3 hK HT2
  go_wp2_with fail
  refine (specFold_any ra M rc w.heap.size rs 25 w3 HT3.out.1 HM.out (by omega) HN.out (by omega) (by omega)).mono ?_
  rintro e w4 ⟨⟨y, lv, rfl, hvp, hlv, hv10⟩, hb4⟩
  obtain ⟨ya, yc, rfl⟩ := hvp.shape
  obtain ⟨K2, hK2⟩ : ∃ K2, lv.length = K2 := ⟨_, rfl⟩
  rw [hK2]
  have HB4 : Hid (Below w2.heap.size w2 w4) := HB3.out.trans (hb4.mono HB3.out.size)
  have HU4 : Hid (UpRow w4 w2.heap.size (.slice xa K xc) lu) := HU.out.stays hb4
  have HLu : Hid (lu.map UE.u = (foldU (rs.map RE.r)).getD []) := hlu
  clear hvp hlv hv10 hb4 hK2 HU HT3 hlu
  cases hf : foldU (rs.map RE.r) with
  | none =>
    have hK0 : K = 0 := by
      have h1 := HLu.out
      rw [hf] at h1
      have h2 := congrArg List.length h1
      rw [List.length_map] at h2
      have h3 := HK.out
      simpa [h2] using h3
    subst hK0
    have HBw : Hid (Below w.heap.size w w4) := (HT.out _ HB4.out).2.2
    dsimp only [Option.isSome]
    clear HLu HU4 HT HB4 HB3 HM HN HRn HK
    go_wp2_with fail
    go_ret
    exact ⟨rfl, HBw.out⟩
  | some us =>
  have HF : Hid (foldU (rs.map RE.r) = some us) := hf
  have HLs : Hid (lu.map UE.u = us) := by show _ = _; rw [HLu.out, hf]; rfl
  have HAll := (show Hid _ from folded hf (fun r hr _ => by obtain ⟨e, he, rfl⟩ := List.mem_map.1 hr; exact (HRn.out e he).1))
  dsimp only [Option.isSome]
  clear hf HLu
  go_wp2_with fail
  go_loopw [8] (fun v wr => ∃ k : Nat, v = .int .i64 (k : Int) ∧ k ≤ K ∧ Hid (Below w2.heap.size w2 wr ∧ UpRow wr w2.heap.size (.slice xa K xc) lu)) (fun v _ => K - (intOf v).toNat)
  case atStart => exact ⟨0, rfl, Nat.zero_le _, ⟨HB4.out, HU4.out⟩⟩
  case round =>
    clear HB4 HU4 HB3
    obtain ⟨k, rfl, hk, HW⟩ := hrel
    by_cases hlt : k < K
    · have hkl : k < lu.length := by rw [← HK.out]; exact hlt
      obtain ⟨g, hxa, g0, g1, g2, g3, -⟩ := HW.out.2.at HK.out hkl
      subst hxa
      have huk : us[k]? = some (lu[k]).u := by rw [← HLs.out, List.getElem?_map, List.getElem?_eq_getElem hkl]; rfl
      have hfit := HAll.out.2.1 _ (List.mem_of_getElem? huk)
      have hzn : (lu[k]).u.zs.length = (lu[k]).n := (HW.out.2.2.1 _ (List.getElem_mem hkl)).seg.1
      have hgt : ¬ (lu[k]).u.want < ((lu[k]).n : Int) := by have := hfit.1; omega
      have hdn : (lu[k]).u.done = true → (((lu[k]).n : Int) != (lu[k]).u.want) = false := fun h => by
        have h2 := hfit.2 h
        rw [hzn] at h2
        simpa using h2
      have HPrev : Hid (∀ p : Nat, p + 1 = k → ∃ i0 : ByteArray, wr.cell? ⟨g, p * 4, none⟩ = some (.string i0) ∧ Op.bytesLess i0.toList (lu[k]).u.id.toList = true) := fun p hp => by
        have hpl : p < lu.length := by omega
        obtain ⟨g', hg', q0, -⟩ := HW.out.2.at HK.out hpl
        injection hg' with hg'
        injection hg' with hg'
        subst hg'
        refine ⟨_, q0, ?_⟩
        have hp2 : us[p]? = some (lu[p]).u := by rw [← HLs.out, List.getElem?_map, List.getElem?_eq_getElem hpl]; rfl
        obtain ⟨hpl2, e1⟩ := List.getElem?_eq_some_iff.1 hp2
        obtain ⟨hkl2, e2⟩ := List.getElem?_eq_some_iff.1 huk
        have := (List.pairwise_iff_getElem.1 HAll.out.1) p k hpl2 hkl2 (by omega)
        rw [e1, e2] at this
        exact this
      clear hfit hzn huk
      generalize lu[k] = x at *
      clear hkl
      have hki : (k : Int) < (K : Int) := by omega
      have hk0 : (0 : Int) ≤ (k : Int) := by omega
      have hd1 : decide (x.u.want < (x.n : Int)) = false := by simpa using hgt
      clear hgt
      have HQ : Hid (∀ z : Past wr, Below w2.heap.size w2 z.world ∧ UpRow z.world w2.heap.size (.slice (some ⟨g, 0, none⟩) K xc) lu) := fun z => ⟨HW.out.1.trans (z.below.mono HW.out.1.size), HW.out.2.stays z.below⟩
      have hgl : g < wr.heap.size := (HW.out.2.lts.1 g rfl).2
      clear HW
      obtain ⟨dn, hdn0⟩ : ∃ dn, x.u.done = dn := ⟨_, rfl⟩
      rw [hdn0] at hdn g3
      clear hdn0
      have G0 := fun P : Past wr => P.cell (a := ⟨g, k * 4, none⟩) hgl g0
      have G1 := fun P : Past wr => P.cell (a := ⟨g, k * 4 + 1, none⟩) hgl g1
      have G2 := fun P : Past wr => P.cell (a := ⟨g, k * 4 + 2, none⟩) hgl g2
      have G3 := fun P : Past wr => P.cell (a := ⟨g, k * 4 + 3, none⟩) hgl g3
      clear g0 g1 g2 g3
      have hnz := past_some wr
      by_cases hk00 : k = 0
      · subst hk00
        clear HPrev
        cases dn with
        | false =>
          clear hdn
          go_upto_region 11 with fail
          refine wp_region_pastO (by kernel_rfl) (by kernel_rfl) (fun ops HO => ?_)
          iterate 13 (quiet_step (fail))
          iterate 6 (refine quiet_do (by rw [HO.out]; kernel_rfl) (fun K hK => ?_); go_simp; (refine hK _ ?_; clear hK K))
          iterate 12 (refine quiet_past (by rw [HO.out]; kernel_rfl) ?_)
          iterate 1 (refine quiet_do (by rw [HO.out]; kernel_rfl) (fun K hK => ?_); go_simp; (refine hK _ ?_; clear hK K))
          iterate 2 (quiet_step (fail))
          iterate 3 (refine quiet_do (by rw [HO.out]; kernel_rfl) (fun K hK => ?_); go_simp; (refine hK _ ?_; clear hK K))
          iterate 12 (refine quiet_past (by rw [HO.out]; kernel_rfl) ?_)
          iterate 1 (refine quiet_do (by rw [HO.out]; kernel_rfl) (fun K hK => ?_); go_simp; (refine hK _ ?_; clear hK K))
          iterate 1 (quiet_step (fail))
          refine wpQuiet_nil ?_
          rintro _ ⟨z, rfl⟩
          have HQ2 := (show Hid _ from HQ.out z)
          clear G0 G1 G2 G3 HQ
          go_wp2_with fail
          go_roundw
          case rel => exact ⟨1, by go_num, by omega, HQ2⟩
          case measure => simp [intOf]; omega
        | true =>
          have hne := hdn rfl
          clear hdn
          go_upto_region 11 with fail
          refine wp_region_pastO (by kernel_rfl) (by kernel_rfl) (fun ops HO => ?_)
          iterate 13 (quiet_step (fail))
          iterate 6 (refine quiet_do (by rw [HO.out]; kernel_rfl) (fun K hK => ?_); go_simp; (refine hK _ ?_; clear hK K))
          iterate 12 (refine quiet_do (by rw [HO.out]; kernel_rfl) (fun K hK => ?_); go_simp; (refine hK _ ?_; clear hK K))
          iterate 1 (refine quiet_do (by rw [HO.out]; kernel_rfl) (fun K hK => ?_); go_simp; (refine hK _ ?_; clear hK K))
          iterate 2 (quiet_step (fail))
          iterate 3 (refine quiet_do (by rw [HO.out]; kernel_rfl) (fun K hK => ?_); go_simp; (refine hK _ ?_; clear hK K))
          iterate 12 (refine quiet_past (by rw [HO.out]; kernel_rfl) ?_)
          iterate 1 (refine quiet_do (by rw [HO.out]; kernel_rfl) (fun K hK => ?_); go_simp; (refine hK _ ?_; clear hK K))
          iterate 1 (quiet_step (fail))
          refine wpQuiet_nil ?_
          rintro _ ⟨z, rfl⟩
          have HQ2 := (show Hid _ from HQ.out z)
          clear G0 G1 G2 G3 HQ
          go_wp2_with fail
          go_roundw
          case rel => exact ⟨1, by go_num, by omega, HQ2⟩
          case measure => simp [intOf]; omega
      · obtain ⟨p, hp⟩ : ∃ p, p + 1 = k := ⟨k - 1, by omega⟩
        obtain ⟨i0_, q0, hbl⟩ := HPrev.out p hp
        have Q0 := fun P : Past wr => P.cell (a := ⟨g, p * 4, none⟩) hgl q0
        clear q0
        have hwp : IntKind.i64.wrap ((k : Int) - 1) = (p : Int) := by rw [IntKind.wrap_i64]; omega
        have hpi : (p : Int) < (K : Int) := by omega
        have hp0 : (0 : Int) ≤ (p : Int) := by omega
        have hkp : (0 : Int) < (k : Int) := by omega
        have hkd : decide ((0 : Int) < (k : Int)) = true := by simpa using hkp
        have hkq : (0 < k) = True := by simp; omega
        clear HPrev hp
        cases dn with
        | false =>
          clear hdn
          go_upto_region 11 with fail
          refine wp_region_pastO (by kernel_rfl) (by kernel_rfl) (fun ops HO => ?_)
          iterate 13 (quiet_step (fail))
          iterate 6 (refine quiet_do (by rw [HO.out]; kernel_rfl) (fun K hK => ?_); go_simp; (refine hK _ ?_; clear hK K))
          iterate 12 (refine quiet_past (by rw [HO.out]; kernel_rfl) ?_)
          iterate 1 (refine quiet_do (by rw [HO.out]; kernel_rfl) (fun K hK => ?_); go_simp; (refine hK _ ?_; clear hK K))
          iterate 2 (quiet_step (fail))
          iterate 3 (refine quiet_do (by rw [HO.out]; kernel_rfl) (fun K hK => ?_); go_simp; (refine hK _ ?_; clear hK K))
          iterate 12 (refine quiet_do (by rw [HO.out]; kernel_rfl) (fun K hK => ?_); go_simp; (refine hK _ ?_; clear hK K))
          iterate 1 (refine quiet_do (by rw [HO.out]; kernel_rfl) (fun K hK => ?_); go_simp; (refine hK _ ?_; clear hK K))
          iterate 1 (quiet_step (fail))
          refine wpQuiet_nil ?_
          rintro _ ⟨z, rfl⟩
          have HQ2 := (show Hid _ from HQ.out z)
          clear G0 G1 G2 G3 HQ Q0 hwp
          go_wp2_with fail
          go_roundw
          case rel => exact ⟨k + 1, by go_num, by omega, HQ2⟩
          case measure => simp [intOf]; omega
        | true =>
          have hne := hdn rfl
          clear hdn
          go_upto_region 11 with fail
          refine wp_region_pastO (by kernel_rfl) (by kernel_rfl) (fun ops HO => ?_)
          iterate 13 (quiet_step (fail))
          iterate 6 (refine quiet_do (by rw [HO.out]; kernel_rfl) (fun K hK => ?_); go_simp; (refine hK _ ?_; clear hK K))
          iterate 12 (refine quiet_do (by rw [HO.out]; kernel_rfl) (fun K hK => ?_); go_simp; (refine hK _ ?_; clear hK K))
          iterate 1 (refine quiet_do (by rw [HO.out]; kernel_rfl) (fun K hK => ?_); go_simp; (refine hK _ ?_; clear hK K))
          iterate 2 (quiet_step (fail))
          iterate 3 (refine quiet_do (by rw [HO.out]; kernel_rfl) (fun K hK => ?_); go_simp; (refine hK _ ?_; clear hK K))
          iterate 12 (refine quiet_do (by rw [HO.out]; kernel_rfl) (fun K hK => ?_); go_simp; (refine hK _ ?_; clear hK K))
          iterate 1 (refine quiet_do (by rw [HO.out]; kernel_rfl) (fun K hK => ?_); go_simp; (refine hK _ ?_; clear hK K))
          iterate 1 (quiet_step (fail))
          refine wpQuiet_nil ?_
          rintro _ ⟨z, rfl⟩
          have HQ2 := (show Hid _ from HQ.out z)
          clear G0 G1 G2 G3 HQ Q0 hwp
          go_wp2_with fail
          go_roundw
          case rel => exact ⟨k + 1, by go_num, by omega, HQ2⟩
          case measure => simp [intOf]; omega
    · have hki : ¬ (k : Int) < (K : Int) := by omega
      have HBr : Hid (Below w2.heap.size w2 wr) := HW.out.1
      by_cases hM0 : M = 0
      · have hus : us = [] := by
          have h1 := HF.out
          have h2 : rs = [] := List.length_eq_zero_iff.1 (by rw [← HM.out]; exact hM0)
          rw [h2] at h1
          have : foldU ([] : List R) = some [] := rfl
          rw [List.map_nil, this] at h1
          injection h1 with h1
          exact h1.symm
        have hK0 : K = 0 := by
          have h1 := congrArg List.length HLs.out
          rw [List.length_map, hus] at h1
          have := HK.out
          simp at h1
          rw [this, h1]
          rfl
        subst hM0 hK0
        have HBw : Hid (Below w.heap.size w wr) := (HT.out _ HBr.out).2.2
        clear HT HF HLs HAll HW HBr HM HN HRn HK
        go_wp2_with fail
        go_ret
        exact ⟨rfl, HBw.out⟩
      have HTr := (show Hid _ from HT.out _ HBr.out)
      obtain ⟨gr, hgr, hMc⟩ := HTr.out.1.head hM0
      subst hgr
      obtain ⟨P, hP⟩ : ∃ P, P + 1 = M := ⟨M - 1, by omega⟩
      have hMi : ((M : Int) == 0) = false := by simp; omega
      have hwP : IntKind.i64.wrap ((M : Int) - 1) = (P : Int) := by rw [IntKind.wrap_i64]; omega
      have hPc : (P : Int) ≤ (rc : Int) := by omega
      have hP0 : (0 : Int) ≤ (P : Int) := by omega
      have HIn : Hid (RcRow wr w.heap.size (.slice (some ⟨gr, 0, none⟩) P rc) (rs.take P) ∧ P = (rs.take P).length) := ⟨HTr.out.1.init HM.out (by omega), by rw [List.length_take, ← HM.out]; omega⟩
      have hP2 : P ≤ 200 := by omega
      clear hP hM0 hMc
      go_wp2_with fail
      refine (implFold_any (some ⟨gr, 0, none⟩) P rc w.heap.size (rs.take P) 25 wr HIn.out.1 HIn.out.2 (by omega) (fun e he => HN.out e (List.mem_of_mem_take he)) (by omega) (by omega) (fun e he => by have := HRn.out e (List.mem_of_mem_take he); omega) HTr.out.2.1).mono ?_
      rintro e w9 ⟨⟨x, l9, rfl, hup9, hl9, h910⟩, hb9⟩
      rw [foldP_ok]
      have hsome : (foldU ((rs.take P).map RE.r)).isSome = true := by
        obtain ⟨u1, hu1⟩ := HAll.out.2.2.2 P
        rw [List.map_take, hu1]
        rfl
      rw [hsome]
      obtain ⟨za, zc, rfl⟩ := hup9.shape
      have hK10 : (K : Int) ≤ 10 := by omega
      have HBw : Hid (Below w.heap.size w w9) := HTr.out.2.2.trans (hb9.mono HTr.out.2.2.size)
      clear hup9 hl9 h910 hb9 hsome HT HF HLs HAll HW HBr HTr HIn HM HN HRn HK
      go_wp2_with fail
      go_ret
      exact ⟨rfl, HBw.out⟩

end Go.Proofs.YtogopmngbjkcjafDoor
