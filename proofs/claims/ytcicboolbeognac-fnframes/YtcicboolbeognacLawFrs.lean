/- The law on drawn frames one behind the other. -/
import Derived.Test.YtcicboolbeognacDrawFrs
import Derived.Test.YtcicboolbeognacFrList
import Derived.Test.YtcicboolbeognacAtAny
import Derived.Test.YtcicboolbeognacSameFr
import Derived.Test.YtcicboolbeognacFrPut
import Derived.Test.YtcicboolbeognacLawBig
import Derived.Deep.RegionHeld3
import Derived.Deep.CutRange
namespace Go.Proofs.Ytcicboolbeognac
open Go.RowKit
set_option linter.unusedVariables false

/-- The bytes of frames. -/
def bytesF (l : List FE) : List Int := (l.map FE.data).flatMap encF

theorem bytesF_snoc (l : List FE) (e : FE) : bytesF (l ++ [e]) = bytesF l ++ putF e.k e.f e.s e.zs := by simp [bytesF, encF, FE.data]

theorem bytesF_len (l : List FE) : (bytesF l).length ≤ l.length * 1009 := by
  induction l with
  | nil => simp [bytesF]
  | cons e l ih =>
    have h : bytesF (e :: l) = putF e.k e.f e.s e.zs ++ bytesF l := by simp [bytesF, encF, FE.data]
    have := putF_len e.k e.f e.s e.zs
    rw [h, List.length_append, List.length_cons]
    omega

theorem lawCap {w : World} {base size n cap : Nat} {a : Option Addr} {e : TypeId} {xs : List Value} (h : w.ownsRow base e size (.slice a n cap) n xs) : n ≤ cap := by
  rcases h.2 with ⟨he, hn⟩ | ⟨g, cap', cur, he, _, _, hc, _⟩
  · omega
  · injection he with _ _ e3
    omega

theorem lawSome {w : World} {base n cap : Nat} {a : Option Addr} {zs : List Int} (h : Owns w base a n cap zs) (hn : 0 < n) : ∃ g, a = some ⟨g, 0, none⟩ := by
  rcases h.1.2 with ⟨_, h0⟩ | ⟨g, cap', cur, he, _⟩
  · omega
  · injection he with e1 _ _
    exact ⟨g, e1⟩

theorem Seg.start {w : World} {a : Option Addr} {len : Nat} {zs : List Int} (h : Seg w a len zs) (c : Nat) (hc : c ≤ len) : Seg w a c (zs.take c) := by
  refine ⟨by rw [List.length_take, h.1]; omega, fun x hx => h.2.1 x (List.mem_of_mem_take hx), ?_⟩
  rcases h.2.2 with h0 | ⟨b, off, ha, hb, hcc⟩
  · exact .inl (by omega)
  · refine .inr ⟨b, off, ha, hb, fun i hi => ?_⟩
    rw [hcc i (by omega), List.getD_eq_getElem?_getD, List.getD_eq_getElem?_getD, List.getElem?_take, if_pos hi]

theorem data_same {l m : List FE} (h : l.map FE.data = m.map FE.data) {i : Nat} (hi : i < l.length) (hj : i < m.length) : (l[i]).k = (m[i]).k ∧ (l[i]).f = (m[i]).f ∧ (l[i]).s = (m[i]).s ∧ (l[i]).zs = (m[i]).zs := by
  have h1 : (l.map FE.data)[i]? = (m.map FE.data)[i]? := by rw [h]
  rw [List.getElem?_map, List.getElem?_map, List.getElem?_eq_getElem hi, List.getElem?_eq_getElem hj] at h1
  simp only [Option.map_some, Option.some.injEq, FE.data, Prod.mk.injEq] at h1
  exact h1

theorem data_part {l y : List FE} {m : Nat} (h : y.map FE.data = (l.map FE.data).take m) {i : Nat} (hi : i < l.length) (hj : i < y.length) : (l[i]).k = (y[i]).k ∧ (l[i]).f = (y[i]).f ∧ (l[i]).s = (y[i]).s ∧ (l[i]).zs = (y[i]).zs := by
  have hm : i < m := by
    have := congrArg List.length h
    rw [List.length_map, List.length_take] at this
    omega
  have h1 : (y.map FE.data)[i]? = ((l.map FE.data).take m)[i]? := by rw [h]
  rw [List.getElem?_map, List.getElem?_take, if_pos hm, List.getElem?_map, List.getElem?_eq_getElem hi, List.getElem?_eq_getElem hj] at h1
  simp only [Option.map_some, Option.some.injEq, FE.data, Prod.mk.injEq] at h1
  exact ⟨h1.1.symm, h1.2.1.symm, h1.2.2.1.symm, h1.2.2.2.symm⟩

theorem wrap_mul (U : Nat) (h : U < 256) : wrap64 ((U : Int) * 256) = ((U * 256 : Nat) : Int) := by unfold wrap64; omega
theorem wrap_sum (V : Nat) (U : Nat) (h : V < 65536) (h2 : U < 256) : wrap64 ((V : Int) + (U : Int)) = ((V + U : Nat) : Int) := by unfold wrap64; omega
theorem cutNum (U U' bn : Nat) (h : U < 256) (h2 : U' < 256) : (wrap64 (wrap64 ((U : Int) * 256) + (U' : Int))).tmod (bn : Int) = (((U * 256 + U') % bn : Nat) : Int) := by
  rw [wrap_mul U h, wrap_sum (U * 256) U' (by omega) h2]
  exact (Int.ofNat_tmod _ _).symm

set_option maxRecDepth 10000 in
set_option maxHeartbeats 12800000 in
theorem lawFrs_any (a : Option Addr) (len cap : Nat) (zs : List Int) (w : World) (hm : len ≤ maxLen) (hs : Seg w a len zs) :
    Calls Try.prog 5 #[.slice a len cap] w fun e w' => e = .returned (.bool true) ∧ Below w.heap.size w w' := by
  obtain ⟨i0, hi, hz0, hz1, hz2⟩ := info_parts Try.info5
  have HS : Hid (Seg w a len zs) := hs
  clear hs
  go_enter Try.func5, Try.ntmps5
  go_wp2_with fail
  refine (big_any a len cap w hm).mono ?_
  rintro e w0 ⟨rfl, rfl⟩
  by_cases hbig : (1048576 : Int) < (len : Int)
  · rw [decide_eq_true hbig]
    go_wp2_with fail
    go_ret
    exact ⟨rfl, Below.refl _ _⟩
  rw [decide_eq_false hbig]
  have hl : len ≤ 1099511627776 := by omega
  clear hbig
  go_wp2_with fail
  refine (drawFrames_any a len cap zs w0 HS.out hl).mono ?_
  rintro e w1 ⟨v1, l, rfl, hr1, hN5, hE, hb1⟩
  obtain ⟨la, lc, rfl⟩ := hr1.shape
  obtain ⟨N, hN⟩ : ∃ N, l.length = N := ⟨_, rfl⟩
  have HN : Hid (l.length = N) := hN
  rw [hN] at hr1 hN5 ⊢
  clear hN
  have HE : Hid (∀ e ∈ l, okE e) := hE
  have HL2 : Hid (FrRow (w1.alloc (.cells #[] 5)) w0.heap.size (.slice la N lc) l) := hr1.stays ((Below.refl _ _).alloc (Nat.le_refl _) _)
  have HB2 : Hid (Below w0.heap.size w0 (w1.alloc (.cells #[] 5))) := hb1.alloc hb1.size _
  have HO2 : Hid (Owns (w1.alloc (.cells #[] 5)) w1.heap.size (some ⟨w1.heap.size, 0, none⟩) 0 0 []) := ⟨World.ownsRow_lit w1 #[] 0 (Nat.le_refl _) (Nat.zero_le _) rfl, by simp⟩
  have HLt : Hid (∀ e ∈ l, ∀ q, e.a.map (·.block) = some q → q < w1.heap.size) := fun e he q hq => (hr1.lts.2 e he q hq).2
  have hw01 : w0.heap.size ≤ w1.heap.size := hb1.size
  clear hr1 hE hb1
  go_wp2_with fail
  go_loopw [4, 5] (fun v i wr => ∃ (j : Nat) (ba : Option Addr) (bn bc : Nat), j ≤ N ∧ bn ≤ j * 1009 ∧ i = .int .i64 j ∧ v = .slice ba bn bc ∧ Hid (Owns wr w1.heap.size ba bn bc (bytesF (l.take j))) ∧ Hid (FrRow wr w0.heap.size (.slice la N lc) l) ∧ Hid (Below w0.heap.size w0 wr) ∧ Hid (w1.heap.size ≤ wr.heap.size)) (fun _ i _ => N - (intOf i).toNat)
  case atStart => exact ⟨0, _, 0, 0, Nat.zero_le _, Nat.zero_le _, rfl, rfl, HO2, HL2, HB2, by show _ ≤ _; simp⟩
  case round =>
    clear HO2 HL2 HB2
    obtain ⟨j, ba, bn, bc, hj, hbn, rfl, rfl, HO, HL, HB, HZ⟩ := hrel
    by_cases hlt : j < N
    · have hjl : j < l.length := by have := HN.out; omega
      obtain ⟨g, rfl, c0, c1, c2, c3, _⟩ := HL.out.at HN.out.symm hjl
      have ho := HL.out.2.1 _ (List.getElem_mem hjl)
      have hok := HE.out _ (List.getElem_mem hjl)
      have HTk : Hid (bytesF (l.take (j + 1)) = bytesF (l.take j) ++ putF (l[j]).k (l[j]).f (l[j]).s (l[j]).zs) := by show _ = _; rw [List.take_succ_eq_append_getElem hjl, bytesF_snoc]
      generalize l[j] = e at *
      obtain ⟨k, f, s, ea, n, c, ys⟩ := e
      dsimp only at *
      have HOe : Hid (Owns wr w0.heap.size ea n c ys) := ho
      have hki : (j : Int) < (N : Int) := by omega
      have hk0 : (0 : Int) ≤ (j : Int) := by omega
      clear ho hjl
      go_wp2_with fail
      refine (implPutF_any k f s ea n c ys wr HOe.out.seg).mono ?_
      rintro e x1 ⟨qa, qc, rfl, oq1, hb1⟩
      have hyl : ys.length = n := HOe.out.seg.1
      have hql := (getF_put [] [] ys k f s (by rw [hyl]; exact hok.1)).2
      have hqb := putF_len k f s ys
      obtain ⟨q, hq⟩ : ∃ q, putF k f s ys = q := ⟨_, rfl⟩
      rw [hq] at oq1 hql hqb HTk ⊢
      obtain ⟨ql, hql2⟩ : ∃ ql, q.length = ql := ⟨_, rfl⟩
      rw [hql2] at oq1 hql hqb ⊢
      have hq0 : 0 < ql := by omega
      obtain ⟨gq, rfl⟩ := lawSome oq1 hq0
      have HLq : Hid ((q.map (Value.int .u8)).length = ql * 1) := by show _ = _; rw [List.length_map, hql2, Nat.mul_one]
      have HCe : Hid (∀ j u, (q.map (Value.int .u8))[j]? = some u → x1.cell? ((⟨gq, 0, none⟩ : Addr).add j) = some u) := cells_ints oq1.seg
      have HRq : Hid (∀ x ∈ q, 0 ≤ x ∧ x ≤ 255) := oq1.2
      have HO1 : Hid (Owns x1 w1.heap.size ba bn bc (bytesF (l.take j))) := HO.out.below hb1
      have HL1 : Hid (FrRow x1 w0.heap.size (.slice (some ⟨g, 0, none⟩) N lc) l) := HL.out.stays hb1
      have HB1 : Hid (Below w0.heap.size w0 x1) := HB.out.trans (hb1.mono HB.out.size)
      have HZ1 : Hid (w1.heap.size ≤ x1.heap.size) := Nat.le_trans HZ.out hb1.size
      clear hq hql hql2 oq1 hb1 HO HL HB HOe hok hyl c0 c1 c2 c3
      go_wp2_with (at_builtin; refine wpList_append_own _ rfl _ _ 22 rfl w1.heap.size 5 i0 (.int .u8 0) 1 1 Try.underlying22 hi hz0 hz1 hz2 rfl (by decide) (.slice ba bn bc) bn _ rfl HO1.out.1 ⟨gq, 0, none⟩ ql qc (q.map (Value.int .u8)) rfl HLq.out HCe.out (ints_one q) (by unfold maxLen; omega) (by omega) HZ1.out ?_; intro v3 x3 hown3 hgrow3 _; refine Hid.out ?_)
      refine hidden ?_
      obtain ⟨b3, cc3, rfl⟩ := shape_of_owns hown3
      have HO3 : Hid (Owns x3 w1.heap.size b3 (bn + ql) cc3 (bytesF (l.take (j + 1)))) := by
        refine ⟨by rw [HTk.out, List.map_append]; exact hown3, fun x hx => ?_⟩
        rw [HTk.out] at hx
        rcases List.mem_append.1 hx with hx | hx
        · exact HO1.out.2 x hx
        · exact HRq.out x hx
      have HB3 : Hid (Below w0.heap.size w0 x3) := HB1.out.grown hgrow3 HB1.out.size (fun q hq => by have := (HO1.out.1.lt q hq).1; omega)
      have HL3 : Hid (FrRow x3 w0.heap.size (.slice (some ⟨g, 0, none⟩) N lc) l) := HL1.out.grown hgrow3 (fun q e e2 => HL1.out.rowApart HO1.out q e2 (by rw [ownBlock_sl] at e; exact e)) (fun x hx q e e2 => by have h1 := HLt.out x hx q e2; have h2 := (HO1.out.1.lt q e).1; omega)
      have HZ3 : Hid (w1.heap.size ≤ x3.heap.size) := Nat.le_trans HZ1.out hgrow3.size
      clear hown3 hgrow3 HO1 HL1 HB1 HLq HCe HRq
      go_wp2
      go_roundw
      case rel => exact ⟨j + 1, b3, bn + ql, cc3, by omega, by omega, by go_num, rfl, HO3, HL3, HB3, HZ3⟩
      case measure => simp [intOf]; omega
    · have hjn : j = N := by omega
      subst hjn
      have hjl := HN.out
      have HO3 : Hid (Owns wr w1.heap.size ba bn bc (bytesF l)) := by
        have h := HO.out
        rw [List.take_of_length_le (by omega)] at h
        exact h
      clear HO
      have hbnl : (bytesF l).length = bn := HO3.out.seg.1
      have HOk : Hid (∀ e ∈ l.map FE.data, okD e) := fun d hd => by
        obtain ⟨e, he, rfl⟩ := List.mem_map.1 hd
        have h1 := (HE.out e he).1
        have h2 := (HL.out.2.1 e he).seg.1
        show okF e.k e.f e.s e.zs.length = true
        rw [h2]
        exact h1
      have HDl : Hid ((l.map FE.data).length = j) := by show _ = _; rw [List.length_map]; exact HN.out
      have hfull := reads_cut (l.map FE.data) [] bn (Nat.zero_le _) (by rw [List.nil_append]; exact Nat.le_of_eq hbnl.symm) HOk.out
      have HPart : Hid (∀ c : Nat, c ≤ bn → ∃ L P, Reads ((bytesF l).take c) 0 L P 1 ∧ P ≤ (c : Int) ∧ ∃ m, L = (l.map FE.data).take m ∧ m ≤ j ∧ (c < bn → m < j)) := fun c hc => by
        obtain ⟨L, P, h1, h2, m, h3, h4, h5, _⟩ := reads_cut (l.map FE.data) [] c (Nat.zero_le _) (by rw [List.nil_append]; exact Nat.le_trans hc (Nat.le_of_eq hbnl.symm)) HOk.out
        rw [List.nil_append] at h1 h5
        refine ⟨L, P, h1, h2, m, h3, by have := HDl.out; omega, fun hc2 => ?_⟩
        have h6 := h5 (by show c < (bytesF l).length; omega)
        have := HDl.out
        omega
      have HFull : Hid (Reads (bytesF l) 0 (l.map FE.data) (bn : Int) 1) := by
        obtain ⟨L, P, h1, h2, m, h3, h4, _, h6⟩ := hfull
        rw [List.nil_append] at h1 h6
        obtain ⟨h7, h8⟩ := h6 hbnl.symm
        rw [h3, h7, List.take_of_length_le (Nat.le_refl _), h8, show ((l.map FE.data).flatMap encF).take bn = bytesF l from by rw [← hbnl]; exact List.take_length] at h1
        exact h1
      have hbcap := lawCap HO3.out.1
      have hj5 : j ≤ 5 := hN5
      clear hfull
      go_wp2_with fail
      refine (implRead_any ba bn bc (bytesF l) _ _ _ wr HO3.out.seg hbcap (by omega) HFull.out).mono ?_
      rintro e x1 ⟨vx, lx, rfl, hx1, hdx, hb1⟩
      obtain ⟨xa, xc, rfl⟩ := hx1.shape
      have hlx : lx.length = j := by have h := congrArg List.length hdx; rw [List.length_map, HDl.out] at h; exact h
      rw [hlx] at hx1 ⊢
      have HX1 : Hid (FrRow x1 w0.heap.size (.slice xa j xc) lx) := hx1.low HB.out.size
      have HL1 : Hid (FrRow x1 w0.heap.size (.slice la j lc) l) := HL.out.stays hb1
      have HO1 : Hid (Owns x1 w1.heap.size ba bn bc (bytesF l)) := HO3.out.below hb1
      have HB1 : Hid (Below w0.heap.size w0 x1) := HB.out.trans (hb1.mono HB.out.size)
      have HDx : Hid (lx.map FE.data = l.map FE.data ∧ lx.length = j) := ⟨hdx, hlx⟩
      clear hx1 hdx hb1 hlx HL HB HO3 HZ HFull
      have n1 : ((bn : Int) != (bn : Int)) = false := by simp
      have n2 : ((j : Int) != (j : Int)) = false := by simp
      go_upto_if 55 with fail
      go_cut [9] from 53 (fun v9 W => ∃ c : Nat, v9 = .int .i64 c ∧ Hid (c ≤ bn ∧ (¬ bn = 0 → c < bn) ∧ W = x1))
      case first =>
        by_cases hb0 : bn = 0
        · subst hb0
          go_wp2_with fail
          go_meet
          exact ⟨0, rfl, Nat.le_refl _, by simp, rfl⟩
        · have hbp : (0 : Int) < (bn : Int) := by omega
          go_wp2_with fail
          refine (at_any a len cap 2 zs x1 (HS.out.below HB1.out) hl (by omega)).mono ?_
          rintro e x1' ⟨u, rfl, rfl⟩
          go_wp2_with fail
          refine (at_any a len cap 3 zs x1' (HS.out.below HB1.out) hl (by omega)).mono ?_
          rintro e x1' ⟨u', rfl, rfl⟩
          have hu : u.toNat < 256 := u.toNat_lt
          have hu' : u'.toNat < 256 := u'.toNat_lt
          generalize u.toNat = U at *
          generalize u'.toNat = U' at *
          go_wp2_with fail
          go_meet
          have hmod : (U * 256 + U') % bn < bn := Nat.mod_lt _ (by omega)
          refine ⟨(U * 256 + U') % bn, ?_, Nat.le_of_lt hmod, fun _ => hmod, rfl⟩
          rw [cutNum U U' bn hu hu']
      case rest =>
      obtain ⟨c, rfl, HCut⟩ := hcut
      rw [HCut.out.2.2]
      obtain ⟨L2, P2, hr2, hP2, m, hL2, hmj, hmlt⟩ := HPart.out c HCut.out.1
      have hP0 : 0 ≤ P2 := by
        have h := hr2.size (fun x hx => HO1.out.2 x (List.mem_of_mem_take hx)) ⟨by omega, by omega⟩
        omega
      obtain ⟨P2', rfl⟩ := Int.eq_ofNat_of_zero_le hP0
      have HR2 : Hid (Reads ((bytesF l).take c) 0 L2 (P2' : Int) 1) := hr2
      have HL2 : Hid (L2 = (l.map FE.data).take m) := hL2
      have hcb := HCut.out.1
      have hcl := HCut.out.2.1
      have HM : Hid (c < bn → m < j) := hmlt
      clear hr2 hL2 hP0 hmlt HPart HCut
      go_wp2_with fail
      refine (implRead_any ba c bc ((bytesF l).take c) _ _ _ x1 (HO1.out.seg.start c hcb) (by omega) (by omega) HR2.out).mono ?_
      rintro e x2 ⟨vy, ly, rfl, hy2, hdy, hb2⟩
      obtain ⟨ya, yc, rfl⟩ := hy2.shape
      have hly : ly.length = m := by have h := congrArg List.length hdy; rw [List.length_map, HL2.out, List.length_take, HDl.out] at h; omega
      rw [hly] at hy2 ⊢
      have HU : Hid (∀ W, Below x2.heap.size x2 W → Below w0.heap.size w0 W ∧ FrRow W w0.heap.size (.slice la j lc) l ∧ FrRow W w0.heap.size (.slice xa j xc) lx ∧ FrRow W x1.heap.size (.slice ya m yc) ly) := by
        intro W hW
        have hb := hb2.trans (hW.mono hb2.size)
        exact ⟨HB1.out.trans (hb.mono HB1.out.size), HL1.out.stays hb, HX1.out.stays hb, hy2.stays hW⟩
      have HDy : Hid (ly.map FE.data = (l.map FE.data).take m ∧ ly.length = m) := ⟨by rw [hdy]; exact HL2.out, hly⟩
      clear hy2 hdy hb2 hly HL1 HX1 HB1 HO1 HR2 HL2
      have n3 : ¬ (c : Int) < (P2' : Int) := by omega
      have n4 : ¬ (j : Int) < (m : Int) := by omega
      have n5 : ¬ bn = 0 → ((m : Int) == (j : Int)) = false := fun h => by
        have h1 := HM.out (hcl h)
        simp
        omega
      go_upto_region 16 with fail
      go_cut [98] from 73 (fun v98 W => v98 = .bool false ∧ Hid (W = x2))
      case first =>
        by_cases hb0 : bn = 0
        · subst hb0
          go_wp2_with fail
          go_meet
          exact ⟨congrArg Value.bool (by simp; omega), rfl⟩
        · have hbp : (0 : Int) < (bn : Int) := by omega
          have n6 := n5 hb0
          go_wp2_with fail
          go_meet
          exact ⟨congrArg Value.bool (by simp; omega), rfl⟩
      case rest =>
      obtain ⟨rfl, HWc⟩ := hcut
      rw [HWc.out]
      clear HWc n1 n2 n3 n4 n5 hcb hcl HM
      go_wp2_with fail
      go_loopw [13] (fun i wr => ∃ t : Nat, t ≤ j ∧ i = .int .i64 t ∧ Hid (Below x2.heap.size x2 wr)) (fun i _ => j - (intOf i).toNat)
      case atStart => exact ⟨0, Nat.zero_le _, rfl, Below.refl _ _⟩
      case round =>
        obtain ⟨t, htj, rfl, HW⟩ := hrel
        by_cases htl : t < j
        case neg =>
          have HB9 : Hid (Below w0.heap.size w0 wr) := (HU.out wr HW.out).1
          go_wp2
          go_ret
          exact ⟨rfl, HB9.out⟩
        obtain ⟨_, hRl, hRx, hRy⟩ := HU.out wr HW.out
        have htl1 : t < l.length := by have := HN.out; omega
        have htx1 : t < lx.length := by have := HDx.out.2; omega
        obtain ⟨gl, rfl, cl0, cl1, cl2, cl3, _⟩ := hRl.at HN.out.symm htl1
        obtain ⟨gx, rfl, cx0, cx1, cx2, cx3, _⟩ := hRx.at HDx.out.2.symm htx1
        have ho1 := hRl.2.1 _ (List.getElem_mem htl1)
        have ho2 := hRx.2.1 _ (List.getElem_mem htx1)
        have hok := HE.out _ (List.getElem_mem htl1)
        obtain ⟨dk, df, ds, dz⟩ := data_same HDx.out.1.symm htl1 htx1
        have HY : Hid (∀ (h : t < ly.length), (l[t]).k = (ly[t]).k ∧ (l[t]).f = (ly[t]).f ∧ (l[t]).s = (ly[t]).s ∧ (l[t]).zs = (ly[t]).zs) := fun h => data_part HDy.out.1 htl1 h
        have hti : (t : Int) < (j : Int) := by omega
        have ht0 : (0 : Int) ≤ (t : Int) := by omega
        by_cases htm : t < m
        · have hty1 : t < ly.length := by have := HDy.out.2; omega
          obtain ⟨gy, rfl, cy0, cy1, cy2, cy3, _⟩ := hRy.at HDy.out.2.symm hty1
          have ho3 := hRy.2.1 _ (List.getElem_mem hty1)
          obtain ⟨ek, ef, es, ez⟩ := HY.out hty1
          clear HY hRl hRx hRy
          generalize l[t] = e1 at *
          generalize lx[t] = e2 at *
          generalize ly[t] = e3 at *
          obtain ⟨k, f, s, a1, n, c1, ys⟩ := e1
          obtain ⟨k2, f2, s2, a2, n2, c2, z2⟩ := e2
          obtain ⟨k3, f3, s3, a3, n3, c3, z3⟩ := e3
          dsimp only at *
          subst dk df ds dz ek ef es ez
          obtain rfl : n = n2 := by have h1 := ho1.seg.1; have h2 := ho2.seg.1; omega
          obtain rfl : n = n3 := by have h1 := ho1.seg.1; have h2 := ho3.seg.1; omega
          have HO1 : Hid (Seg wr a1 n ys) := ho1.seg
          have HO2 : Hid (Seg wr a2 n ys) := ho2.seg
          have HO3 : Hid (Seg wr a3 n ys) := ho3.seg
          have HOkf : Hid (okF k f s n = true) := hok.1
          have hn13 : n ≤ 1099511627776 := by have := hok.2; dsimp only at this; omega
          have htmi : (t : Int) < (m : Int) := by omega
          have htmd : decide ((t : Int) < (m : Int)) = true := by simp; omega
          have htmn : decide (t < m) = true := by simp; omega
          clear ho1 ho2 ho3 hok htl1 htx1 hty1
          go_wp2_with fail
          go_region_held3 (fun W => W.cell? ⟨gl, t * 4, none⟩ = some (.int .i64 k) ∧ W.cell? ⟨gl, t * 4 + 1, none⟩ = some (.int .i64 f) ∧ W.cell? ⟨gl, t * 4 + 2, none⟩ = some (.int .i64 s) ∧ W.cell? ⟨gl, t * 4 + 3, none⟩ = some (.slice a1 n c1) ∧ W.cell? ⟨gx, t * 4, none⟩ = some (.int .i64 k) ∧ W.cell? ⟨gx, t * 4 + 1, none⟩ = some (.int .i64 f) ∧ W.cell? ⟨gx, t * 4 + 2, none⟩ = some (.int .i64 s) ∧ W.cell? ⟨gx, t * 4 + 3, none⟩ = some (.slice a2 n c2) ∧ W.cell? ⟨gy, t * 4, none⟩ = some (.int .i64 k) ∧ W.cell? ⟨gy, t * 4 + 1, none⟩ = some (.int .i64 f) ∧ W.cell? ⟨gy, t * 4 + 2, none⟩ = some (.int .i64 s) ∧ W.cell? ⟨gy, t * 4 + 3, none⟩ = some (.slice a3 n c3)) (refine ⟨?_, ?_, ?_, ?_, ?_, ?_, ?_, ?_, ?_, ?_, ?_, ?_⟩ <;> assumption) (first
            | (go_at_call 21; refine (sameFrame_same k f s a3 a1 n c3 c1 ys _ (HO3.out.below hb2') (HO1.out.below hb2') hn13).mono ?_; rintro e y3 ⟨rfl, hb3⟩
               have hb3' : Below wr.heap.size wr y3 := hb2'.trans (hb3.mono hb2'.size)
               have rcl0 := (hb3'.cell (p := ⟨gl, t * 4, none⟩) (lt_of_cell cl0)).trans cl0
               have rcl1 := (hb3'.cell (p := ⟨gl, t * 4 + 1, none⟩) (lt_of_cell cl0)).trans cl1
               have rcl2 := (hb3'.cell (p := ⟨gl, t * 4 + 2, none⟩) (lt_of_cell cl0)).trans cl2
               have rcl3 := (hb3'.cell (p := ⟨gl, t * 4 + 3, none⟩) (lt_of_cell cl0)).trans cl3
               have rcx0 := (hb3'.cell (p := ⟨gx, t * 4, none⟩) (lt_of_cell cx0)).trans cx0
               have rcx1 := (hb3'.cell (p := ⟨gx, t * 4 + 1, none⟩) (lt_of_cell cx0)).trans cx1
               have rcx2 := (hb3'.cell (p := ⟨gx, t * 4 + 2, none⟩) (lt_of_cell cx0)).trans cx2
               have rcx3 := (hb3'.cell (p := ⟨gx, t * 4 + 3, none⟩) (lt_of_cell cx0)).trans cx3
               have rcy0 := (hb3'.cell (p := ⟨gy, t * 4, none⟩) (lt_of_cell cy0)).trans cy0
               have rcy1 := (hb3'.cell (p := ⟨gy, t * 4 + 1, none⟩) (lt_of_cell cy0)).trans cy1
               have rcy2 := (hb3'.cell (p := ⟨gy, t * 4 + 2, none⟩) (lt_of_cell cy0)).trans cy2
               have rcy3 := (hb3'.cell (p := ⟨gy, t * 4 + 3, none⟩) (lt_of_cell cy0)).trans cy3)
            | (go_at_call 21; refine (sameFrame_same k f s a2 a1 n c2 c1 ys _ (HO2.out.below hb1') (HO1.out.below hb1') hn13).mono ?_; rintro e y2 ⟨rfl, hb2⟩
               have hb2' : Below wr.heap.size wr y2 := hb1'.trans (hb2.mono hb1'.size)
               have qcl0 := (hb2'.cell (p := ⟨gl, t * 4, none⟩) (lt_of_cell cl0)).trans cl0
               have qcl1 := (hb2'.cell (p := ⟨gl, t * 4 + 1, none⟩) (lt_of_cell cl0)).trans cl1
               have qcl2 := (hb2'.cell (p := ⟨gl, t * 4 + 2, none⟩) (lt_of_cell cl0)).trans cl2
               have qcl3 := (hb2'.cell (p := ⟨gl, t * 4 + 3, none⟩) (lt_of_cell cl0)).trans cl3
               have qcx0 := (hb2'.cell (p := ⟨gx, t * 4, none⟩) (lt_of_cell cx0)).trans cx0
               have qcx1 := (hb2'.cell (p := ⟨gx, t * 4 + 1, none⟩) (lt_of_cell cx0)).trans cx1
               have qcx2 := (hb2'.cell (p := ⟨gx, t * 4 + 2, none⟩) (lt_of_cell cx0)).trans cx2
               have qcx3 := (hb2'.cell (p := ⟨gx, t * 4 + 3, none⟩) (lt_of_cell cx0)).trans cx3
               have qcy0 := (hb2'.cell (p := ⟨gy, t * 4, none⟩) (lt_of_cell cy0)).trans cy0
               have qcy1 := (hb2'.cell (p := ⟨gy, t * 4 + 1, none⟩) (lt_of_cell cy0)).trans cy1
               have qcy2 := (hb2'.cell (p := ⟨gy, t * 4 + 2, none⟩) (lt_of_cell cy0)).trans cy2
               have qcy3 := (hb2'.cell (p := ⟨gy, t * 4 + 3, none⟩) (lt_of_cell cy0)).trans cy3)
            | (go_at_call 20; refine (implOk_any k f s a1 n c1 _).mono ?_; rintro e y1 ⟨rfl, hb1⟩; rw [HOkf.out]
               have hb1' : Below wr.heap.size wr y1 := (Below.refl wr.heap.size wr).drew.trans (hb1.mono (Nat.le_refl _))
               have pcl0 := (hb1'.cell (p := ⟨gl, t * 4, none⟩) (lt_of_cell cl0)).trans cl0
               have pcl1 := (hb1'.cell (p := ⟨gl, t * 4 + 1, none⟩) (lt_of_cell cl0)).trans cl1
               have pcl2 := (hb1'.cell (p := ⟨gl, t * 4 + 2, none⟩) (lt_of_cell cl0)).trans cl2
               have pcl3 := (hb1'.cell (p := ⟨gl, t * 4 + 3, none⟩) (lt_of_cell cl0)).trans cl3
               have pcx0 := (hb1'.cell (p := ⟨gx, t * 4, none⟩) (lt_of_cell cx0)).trans cx0
               have pcx1 := (hb1'.cell (p := ⟨gx, t * 4 + 1, none⟩) (lt_of_cell cx0)).trans cx1
               have pcx2 := (hb1'.cell (p := ⟨gx, t * 4 + 2, none⟩) (lt_of_cell cx0)).trans cx2
               have pcx3 := (hb1'.cell (p := ⟨gx, t * 4 + 3, none⟩) (lt_of_cell cx0)).trans cx3
               have pcy0 := (hb1'.cell (p := ⟨gy, t * 4, none⟩) (lt_of_cell cy0)).trans cy0
               have pcy1 := (hb1'.cell (p := ⟨gy, t * 4 + 1, none⟩) (lt_of_cell cy0)).trans cy1
               have pcy2 := (hb1'.cell (p := ⟨gy, t * 4 + 2, none⟩) (lt_of_cell cy0)).trans cy2
               have pcy3 := (hb1'.cell (p := ⟨gy, t * 4 + 3, none⟩) (lt_of_cell cy0)).trans cy3)
            | fail)
          all_goals
            have HBz : Hid (Below x2.heap.size x2 y3) := HW.out.trans (hb3'.mono HW.out.size)
            go_wp2
            go_roundw
            case rel => exact ⟨t + 1, by omega, by go_num, HBz⟩
            case measure => simp [intOf]; omega
        · have htmi : ¬ (t : Int) < (m : Int) := by omega
          have htmd : decide ((t : Int) < (m : Int)) = false := by simp; omega
          have htmn : decide (t < m) = false := by simp; omega
          clear HY hRl hRx hRy
          generalize l[t] = e1 at *
          generalize lx[t] = e2 at *
          obtain ⟨k, f, s, a1, n, c1, ys⟩ := e1
          obtain ⟨k2, f2, s2, a2, n2, c2, z2⟩ := e2
          dsimp only at *
          subst dk df ds dz
          obtain rfl : n = n2 := by have h1 := ho1.seg.1; have h2 := ho2.seg.1; omega
          have HO1 : Hid (Seg wr a1 n ys) := ho1.seg
          have HO2 : Hid (Seg wr a2 n ys) := ho2.seg
          have HOkf : Hid (okF k f s n = true) := hok.1
          have hn13 : n ≤ 1099511627776 := by have := hok.2; dsimp only at this; omega
          clear ho1 ho2 hok htl1 htx1
          go_wp2_with fail
          refine wp_region_noPanic ?_
          refine wp_region_held_drew (S := fun W => W.cell? ⟨gl, t * 4, none⟩ = some (.int .i64 k) ∧ W.cell? ⟨gl, t * 4 + 1, none⟩ = some (.int .i64 f) ∧ W.cell? ⟨gl, t * 4 + 2, none⟩ = some (.int .i64 s) ∧ W.cell? ⟨gl, t * 4 + 3, none⟩ = some (.slice a1 n c1) ∧ W.cell? ⟨gx, t * 4, none⟩ = some (.int .i64 k) ∧ W.cell? ⟨gx, t * 4 + 1, none⟩ = some (.int .i64 f) ∧ W.cell? ⟨gx, t * 4 + 2, none⟩ = some (.int .i64 s) ∧ W.cell? ⟨gx, t * 4 + 3, none⟩ = some (.slice a2 n c2)) (by kernel_rfl) ?_ (fun hHeld => ?_)
          · refine ⟨?_, ?_, ?_, ?_, ?_, ?_, ?_, ?_⟩ <;> assumption
          refine wpAnyH_take (i := 0) (oi := ({ dst := some 105, op := Op.move (Operand.tmp 3), type := 40, pos := "laws.go:350", after := #[], guard := none } : Oper)) (v := ?tv0) rfl (by kernel_rfl) (by kernel_rfl) (by kernel_rfl) (fun _ _ _ h => h) (Or.inl ⟨by rfl, ?ty0⟩) (by assumption) ?tr0
          case ty0 => (intro w hSw; (try dsimp only at hSw); go_simp <;> with_reducible rfl)
          simp only [Act.put, List.setIfInBounds_toArray, List.set_cons_zero, List.set_cons_succ]
          refine wpAnyH_take (i := 1) (oi := ({ dst := some 106, op := Op.move (Operand.tmp 13), type := 3, pos := "laws.go:350", after := #[], guard := none } : Oper)) (v := ?tv1) rfl (by kernel_rfl) (by kernel_rfl) (by kernel_rfl) (fun _ _ _ h => h) (Or.inl ⟨by rfl, ?ty1⟩) (by assumption) ?tr1
          case ty1 => (intro w hSw; (try dsimp only at hSw); go_simp <;> with_reducible rfl)
          simp only [Act.put, List.setIfInBounds_toArray, List.set_cons_zero, List.set_cons_succ]
          refine wpAnyH_take (i := 2) (oi := ({ dst := some 107, op := Op.indexAddr 40 (Operand.tmp 105) (Operand.tmp 106), type := 0, pos := "laws.go:350", after := #[{ on := 0, ground := Ground.data }, { on := 1, ground := Ground.data }], guard := none } : Oper)) (v := ?tv2) rfl (by kernel_rfl) (by kernel_rfl) (by kernel_rfl) (fun _ _ _ h => h) (Or.inl ⟨by rfl, ?ty2⟩) (by assumption) ?tr2
          case ty2 => (intro w hSw; (try dsimp only at hSw); go_simp <;> with_reducible rfl)
          simp only [Act.put, List.setIfInBounds_toArray, List.set_cons_zero, List.set_cons_succ]
          refine wpAnyH_take (i := 3) (oi := ({ dst := some 108, op := Op.load 44 (Operand.tmp 107), type := 44, pos := "laws.go:350", after := #[{ on := 2, ground := Ground.data }], guard := none } : Oper)) (v := ?tv3) rfl (by kernel_rfl) (by kernel_rfl) (by kernel_rfl) (fun _ _ _ h => h) (Or.inl ⟨by rfl, ?ty3⟩) (by assumption) ?tr3
          case ty3 => (intro w hSw; (try dsimp only at hSw); go_simp <;> with_reducible rfl)
          simp only [Act.put, List.setIfInBounds_toArray, List.set_cons_zero, List.set_cons_succ]
          refine wpAnyH_ready (rs := [4]) (by kernel_rfl) (by simp) ?_
          refine AllReadyH.cons (o := ({ dst := some 109, op := Op.call { callee := Callee.value (Operand.func 20), args := #[Operand.tmp 108], argTypes := #[44] }, type := 4, pos := "laws.go:350", after := #[{ on := 3, ground := Ground.data }], guard := none } : Oper)) rfl (fun K hK => ?_) AllReadyH.nil
          go_simp
          refine (implOk_any k f s a1 n c1 _).mono ?_
          rintro e y1 ⟨rfl, hb1⟩
          rw [HOkf.out]
          have hb1' : Below wr.heap.size wr y1 := (Below.refl wr.heap.size wr).drew.trans (hb1.mono (Nat.le_refl _))
          have pcl0 := (hb1'.cell (p := ⟨gl, t * 4, none⟩) (lt_of_cell cl0)).trans cl0
          have pcl1 := (hb1'.cell (p := ⟨gl, t * 4 + 1, none⟩) (lt_of_cell cl0)).trans cl1
          have pcl2 := (hb1'.cell (p := ⟨gl, t * 4 + 2, none⟩) (lt_of_cell cl0)).trans cl2
          have pcl3 := (hb1'.cell (p := ⟨gl, t * 4 + 3, none⟩) (lt_of_cell cl0)).trans cl3
          have pcx0 := (hb1'.cell (p := ⟨gx, t * 4, none⟩) (lt_of_cell cx0)).trans cx0
          have pcx1 := (hb1'.cell (p := ⟨gx, t * 4 + 1, none⟩) (lt_of_cell cx0)).trans cx1
          have pcx2 := (hb1'.cell (p := ⟨gx, t * 4 + 2, none⟩) (lt_of_cell cx0)).trans cx2
          have pcx3 := (hb1'.cell (p := ⟨gx, t * 4 + 3, none⟩) (lt_of_cell cx0)).trans cx3
          go_wp2_with fail
          refine hK.out _ _ ?_ (fun hHeld => ?_)
          · refine ⟨?_, ?_, ?_, ?_, ?_, ?_, ?_, ?_⟩ <;> assumption
          clear hK K
          try simp only [Act.put, List.setIfInBounds_toArray, List.set_cons_zero, List.set_cons_succ]
          refine wpAnyH_take (i := 5) (oi := ({ dst := some 110, op := Op.unOp UnOp.not 4 (Operand.tmp 109), type := 4, pos := "laws.go:350", after := #[{ on := 4, ground := Ground.data }], guard := none } : Oper)) (v := ?tv5) rfl (by kernel_rfl) (by kernel_rfl) (by kernel_rfl) (fun _ _ _ h => h) (Or.inl ⟨by rfl, ?ty5⟩) (by assumption) ?tr5
          case ty5 => (intro w hSw; (try dsimp only at hSw); go_simp <;> with_reducible rfl)
          simp only [Act.put, List.setIfInBounds_toArray, List.set_cons_zero, List.set_cons_succ]
          refine wpAnyH_take (i := 6) (oi := ({ dst := some 111, op := Op.move (Operand.tmp 110), type := 4, pos := "laws.go:350", after := #[{ on := 5, ground := Ground.data }, { on := 4, ground := Ground.chain }], guard := none } : Oper)) (v := ?tv6) rfl (by kernel_rfl) (by kernel_rfl) (by kernel_rfl) (fun _ _ _ h => h) (Or.inl ⟨by rfl, ?ty6⟩) (by assumption) ?tr6
          case ty6 => (intro w hSw; (try dsimp only at hSw); go_simp <;> with_reducible rfl)
          simp only [Act.put, List.setIfInBounds_toArray, List.set_cons_zero, List.set_cons_succ]
          refine wpAnyH_take (i := 7) (oi := ({ dst := some 112, op := Op.move (Operand.tmp 6), type := 40, pos := "laws.go:350", after := #[{ on := 6, ground := Ground.guard }], guard := some (6, false) } : Oper)) (v := ?tv7) rfl (by kernel_rfl) (by kernel_rfl) (by kernel_rfl) (fun _ _ _ h => h) (Or.inl ⟨by rfl, ?ty7⟩) (by assumption) ?tr7
          case ty7 => (intro w hSw; (try dsimp only at hSw); go_simp <;> with_reducible rfl)
          simp only [Act.put, List.setIfInBounds_toArray, List.set_cons_zero, List.set_cons_succ]
          refine wpAnyH_take (i := 8) (oi := ({ dst := some 113, op := Op.move (Operand.tmp 13), type := 3, pos := "laws.go:350", after := #[{ on := 6, ground := Ground.guard }], guard := some (6, false) } : Oper)) (v := ?tv8) rfl (by kernel_rfl) (by kernel_rfl) (by kernel_rfl) (fun _ _ _ h => h) (Or.inl ⟨by rfl, ?ty8⟩) (by assumption) ?tr8
          case ty8 => (intro w hSw; (try dsimp only at hSw); go_simp <;> with_reducible rfl)
          simp only [Act.put, List.setIfInBounds_toArray, List.set_cons_zero, List.set_cons_succ]
          refine wpAnyH_take (i := 9) (oi := ({ dst := some 114, op := Op.indexAddr 40 (Operand.tmp 112) (Operand.tmp 113), type := 0, pos := "laws.go:350", after := #[{ on := 7, ground := Ground.data }, { on := 8, ground := Ground.data }, { on := 6, ground := Ground.guard }], guard := some (6, false) } : Oper)) (v := ?tv9) rfl (by kernel_rfl) (by kernel_rfl) (by kernel_rfl) (fun _ _ _ h => h) (Or.inl ⟨by rfl, ?ty9⟩) (by assumption) ?tr9
          case ty9 => (intro w hSw; (try dsimp only at hSw); go_simp <;> with_reducible rfl)
          simp only [Act.put, List.setIfInBounds_toArray, List.set_cons_zero, List.set_cons_succ]
          refine wpAnyH_take (i := 10) (oi := ({ dst := some 115, op := Op.load 44 (Operand.tmp 114), type := 44, pos := "laws.go:350", after := #[{ on := 9, ground := Ground.data }, { on := 6, ground := Ground.guard }], guard := some (6, false) } : Oper)) (v := ?tv10) rfl (by kernel_rfl) (by kernel_rfl) (by kernel_rfl) (fun _ _ _ h => h) (Or.inl ⟨by rfl, ?ty10⟩) (by assumption) ?tr10
          case ty10 => (intro w hSw; (try dsimp only at hSw); go_simp <;> with_reducible rfl)
          simp only [Act.put, List.setIfInBounds_toArray, List.set_cons_zero, List.set_cons_succ]
          refine wpAnyH_take (i := 11) (oi := ({ dst := some 116, op := Op.move (Operand.tmp 3), type := 40, pos := "laws.go:350", after := #[{ on := 6, ground := Ground.guard }], guard := some (6, false) } : Oper)) (v := ?tv11) rfl (by kernel_rfl) (by kernel_rfl) (by kernel_rfl) (fun _ _ _ h => h) (Or.inl ⟨by rfl, ?ty11⟩) (by assumption) ?tr11
          case ty11 => (intro w hSw; (try dsimp only at hSw); go_simp <;> with_reducible rfl)
          simp only [Act.put, List.setIfInBounds_toArray, List.set_cons_zero, List.set_cons_succ]
          refine wpAnyH_take (i := 12) (oi := ({ dst := some 117, op := Op.move (Operand.tmp 13), type := 3, pos := "laws.go:350", after := #[{ on := 6, ground := Ground.guard }], guard := some (6, false) } : Oper)) (v := ?tv12) rfl (by kernel_rfl) (by kernel_rfl) (by kernel_rfl) (fun _ _ _ h => h) (Or.inl ⟨by rfl, ?ty12⟩) (by assumption) ?tr12
          case ty12 => (intro w hSw; (try dsimp only at hSw); go_simp <;> with_reducible rfl)
          simp only [Act.put, List.setIfInBounds_toArray, List.set_cons_zero, List.set_cons_succ]
          refine wpAnyH_take (i := 13) (oi := ({ dst := some 118, op := Op.indexAddr 40 (Operand.tmp 116) (Operand.tmp 117), type := 0, pos := "laws.go:350", after := #[{ on := 11, ground := Ground.data }, { on := 12, ground := Ground.data }, { on := 6, ground := Ground.guard }], guard := some (6, false) } : Oper)) (v := ?tv13) rfl (by kernel_rfl) (by kernel_rfl) (by kernel_rfl) (fun _ _ _ h => h) (Or.inl ⟨by rfl, ?ty13⟩) (by assumption) ?tr13
          case ty13 => (intro w hSw; (try dsimp only at hSw); go_simp <;> with_reducible rfl)
          simp only [Act.put, List.setIfInBounds_toArray, List.set_cons_zero, List.set_cons_succ]
          refine wpAnyH_take (i := 14) (oi := ({ dst := some 119, op := Op.load 44 (Operand.tmp 118), type := 44, pos := "laws.go:350", after := #[{ on := 13, ground := Ground.data }, { on := 6, ground := Ground.guard }], guard := some (6, false) } : Oper)) (v := ?tv14) rfl (by kernel_rfl) (by kernel_rfl) (by kernel_rfl) (fun _ _ _ h => h) (Or.inl ⟨by rfl, ?ty14⟩) (by assumption) ?tr14
          case ty14 => (intro w hSw; (try dsimp only at hSw); go_simp <;> with_reducible rfl)
          simp only [Act.put, List.setIfInBounds_toArray, List.set_cons_zero, List.set_cons_succ]
          refine wpAnyH_ready (rs := [15]) (by kernel_rfl) (by simp) ?_
          refine AllReadyH.cons (o := ({ dst := some 120, op := Op.call { callee := Callee.value (Operand.func 21), args := #[Operand.tmp 115, Operand.tmp 119], argTypes := #[44, 44] }, type := 4, pos := "laws.go:350", after := #[{ on := 10, ground := Ground.data }, { on := 14, ground := Ground.data }, { on := 6, ground := Ground.chain }, { on := 6, ground := Ground.guard }], guard := some (6, false) } : Oper)) rfl (fun K hK => ?_) AllReadyH.nil
          go_simp
          refine (sameFrame_same k f s a2 a1 n c2 c1 ys _ (HO2.out.below hb1') (HO1.out.below hb1') hn13).mono ?_
          rintro e y2 ⟨rfl, hb2⟩
          have hb2' : Below wr.heap.size wr y2 := hb1'.trans (hb2.mono hb1'.size)
          have qcl0 := (hb2'.cell (p := ⟨gl, t * 4, none⟩) (lt_of_cell cl0)).trans cl0
          have qcl1 := (hb2'.cell (p := ⟨gl, t * 4 + 1, none⟩) (lt_of_cell cl0)).trans cl1
          have qcl2 := (hb2'.cell (p := ⟨gl, t * 4 + 2, none⟩) (lt_of_cell cl0)).trans cl2
          have qcl3 := (hb2'.cell (p := ⟨gl, t * 4 + 3, none⟩) (lt_of_cell cl0)).trans cl3
          have qcx0 := (hb2'.cell (p := ⟨gx, t * 4, none⟩) (lt_of_cell cx0)).trans cx0
          have qcx1 := (hb2'.cell (p := ⟨gx, t * 4 + 1, none⟩) (lt_of_cell cx0)).trans cx1
          have qcx2 := (hb2'.cell (p := ⟨gx, t * 4 + 2, none⟩) (lt_of_cell cx0)).trans cx2
          have qcx3 := (hb2'.cell (p := ⟨gx, t * 4 + 3, none⟩) (lt_of_cell cx0)).trans cx3
          go_wp2_with fail
          refine hK.out _ _ ?_ (fun hHeld => ?_)
          · refine ⟨?_, ?_, ?_, ?_, ?_, ?_, ?_, ?_⟩ <;> assumption
          clear hK K
          try simp only [Act.put, List.setIfInBounds_toArray, List.set_cons_zero, List.set_cons_succ]
          refine wpAnyH_take (i := 16) (oi := ({ dst := some 121, op := Op.unOp UnOp.not 4 (Operand.tmp 120), type := 4, pos := "laws.go:350", after := #[{ on := 15, ground := Ground.data }, { on := 6, ground := Ground.guard }], guard := some (6, false) } : Oper)) (v := ?tv16) rfl (by kernel_rfl) (by kernel_rfl) (by kernel_rfl) (fun _ _ _ h => h) (Or.inl ⟨by rfl, ?ty16⟩) (by assumption) ?tr16
          case ty16 => (intro w hSw; (try dsimp only at hSw); go_simp <;> with_reducible rfl)
          simp only [Act.put, List.setIfInBounds_toArray, List.set_cons_zero, List.set_cons_succ]
          refine wpAnyH_take (i := 17) (oi := ({ dst := some 122, op := Op.pick (Operand.tmp 111) (Operand.const (Value.bool true)) (Operand.tmp 121), type := 4, pos := "laws.go:350", after := #[{ on := 6, ground := Ground.data }, { on := 16, ground := Ground.data }], guard := none } : Oper)) (v := ?tv17) rfl (by kernel_rfl) (by kernel_rfl) (by kernel_rfl) (fun _ _ _ h => h) (Or.inl ⟨by rfl, ?ty17⟩) (by assumption) ?tr17
          case ty17 => (intro w hSw; (try dsimp only at hSw); go_simp <;> with_reducible rfl)
          simp only [Act.put, List.setIfInBounds_toArray, List.set_cons_zero, List.set_cons_succ]
          refine wpAnyH_take (i := 18) (oi := ({ dst := some 123, op := Op.move (Operand.tmp 122), type := 4, pos := "laws.go:350", after := #[{ on := 17, ground := Ground.data }, { on := 15, ground := Ground.chain }], guard := none } : Oper)) (v := ?tv18) rfl (by kernel_rfl) (by kernel_rfl) (by kernel_rfl) (fun _ _ _ h => h) (Or.inl ⟨by rfl, ?ty18⟩) (by assumption) ?tr18
          case ty18 => (intro w hSw; (try dsimp only at hSw); go_simp <;> with_reducible rfl)
          simp only [Act.put, List.setIfInBounds_toArray, List.set_cons_zero, List.set_cons_succ]
          refine wpAnyH_take (i := 19) (oi := ({ dst := some 124, op := Op.move (Operand.tmp 13), type := 3, pos := "laws.go:350", after := #[{ on := 18, ground := Ground.guard }], guard := some (18, false) } : Oper)) (v := ?tv19) rfl (by kernel_rfl) (by kernel_rfl) (by kernel_rfl) (fun _ _ _ h => h) (Or.inl ⟨by rfl, ?ty19⟩) (by assumption) ?tr19
          case ty19 => (intro w hSw; (try dsimp only at hSw); go_simp <;> with_reducible rfl)
          simp only [Act.put, List.setIfInBounds_toArray, List.set_cons_zero, List.set_cons_succ]
          refine wpAnyH_take (i := 20) (oi := ({ dst := some 125, op := Op.move (Operand.tmp 10), type := 40, pos := "laws.go:350", after := #[{ on := 18, ground := Ground.guard }], guard := some (18, false) } : Oper)) (v := ?tv20) rfl (by kernel_rfl) (by kernel_rfl) (by kernel_rfl) (fun _ _ _ h => h) (Or.inl ⟨by rfl, ?ty20⟩) (by assumption) ?tr20
          case ty20 => (intro w hSw; (try dsimp only at hSw); go_simp <;> with_reducible rfl)
          simp only [Act.put, List.setIfInBounds_toArray, List.set_cons_zero, List.set_cons_succ]
          refine wpAnyH_take (i := 21) (oi := ({ dst := some 126, op := Op.call { callee := Callee.builtin Builtin.len, args := #[Operand.tmp 125], argTypes := #[40] }, type := 3, pos := "laws.go:350", after := #[{ on := 20, ground := Ground.data }, { on := 18, ground := Ground.guard }], guard := some (18, false) } : Oper)) (v := ?tv21) rfl (by kernel_rfl) (by kernel_rfl) (by kernel_rfl) (fun _ _ _ h => h) (Or.inl ⟨by rfl, ?ty21⟩) (by assumption) ?tr21
          case ty21 => (intro w hSw; (try dsimp only at hSw); go_simp <;> with_reducible rfl)
          simp only [Act.put, List.setIfInBounds_toArray, List.set_cons_zero, List.set_cons_succ]
          refine wpAnyH_take (i := 22) (oi := ({ dst := some 127, op := Op.binOp BinOp.lss 3 (Operand.tmp 124) (Operand.tmp 126) 3, type := 4, pos := "laws.go:350", after := #[{ on := 19, ground := Ground.data }, { on := 21, ground := Ground.data }, { on := 18, ground := Ground.guard }], guard := some (18, false) } : Oper)) (v := ?tv22) rfl (by kernel_rfl) (by kernel_rfl) (by kernel_rfl) (fun _ _ _ h => h) (Or.inl ⟨by rfl, ?ty22⟩) (by assumption) ?tr22
          case ty22 => (intro w hSw; (try dsimp only at hSw); go_simp <;> with_reducible rfl)
          simp only [Act.put, List.setIfInBounds_toArray, List.set_cons_zero, List.set_cons_succ]
          refine wpAnyH_take (i := 23) (oi := ({ dst := some 128, op := Op.move (Operand.tmp 127), type := 4, pos := "laws.go:350", after := #[{ on := 22, ground := Ground.data }, { on := 18, ground := Ground.chain }, { on := 18, ground := Ground.guard }], guard := some (18, false) } : Oper)) (v := ?tv23) rfl (by kernel_rfl) (by kernel_rfl) (by kernel_rfl) (fun _ _ _ h => h) (Or.inl ⟨by rfl, ?ty23⟩) (by assumption) ?tr23
          case ty23 => (intro w hSw; (try dsimp only at hSw); go_simp <;> with_reducible rfl)
          simp only [Act.put, List.setIfInBounds_toArray, List.set_cons_zero, List.set_cons_succ]
          refine wpAnyH_take (i := 24) (oi := ({ dst := some 129, op := Op.move (Operand.tmp 10), type := 40, pos := "laws.go:350", after := #[{ on := 23, ground := Ground.guard }], guard := some (23, true) } : Oper)) (v := undef) rfl (by kernel_rfl) (by kernel_rfl) (by kernel_rfl) (fun _ _ _ h => h) (Or.inr ⟨by rfl, rfl⟩) (by assumption) ?_
          simp only [Act.put, List.setIfInBounds_toArray, List.set_cons_zero, List.set_cons_succ]
          refine wpAnyH_take (i := 25) (oi := ({ dst := some 130, op := Op.move (Operand.tmp 13), type := 3, pos := "laws.go:350", after := #[{ on := 23, ground := Ground.guard }], guard := some (23, true) } : Oper)) (v := undef) rfl (by kernel_rfl) (by kernel_rfl) (by kernel_rfl) (fun _ _ _ h => h) (Or.inr ⟨by rfl, rfl⟩) (by assumption) ?_
          simp only [Act.put, List.setIfInBounds_toArray, List.set_cons_zero, List.set_cons_succ]
          refine wpAnyH_take (i := 26) (oi := ({ dst := some 131, op := Op.indexAddr 40 (Operand.tmp 129) (Operand.tmp 130), type := 0, pos := "laws.go:350", after := #[{ on := 24, ground := Ground.data }, { on := 25, ground := Ground.data }, { on := 23, ground := Ground.guard }], guard := some (23, true) } : Oper)) (v := undef) rfl (by kernel_rfl) (by kernel_rfl) (by kernel_rfl) (fun _ _ _ h => h) (Or.inr ⟨by rfl, rfl⟩) (by assumption) ?_
          simp only [Act.put, List.setIfInBounds_toArray, List.set_cons_zero, List.set_cons_succ]
          refine wpAnyH_take (i := 27) (oi := ({ dst := some 132, op := Op.load 44 (Operand.tmp 131), type := 44, pos := "laws.go:350", after := #[{ on := 26, ground := Ground.data }, { on := 23, ground := Ground.guard }], guard := some (23, true) } : Oper)) (v := undef) rfl (by kernel_rfl) (by kernel_rfl) (by kernel_rfl) (fun _ _ _ h => h) (Or.inr ⟨by rfl, rfl⟩) (by assumption) ?_
          simp only [Act.put, List.setIfInBounds_toArray, List.set_cons_zero, List.set_cons_succ]
          refine wpAnyH_take (i := 28) (oi := ({ dst := some 133, op := Op.move (Operand.tmp 3), type := 40, pos := "laws.go:350", after := #[{ on := 23, ground := Ground.guard }], guard := some (23, true) } : Oper)) (v := undef) rfl (by kernel_rfl) (by kernel_rfl) (by kernel_rfl) (fun _ _ _ h => h) (Or.inr ⟨by rfl, rfl⟩) (by assumption) ?_
          simp only [Act.put, List.setIfInBounds_toArray, List.set_cons_zero, List.set_cons_succ]
          refine wpAnyH_take (i := 29) (oi := ({ dst := some 134, op := Op.move (Operand.tmp 13), type := 3, pos := "laws.go:350", after := #[{ on := 23, ground := Ground.guard }], guard := some (23, true) } : Oper)) (v := undef) rfl (by kernel_rfl) (by kernel_rfl) (by kernel_rfl) (fun _ _ _ h => h) (Or.inr ⟨by rfl, rfl⟩) (by assumption) ?_
          simp only [Act.put, List.setIfInBounds_toArray, List.set_cons_zero, List.set_cons_succ]
          refine wpAnyH_take (i := 30) (oi := ({ dst := some 135, op := Op.indexAddr 40 (Operand.tmp 133) (Operand.tmp 134), type := 0, pos := "laws.go:350", after := #[{ on := 28, ground := Ground.data }, { on := 29, ground := Ground.data }, { on := 23, ground := Ground.guard }], guard := some (23, true) } : Oper)) (v := undef) rfl (by kernel_rfl) (by kernel_rfl) (by kernel_rfl) (fun _ _ _ h => h) (Or.inr ⟨by rfl, rfl⟩) (by assumption) ?_
          simp only [Act.put, List.setIfInBounds_toArray, List.set_cons_zero, List.set_cons_succ]
          refine wpAnyH_take (i := 31) (oi := ({ dst := some 136, op := Op.load 44 (Operand.tmp 135), type := 44, pos := "laws.go:350", after := #[{ on := 30, ground := Ground.data }, { on := 23, ground := Ground.guard }], guard := some (23, true) } : Oper)) (v := undef) rfl (by kernel_rfl) (by kernel_rfl) (by kernel_rfl) (fun _ _ _ h => h) (Or.inr ⟨by rfl, rfl⟩) (by assumption) ?_
          simp only [Act.put, List.setIfInBounds_toArray, List.set_cons_zero, List.set_cons_succ]
          refine wpAnyH_take (i := 32) (oi := ({ dst := some 137, op := Op.call { callee := Callee.value (Operand.func 21), args := #[Operand.tmp 132, Operand.tmp 136], argTypes := #[44, 44] }, type := 4, pos := "laws.go:350", after := #[{ on := 27, ground := Ground.data }, { on := 31, ground := Ground.data }, { on := 23, ground := Ground.chain }, { on := 23, ground := Ground.guard }], guard := some (23, true) } : Oper)) (v := undef) rfl (by kernel_rfl) (by kernel_rfl) (by kernel_rfl) (fun _ _ _ h => h) (Or.inr ⟨by rfl, rfl⟩) (by assumption) ?_
          simp only [Act.put, List.setIfInBounds_toArray, List.set_cons_zero, List.set_cons_succ]
          refine wpAnyH_take (i := 33) (oi := ({ dst := some 138, op := Op.unOp UnOp.not 4 (Operand.tmp 137), type := 4, pos := "laws.go:350", after := #[{ on := 32, ground := Ground.data }, { on := 23, ground := Ground.guard }], guard := some (23, true) } : Oper)) (v := undef) rfl (by kernel_rfl) (by kernel_rfl) (by kernel_rfl) (fun _ _ _ h => h) (Or.inr ⟨by rfl, rfl⟩) (by assumption) ?_
          simp only [Act.put, List.setIfInBounds_toArray, List.set_cons_zero, List.set_cons_succ]
          refine wpAnyH_take (i := 34) (oi := ({ dst := some 139, op := Op.pick (Operand.tmp 128) (Operand.tmp 138) (Operand.const (Value.bool false)), type := 4, pos := "laws.go:350", after := #[{ on := 23, ground := Ground.data }, { on := 33, ground := Ground.data }, { on := 18, ground := Ground.guard }], guard := some (18, false) } : Oper)) (v := ?tv34) rfl (by kernel_rfl) (by kernel_rfl) (by kernel_rfl) (fun _ _ _ h => h) (Or.inl ⟨by rfl, ?ty34⟩) (by assumption) ?tr34
          case ty34 => (intro w hSw; (try dsimp only at hSw); go_simp <;> with_reducible rfl)
          simp only [Act.put, List.setIfInBounds_toArray, List.set_cons_zero, List.set_cons_succ]
          refine wpAnyH_take (i := 35) (oi := ({ dst := some 140, op := Op.pick (Operand.tmp 123) (Operand.const (Value.bool true)) (Operand.tmp 139), type := 4, pos := "laws.go:350", after := #[{ on := 18, ground := Ground.data }, { on := 34, ground := Ground.data }], guard := none } : Oper)) (v := ?tv35) rfl (by kernel_rfl) (by kernel_rfl) (by kernel_rfl) (fun _ _ _ h => h) (Or.inl ⟨by rfl, ?ty35⟩) (by assumption) ?tr35
          case ty35 => (intro w hSw; (try dsimp only at hSw); go_simp <;> with_reducible rfl)
          simp only [Act.put, List.setIfInBounds_toArray, List.set_cons_zero, List.set_cons_succ]
          refine wpAnyH_done (by kernel_rfl) ?_ _
          refine NoPanic.normal ?_
          have HBz : Hid (Below x2.heap.size x2 y2) := HW.out.trans (hb2'.mono HW.out.size)
          clear hHeld
          go_wp2
          go_roundw
          case rel => exact ⟨t + 1, by omega, by go_num, HBz⟩
          case measure => simp [intOf]; omega

end Go.Proofs.Ytcicboolbeognac
