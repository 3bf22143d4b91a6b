/- The law that the parts of a drawn block, gathered one by one, are the block again. -/
import Derived.Test.YtpjldfpipchmjadDoorPartBack
import Derived.Test.YtpjldfpipchmjadDoorPartI
import Derived.Test.YtpjldfpipchmjadDoorFeedIA
import Derived.Test.YtpjldfpipchmjadDoorGaAns
import Derived.Test.YtpjldfpipchmjadDoorDrawBlk
import Derived.Test.YtpjldfpipchmjadDoorSameB
import Derived.Test.YtpjldfpipchmjadDoorLawBig
import Derived.Test.YtpjldfpipchmjadDoorAtAny
import Derived.Deep.RegionHeld3
import Derived.Deep.Cut
import Derived.Deep.CutBlock
namespace Go.Proofs.YtpjldfpipchmjadDoor
open Go.RowKit
set_option linter.unusedVariables false

theorem part_at {l : List FE} {en : Bool} {ys : List Int} {most : Int} (h : l.map FE.data = partL 3 en ys most) :
    l.length = pn (clampM most) ys.length ∧ ∀ j (hj : j < l.length), (l[j]).k = (if j = 0 then 1 else 9) ∧ (l[j]).f = pf en j (pn (clampM most) ys.length) ∧ (l[j]).s = 3 ∧ (l[j]).zs = (ys.drop (j * clampM most)).take (clampM most) := by
  rw [partL, if_pos (by omega)] at h
  have hlen : l.length = pn (clampM most) ys.length := by have h2 := congrArg List.length h; simpa using h2
  refine ⟨hlen, fun j hj => ?_⟩
  have h1 : (l[j]).data = prt (clampM most) 3 en ys j := by
    have h2 : (l.map FE.data)[j]? = ((List.range (pn (clampM most) ys.length)).map (prt (clampM most) 3 en ys))[j]? := by rw [h]
    rw [List.getElem?_map, List.getElem?_eq_getElem hj, List.getElem?_map, List.getElem?_range (by omega)] at h2
    injection h2
  simp only [FE.data, prt, Prod.mk.injEq] at h1
  exact h1

set_option maxRecDepth 10000 in
set_option maxHeartbeats 6400000 in
theorem lawParted_any (a : Option Addr) (len cap : Nat) (zs : List Int) (w : World) (hm : len ≤ maxLen) (hs : Seg w a len zs) (he : ErrT w) :
    Calls Tryd.prog 3 #[.slice a len cap] w fun e w' => e = .returned (.bool true) ∧ Below w.heap.size w w' := by
  have HS : Hid (Seg w a len zs) := hs
  have HEr : Hid (ErrT w) := he
  clear hs he
  by_cases hbig : (1048576 : Int) < (len : Int)
  · have hd : Hid (decide ((1048576 : Int) < (len : Int)) = true) := by show _ = _; simpa using hbig
    go_enter Tryd.func3, Tryd.ntmps3
    go_wp2_with fail
    refine (big_any a len cap w hm).mono ?_
    rintro e w1 ⟨rfl, hw1⟩
    subst w1
    rw [hd.out]
    go_wp2_with fail
    go_ret
    exact ⟨rfl, Below.refl _ _⟩
  have hd : Hid (decide ((1048576 : Int) < (len : Int)) = false) := by show _ = _; simpa using hbig
  have hl : len ≤ 1099511627776 := by omega
  clear hbig
  go_enter Tryd.func3, Tryd.ntmps3
  go_wp2_with fail
  refine (big_any a len cap w hm).mono ?_
  rintro e w1 ⟨rfl, hw1⟩
  subst w1
  rw [hd.out]
  go_wp2_with fail
  refine (drawBlock_any a len cap zs w HS.out hl).mono ?_
  rintro e x2 ⟨g, n, cp, ys, most, rfl, hn, hcp, hs2, hb2⟩
  have HB2 : Hid (Below w.heap.size w x2) := hb2
  have HY2 : Hid (Seg x2 (some ⟨g, 0, none⟩) n ys) := hs2
  have HCp : Hid (n ≤ cp) := hcp
  clear hs2 hb2 hcp
  go_wp2_with fail
  refine (at_any a len cap 2 zs x2 (HS.out.below HB2.out) hl (by omega)).mono ?_
  rintro e x2' ⟨c, rfl, hx2'⟩
  subst hx2'
  have hc8 : c.toNat < 256 := c.toNat_lt
  obtain ⟨cv, hcv⟩ : ∃ cv : Int, (c.toNat : Int) = cv := ⟨_, rfl⟩
  have hcv0 : 0 ≤ cv := by omega
  have hcv1 : cv < 256 := by omega
  rw [hcv]
  clear hcv hc8
  obtain ⟨en, hen⟩ : ∃ en : Bool, (cv % 2 == 0) = en := ⟨_, rfl⟩
  have Hen : Hid ((cv % 2 == 0) = en) := hen
  clear hen
  go_upto_region 5 with fail
  rw [Hen.out]
  clear Hen hcv0 hcv1
  go_wp2_with fail
  refine (implPart_any 3 en g 0 n cp ys most x2' HY2.out HCp.out (by omega)).mono ?_
  rintro e x3 ⟨v, l, rfl, hr3, hd3, hb3⟩
  obtain ⟨la, lc, rfl⟩ := hr3.shape
  obtain ⟨hlen, hat⟩ := part_at hd3
  rw [HY2.out.1] at hlen hat
  obtain ⟨N, hN⟩ : ∃ N, l.length = N := ⟨_, rfl⟩
  rw [hN] at hr3 ⊢
  have HN : Hid (l.length = N ∧ N = pn (clampM most) n ∧ 1 ≤ N) := ⟨hN, by omega, by have := pn_pos (clampM most) n; omega⟩
  have HAt : Hid (∀ j (hj : j < l.length), (l[j]).k = (if j = 0 then 1 else 9) ∧ (l[j]).f = pf en j N ∧ (l[j]).s = 3 ∧ (l[j]).zs = (ys.drop (j * clampM most)).take (clampM most)) := by
    have e : N = pn (clampM most) n := by omega
    rw [e]
    exact hat
  have hNb : N ≤ 31 := by have h1 := pn_le (clampM most) n (clampM_range most).1; omega
  have HL3 : Hid (FrRow x3 x2'.heap.size (.slice la N lc) l) := hr3
  have HBY : Hid (Seg x3 (some ⟨g, 0, none⟩) n ys) := HY2.out.below hb3
  have HB3 : Hid (Below w.heap.size w x3) := HB2.out.trans (hb3.mono HB2.out.size)
  clear hr3 hd3 hb3 hlen hat hN HB2 HY2
  have HX4 : Hid (Below x3.heap.size x3 (x3.alloc (.cells #[.int .i64 0, .bool false, .slice none 0 0] 30))) := (Below.refl _ _).alloc (Nat.le_refl _) _
  have HG4 : Hid (Box3 (x3.alloc (.cells #[.int .i64 0, .bool false, .slice none 0 0] 30)) x3.heap.size 30 (.int .i64 0) (.bool false) (.slice none 0 0)) := Box3.new _ _ _ _ _
  go_wp2_with fail
  go_loopw [8] (fun i wr => ∃ (j : Nat) (S0 : Int) (E0 : Bool) (Z0 : List Int) (A0 : Option Addr) (N0 C0 : Nat), j < N ∧ i = .int .i64 j ∧ Hid (gotG (clampM most) en ys j = (S0, E0, Z0)) ∧ Hid (Box3 wr x3.heap.size 30 (.int .i64 S0) (.bool E0) (.slice A0 N0 C0)) ∧ Hid (Owns wr (x3.heap.size + 1) A0 N0 C0 Z0) ∧ Hid (Below x3.heap.size x3 wr)) (fun i _ => N - (intOf i).toNat)
  case atStart => exact ⟨0, 0, false, [], none, 0, 0, by have := HN.out; omega, rfl, rfl, HG4, ⟨World.ownsRow_nil _ _ _ _, by simp⟩, HX4⟩
  case round =>
    clear HX4 HG4
    obtain ⟨j, S0, E0, Z0, A0, N0, C0, hlt, rfl, HGo, HG, HO, HB⟩ := hrel
    have hjl : j < l.length := by have := HN.out; omega
    obtain ⟨gl, rfl, c0, c1, c2, c3, _⟩ := (HL3.out.stays HB.out).at HN.out.1.symm hjl
    have HCl0 : ∀ W, Below wr.heap.size wr W → W.cell? ⟨gl, j * 4, none⟩ = some (.int .i64 (l[j]).k) ∧ W.cell? ⟨gl, j * 4 + 1, none⟩ = some (.int .i64 (l[j]).f) ∧ W.cell? ⟨gl, j * 4 + 2, none⟩ = some (.int .i64 (l[j]).s) ∧ W.cell? ⟨gl, j * 4 + 3, none⟩ = some (.slice (l[j]).a (l[j]).n (l[j]).c) := fun W h => by
      obtain ⟨gl', e, q0, q1, q2, q3, _⟩ := (HL3.out.stays (HB.out.trans (h.mono HB.out.size))).at HN.out.1.symm hjl
      injection e with e
      injection e with e
      subst e
      exact ⟨q0, q1, q2, q3⟩
    have hat := HAt.out j hjl
    have ho := HL3.out.2.1 _ (List.getElem_mem hjl)
    have hyl : ys.length = n := HBY.out.1
    have hok := got_ok (clampM most) en ys j (by omega)
    have hcr := clampM_range most
    have hpn : pn (clampM most) ys.length = N := by rw [hyl]; have := HN.out; omega
    have hfeed := got_feed (clampM most) en ys j hcr.1 hcr.2 (by omega) (by rw [hpn]; exact hlt)
    rw [hpn] at hfeed
    have hcode := prt_code (clampM most) en j N (l[j]).n (by have h1 := ho.seg.1; rw [hat.2.2.2, List.length_take] at h1; omega)
    have hgo := HGo.out
    have hend : j = 0 → (bits .and .i64 (l[j]).f 1 != 0) = en := fun h0 => by rw [hat.2.1, h0]; exact pf_end en N
    have hpos : (l[j]).k = 9 → 0 < (l[j]).n := fun h9 => by
      have h0 : ¬ j = 0 := fun e => by rw [hat.1, if_pos e] at h9; exact absurd h9 (by decide)
      have h1 := ho.seg.1
      rw [hat.2.2.2, List.length_take, List.length_drop, hyl] at h1
      have h2 := (pn_lt (m := clampM most) (len := n) (j := j) hcr.1).1 (by rw [← hyl, hpn]; exact hlt)
      omega
    rw [hgo] at hfeed hok
    rw [← hat.1, ← hat.2.1, ← hat.2.2.2] at hfeed
    rw [← hat.1, ← hat.2.1] at hcode
    rw [← hat.2.2.1] at hfeed hcode
    generalize l[j] = fe at *
    obtain ⟨k, f, s, ea, nn, cc, ezs⟩ := fe
    dsimp only at hfeed hok hcode hend hpos ho c0 c1 c2 c3 HCl0
    have HCells : Hid (∀ W, Below wr.heap.size wr W → W.cell? ⟨gl, j * 4, none⟩ = some (.int .i64 k) ∧ W.cell? ⟨gl, j * 4 + 1, none⟩ = some (.int .i64 f) ∧ W.cell? ⟨gl, j * 4 + 2, none⟩ = some (.int .i64 s) ∧ W.cell? ⟨gl, j * 4 + 3, none⟩ = some (.slice ea nn cc)) := HCl0
    clear HCl0
    have HOe : Hid (Owns x3 x2'.heap.size ea nn cc ezs) := ho
    have HCode : Hid (codeF k f s nn = 0) := hcode
    have hn0 : Z0.length = N0 := HO.out.seg.1
    have HOk : Hid (okG S0 E0 N0 = true) := by show _ = _; rw [← hn0]; exact hok
    have HEnd : Hid (j = 0 → (bits .and .i64 f 1 != 0) = en) := hend
    have HBs : Hid (k = 9 → ∃ ad, ea = some ad) := fun h9 => by
      have h1 := hpos h9
      cases ea with
      | some ad => exact ⟨ad, rfl⟩
      | none =>
        rcases ho.1.2 with ⟨he, h0⟩ | ⟨g', cap', cur, he, _⟩
        · omega
        · cases he
    have HCc : Hid (nn ≤ cc) := by
      show _ ≤ _
      rcases ho.1.2 with ⟨he, h0⟩ | ⟨g', cap', cur, he, _, _, hc, _⟩
      · omega
      · injection he with _ _ h3
        omega
    have hnn : nn ≤ 1000 := codeF_len hcode
    have hN0 : N0 ≤ 3000 := okG_len HOk.out
    have HFd : Hid (feedR S0 E0 Z0 k f s ezs = if j + 1 = N then ((0, false, []), ys, 1) else (gotG (clampM most) en ys (j + 1), [], 0)) := hfeed
    obtain ⟨S, EN, Z1, Z2, C, hR⟩ : ∃ S EN Z1 Z2 C, feedR S0 E0 Z0 k f s ezs = ((S, EN, Z1), Z2, C) := ⟨_, _, _, _, _, rfl⟩
    have HR : Hid (feedR S0 E0 Z0 k f s ezs = ((S, EN, Z1), Z2, C)) := hR
    obtain ⟨L1, hL1⟩ : ∃ L1, Z1.length = L1 := ⟨_, rfl⟩
    obtain ⟨L2, hL2⟩ : ∃ L2, Z2.length = L2 := ⟨_, rfl⟩
    have HL1 : Hid (Z1.length = L1) := hL1
    have HL2 : Hid (Z2.length = L2) := hL2
    have hki : (j : Int) < (N : Int) := by omega
    have hk0 : (0 : Int) ≤ (j : Int) := by omega
    obtain ⟨d0, d1, d2⟩ := HG.out.cells
    clear ho hjl hat hyl hok hcr hpn hfeed hcode hgo hend hpos hn0 hR hL1 hL2
    go_wp2_with fail
    refine (implCode_any k f s ea nn cc wr).mono ?_
    rintro e y1 ⟨rfl, hb1⟩
    rw [HCode.out]
    have HB1 : Hid (Below wr.heap.size wr y1) := hb1
    obtain ⟨d0, d1, d2⟩ := (HG.out.stays hb1).cells
    clear hb1 c0 c1 c2 c3
    go_wp2_with fail
    refine (implGok_any S0 E0 A0 N0 C0 y1).mono ?_
    rintro e y2 ⟨rfl, hb2⟩
    rw [HOk.out]
    have HB2 : Hid (Below wr.heap.size wr y2) := HB1.out.trans (hb2.mono HB1.out.size)
    clear hb2 HB1 d0 d1 d2
    obtain ⟨c0, c1, c2, c3⟩ : y2.cell? ⟨gl, j * 4, none⟩ = some (.int .i64 k) ∧ y2.cell? ⟨gl, j * 4 + 1, none⟩ = some (.int .i64 f) ∧ y2.cell? ⟨gl, j * 4 + 2, none⟩ = some (.int .i64 s) ∧ y2.cell? ⟨gl, j * 4 + 3, none⟩ = some (.slice ea nn cc) := HCells.out y2 HB2.out
    go_upto_region 12 with fail
    go_cut [57] from 28 to 103 (fun v57 W => v57 = .bool false ∧ Hid (Below wr.heap.size wr W))
    case first =>
      have hne : (en != en) = false := by cases en <;> rfl
      by_cases hj0 : j = 0
      · have he1 := HEnd.out hj0
        have hj1 : ((j : Int) == 0) = true := by simp [hj0]
        clear hj0
        go_wp2_with fail
        go_meet
        exact ⟨rfl, HB2⟩
      · have hj1 : ((j : Int) == 0) = false := by simp; omega
        clear hj0
        go_wp2_with fail
        go_meet
        exact ⟨rfl, HB2⟩
    case rest =>
    obtain ⟨rfl, HBc⟩ := hcut
    obtain ⟨y3, hy3⟩ : ∃ y3, wc = y3 := ⟨_, rfl⟩
    rw [hy3] at HBc ⊢
    clear hy3 c0 c1 c2 c3 HB2
    have HK : Hid (∀ W, Below y3.heap.size y3 W → Box3 W x3.heap.size 30 (.int .i64 S0) (.bool E0) (.slice A0 N0 C0) ∧ (W.cell? ⟨gl, j * 4, none⟩ = some (.int .i64 k) ∧ W.cell? ⟨gl, j * 4 + 1, none⟩ = some (.int .i64 f) ∧ W.cell? ⟨gl, j * 4 + 2, none⟩ = some (.int .i64 s) ∧ W.cell? ⟨gl, j * 4 + 3, none⟩ = some (.slice ea nn cc)) ∧ Seg W A0 N0 Z0 ∧ Seg W ea nn ezs ∧ ErrT W) := fun W h => by
      have h1 : Below wr.heap.size wr W := HBc.out.trans (h.mono HBc.out.size)
      have h2 : Below x3.heap.size x3 W := HB.out.trans (h1.mono HB.out.size)
      have h3 : Below w.heap.size w W := HB3.out.trans (h2.mono HB3.out.size)
      exact ⟨HG.out.stays h1, HCells.out W h1, HO.out.seg.below h1, HOe.out.seg.below h2, errT_below HEr.out h3⟩
    have HS7 : Hid (∀ W, Below y3.heap.size y3 W → (fun W => W.cell? ⟨x3.heap.size, 0, none⟩ = some (.int .i64 S0) ∧ W.cell? ⟨x3.heap.size, 1, none⟩ = some (.bool E0) ∧ W.cell? ⟨x3.heap.size, 2, none⟩ = some (.slice A0 N0 C0) ∧ W.cell? ⟨gl, j * 4, none⟩ = some (.int .i64 k) ∧ W.cell? ⟨gl, j * 4 + 1, none⟩ = some (.int .i64 f) ∧ W.cell? ⟨gl, j * 4 + 2, none⟩ = some (.int .i64 s) ∧ W.cell? ⟨gl, j * 4 + 3, none⟩ = some (.slice ea nn cc)) W) := fun W h => by
      obtain ⟨h1, ⟨q0, q1, q2, q3⟩, _⟩ := HK.out W h
      obtain ⟨e0, e1, e2⟩ := h1.cells
      exact ⟨e0, e1, e2, q0, q1, q2, q3⟩
    go_upto_region 14 with fail
    go_cut [9, 10, 11] from 28 to 103 (fun v9 v10 v11 W => ∃ bw wa cw wb cwb, v9 = .pointer (some ⟨bw, 0, none⟩) ∧ v10 = .slice wb L2 cwb ∧ v11 = .int .i64 C ∧ Hid (AnsAt W y3.heap.size bw S EN wa L1 cw Z1 wb L2 cwb Z2) ∧ Hid (Below y3.heap.size y3 W))
    case first =>
      refine wp_region_noPanic ?_
      refine wp_region_held_drew (S := fun W => W.cell? ⟨x3.heap.size, 0, none⟩ = some (.int .i64 S0) ∧ W.cell? ⟨x3.heap.size, 1, none⟩ = some (.bool E0) ∧ W.cell? ⟨x3.heap.size, 2, none⟩ = some (.slice A0 N0 C0) ∧ W.cell? ⟨gl, j * 4, none⟩ = some (.int .i64 k) ∧ W.cell? ⟨gl, j * 4 + 1, none⟩ = some (.int .i64 f) ∧ W.cell? ⟨gl, j * 4 + 2, none⟩ = some (.int .i64 s) ∧ W.cell? ⟨gl, j * 4 + 3, none⟩ = some (.slice ea nn cc)) (by kernel_rfl) (HS7.out _ ((Below.refl y3.heap.size y3).drew)) (fun hHeld => ?_)
      refine wpAnyH_take (i := 0) (oi := ({ dst := some 59, op := Op.load 30 (Operand.tmp 7), type := 30, pos := "laws.go:422", after := #[], guard := none } : Oper)) (v := ?tv13) rfl (by kernel_rfl) (by kernel_rfl) (by kernel_rfl) (fun _ _ _ h => h) (Or.inl ⟨by rfl, ?ty13⟩) (by assumption) ?tr13
      case ty13 => (intro w hSw; (try dsimp only at hSw); (try obtain ⟨s0, s1, s2, s3, s4, s5, s6⟩ := hSw); go_simp <;> with_reducible rfl)
      simp only [Act.put, List.setIfInBounds_toArray, List.set_cons_zero, List.set_cons_succ]
      refine wpAnyH_take (i := 1) (oi := ({ dst := some 60, op := Op.move (Operand.tmp 6), type := 27, pos := "laws.go:422", after := #[], guard := none } : Oper)) (v := ?tv14) rfl (by kernel_rfl) (by kernel_rfl) (by kernel_rfl) (fun _ _ _ h => h) (Or.inl ⟨by rfl, ?ty14⟩) (by assumption) ?tr14
      case ty14 => (intro w hSw; (try dsimp only at hSw); (try obtain ⟨s0, s1, s2, s3, s4, s5, s6⟩ := hSw); go_simp <;> with_reducible rfl)
      simp only [Act.put, List.setIfInBounds_toArray, List.set_cons_zero, List.set_cons_succ]
      refine wpAnyH_take (i := 2) (oi := ({ dst := some 61, op := Op.move (Operand.tmp 8), type := 3, pos := "laws.go:422", after := #[], guard := none } : Oper)) (v := ?tv15) rfl (by kernel_rfl) (by kernel_rfl) (by kernel_rfl) (fun _ _ _ h => h) (Or.inl ⟨by rfl, ?ty15⟩) (by assumption) ?tr15
      case ty15 => (intro w hSw; (try dsimp only at hSw); (try obtain ⟨s0, s1, s2, s3, s4, s5, s6⟩ := hSw); go_simp <;> with_reducible rfl)
      simp only [Act.put, List.setIfInBounds_toArray, List.set_cons_zero, List.set_cons_succ]
      refine wpAnyH_take (i := 3) (oi := ({ dst := some 62, op := Op.indexAddr 27 (Operand.tmp 60) (Operand.tmp 61), type := 0, pos := "laws.go:422", after := #[{ on := 1, ground := Ground.data }, { on := 2, ground := Ground.data }], guard := none } : Oper)) (v := ?tv16) rfl (by kernel_rfl) (by kernel_rfl) (by kernel_rfl) (fun _ _ _ h => h) (Or.inl ⟨by rfl, ?ty16⟩) (by assumption) ?tr16
      case ty16 => (intro w hSw; (try dsimp only at hSw); (try obtain ⟨s0, s1, s2, s3, s4, s5, s6⟩ := hSw); go_simp <;> with_reducible rfl)
      simp only [Act.put, List.setIfInBounds_toArray, List.set_cons_zero, List.set_cons_succ]
      refine wpAnyH_take (i := 4) (oi := ({ dst := some 63, op := Op.load 33 (Operand.tmp 62), type := 33, pos := "laws.go:422", after := #[{ on := 3, ground := Ground.data }], guard := none } : Oper)) (v := ?tv17) rfl (by kernel_rfl) (by kernel_rfl) (by kernel_rfl) (fun _ _ _ h => h) (Or.inl ⟨by rfl, ?ty17⟩) (by assumption) ?tr17
      case ty17 => (intro w hSw; (try dsimp only at hSw); (try obtain ⟨s0, s1, s2, s3, s4, s5, s6⟩ := hSw); go_simp <;> with_reducible rfl)
      simp only [Act.put, List.setIfInBounds_toArray, List.set_cons_zero, List.set_cons_succ]
      refine wpAnyH_ready (rs := [5, 10]) (by kernel_rfl) (by simp) ?_
      refine (AllReadyH.cons (o := ({ dst := some 64, op := Op.call { callee := Callee.value (Operand.func 12), args := #[Operand.tmp 59, Operand.tmp 63], argTypes := #[30, 33] }, type := 35, pos := "laws.go:422", after := #[{ on := 0, ground := Ground.data }, { on := 4, ground := Ground.data }], guard := none } : Oper)) rfl (fun K hK => ?_) (AllReadyH.cons (o := ({ dst := some 9, op := Op.alloc 30, type := 0, pos := "laws.go:422", after := #[], guard := none } : Oper)) rfl (fun K hK => ?_) AllReadyH.nil))
      · go_simp
        refine (implFeed_gen S0 E0 A0 N0 C0 Z0 k f s ea nn cc ezs _ (HK.out _ (Below.refl y3.heap.size y3).drew).2.2.1 (HK.out _ (Below.refl y3.heap.size y3).drew).2.2.2.1 HBs.out HCc.out (by omega) (by omega) (HK.out _ (Below.refl y3.heap.size y3).drew).2.2.2.2 ((S, EN, Z1), Z2, C) HR.out L1 L2 HL1.out HL2.out).mono ?_
        rintro e Yc ⟨wa, cw, wb, cwb, rfl, ow1, ow2, hpt, hbw⟩
        have hbYc : Below y3.heap.size y3 Yc := ((Below.refl y3.heap.size y3).drew).trans (hbw.mono ((Below.refl y3.heap.size y3).drew).size)
        go_wp2_with fail
        refine hK.out _ _ (HS7.out _ hbYc) (fun hHeld => ?_)
        clear hK K
        try simp only [Act.put, List.setIfInBounds_toArray, List.set_cons_zero, List.set_cons_succ]
        refine wpAnyH_take (i := 6) (oi := ({ dst := some 58, op := Op.move (Operand.tmp 64), type := 35, pos := "laws.go:422", after := #[{ on := 5, ground := Ground.data }], guard := none } : Oper)) (v := ?tv7) rfl (by kernel_rfl) (by kernel_rfl) (by kernel_rfl) (fun _ _ _ h => h) (Or.inl ⟨by rfl, ?ty7⟩) (by assumption) ?tr7
        case ty7 => (intro w hSw; (try dsimp only at hSw); (try obtain ⟨s0, s1, s2, s3, s4, s5, s6⟩ := hSw); go_simp <;> with_reducible rfl)
        simp only [Act.put, List.setIfInBounds_toArray, List.set_cons_zero, List.set_cons_succ]
        refine wpAnyH_take (i := 7) (oi := ({ dst := some 65, op := Op.extract (Operand.tmp 58) 0, type := 30, pos := "laws.go:422", after := #[{ on := 6, ground := Ground.data }], guard := none } : Oper)) (v := ?tv8) rfl (by kernel_rfl) (by kernel_rfl) (by kernel_rfl) (fun _ _ _ h => h) (Or.inl ⟨by rfl, ?ty8⟩) (by assumption) ?tr8
        case ty8 => (intro w hSw; (try dsimp only at hSw); (try obtain ⟨s0, s1, s2, s3, s4, s5, s6⟩ := hSw); go_simp <;> with_reducible rfl)
        simp only [Act.put, List.setIfInBounds_toArray, List.set_cons_zero, List.set_cons_succ]
        refine wpAnyH_take (i := 8) (oi := ({ dst := some 66, op := Op.extract (Operand.tmp 58) 1, type := 22, pos := "laws.go:422", after := #[{ on := 6, ground := Ground.data }, { on := 11, ground := Ground.gcOnly Departure.lateStores }], guard := none } : Oper)) (v := ?tv9) rfl (by kernel_rfl) (by kernel_rfl) (by kernel_rfl) (fun _ _ _ h => h) (Or.inl ⟨by rfl, ?ty9⟩) (by assumption) ?tr9
        case ty9 => (intro w hSw; (try dsimp only at hSw); (try obtain ⟨s0, s1, s2, s3, s4, s5, s6⟩ := hSw); go_simp <;> with_reducible rfl)
        simp only [Act.put, List.setIfInBounds_toArray, List.set_cons_zero, List.set_cons_succ]
        refine wpAnyH_take (i := 9) (oi := ({ dst := some 67, op := Op.extract (Operand.tmp 58) 2, type := 3, pos := "laws.go:422", after := #[{ on := 6, ground := Ground.data }, { on := 12, ground := Ground.gcOnly Departure.lateStores }], guard := none } : Oper)) (v := ?tv10) rfl (by kernel_rfl) (by kernel_rfl) (by kernel_rfl) (fun _ _ _ h => h) (Or.inl ⟨by rfl, ?ty10⟩) (by assumption) ?tr10
        case ty10 => (intro w hSw; (try dsimp only at hSw); (try obtain ⟨s0, s1, s2, s3, s4, s5, s6⟩ := hSw); go_simp <;> with_reducible rfl)
        simp only [Act.put, List.setIfInBounds_toArray, List.set_cons_zero, List.set_cons_succ]
        refine wpAnyH_ready (rs := [10]) (by kernel_rfl) (by simp) ?_
        refine (AllReadyH.cons (o := ({ dst := some 9, op := Op.alloc 30, type := 0, pos := "laws.go:422", after := #[], guard := none } : Oper)) rfl (fun K hK => ?_) AllReadyH.nil)
        have hbA : Below y3.heap.size y3 (Yc.alloc (.cells #[.int .i64 0, .bool false, .slice none 0 0] 30)) := hbYc.alloc hbYc.size _
        go_simp
        refine hK.out _ _ (HS7.out _ hbA) (fun hHeld => ?_)
        clear hK K
        try simp only [Act.put, List.setIfInBounds_toArray, List.set_cons_zero, List.set_cons_succ]
        have hy3 := hbw.size
        have hy0 : y3.drew.heap.size = y3.heap.size := rfl
        refine wpAnyH_ready (rs := [11]) (by kernel_rfl) (by simp) ?_
        refine (AllReadyH.cons (o := ({ dst := none, op := Op.store 30 (Operand.tmp 9) (Operand.tmp 65), type := 0, pos := "laws.go:422", after := #[{ on := 10, ground := Ground.data }, { on := 7, ground := Ground.data }, { on := 5, ground := Ground.chain }, { on := 0, ground := Ground.phase }, { on := 1, ground := Ground.phase }, { on := 2, ground := Ground.phase }, { on := 3, ground := Ground.phase }, { on := 4, ground := Ground.phase }, { on := 5, ground := Ground.phase }, { on := 6, ground := Ground.phase }, { on := 7, ground := Ground.phase }, { on := 8, ground := Ground.textOnly Departure.lateStores }, { on := 9, ground := Ground.textOnly Departure.lateStores }, { on := 10, ground := Ground.phase }], guard := none } : Oper)) rfl (fun K hK => ?_) AllReadyH.nil)
        have hbS : Below y3.heap.size y3 (Yc.alloc (.cells #[.int .i64 S, .bool EN, .slice wa L1 cw] 30)) := hbYc.alloc hbYc.size _
        go_simp
        refine hK.out _ _ (HS7.out _ hbS) (fun hHeld => ?_)
        clear hK K
        try simp only [Act.put, List.setIfInBounds_toArray, List.set_cons_zero, List.set_cons_succ]
        refine wpAnyH_take (i := 12) (oi := ({ dst := some 10, op := Op.assign (Operand.tmp 66), type := 22, pos := "laws.go:422", after := #[{ on := 8, ground := Ground.data }, { on := 11, ground := Ground.chain }, { on := 0, ground := Ground.phase }, { on := 1, ground := Ground.phase }, { on := 2, ground := Ground.phase }, { on := 3, ground := Ground.phase }, { on := 4, ground := Ground.phase }, { on := 5, ground := Ground.phase }, { on := 6, ground := Ground.phase }, { on := 7, ground := Ground.phase }, { on := 8, ground := Ground.phase }, { on := 9, ground := Ground.textOnly Departure.lateStores }, { on := 10, ground := Ground.phase }, { on := 11, ground := Ground.phase }], guard := none } : Oper)) (v := ?tv11) rfl (by kernel_rfl) (by kernel_rfl) (by kernel_rfl) (fun _ _ _ h => h) (Or.inl ⟨by rfl, ?ty11⟩) (by assumption) ?tr11
        case ty11 => (intro w hSw; (try dsimp only at hSw); (try obtain ⟨s0, s1, s2, s3, s4, s5, s6⟩ := hSw); go_simp <;> with_reducible rfl)
        simp only [Act.put, List.setIfInBounds_toArray, List.set_cons_zero, List.set_cons_succ]
        refine wpAnyH_take (i := 13) (oi := ({ dst := some 11, op := Op.assign (Operand.tmp 67), type := 3, pos := "laws.go:422", after := #[{ on := 9, ground := Ground.data }, { on := 12, ground := Ground.chain }, { on := 0, ground := Ground.phase }, { on := 1, ground := Ground.phase }, { on := 2, ground := Ground.phase }, { on := 3, ground := Ground.phase }, { on := 4, ground := Ground.phase }, { on := 5, ground := Ground.phase }, { on := 6, ground := Ground.phase }, { on := 7, ground := Ground.phase }, { on := 8, ground := Ground.phase }, { on := 9, ground := Ground.phase }, { on := 10, ground := Ground.phase }, { on := 11, ground := Ground.phase }, { on := 12, ground := Ground.phase }], guard := none } : Oper)) (v := ?tv12) rfl (by kernel_rfl) (by kernel_rfl) (by kernel_rfl) (fun _ _ _ h => h) (Or.inl ⟨by rfl, ?ty12⟩) (by assumption) ?tr12
        case ty12 => (intro w hSw; (try dsimp only at hSw); (try obtain ⟨s0, s1, s2, s3, s4, s5, s6⟩ := hSw); go_simp <;> with_reducible rfl)
        simp only [Act.put, List.setIfInBounds_toArray, List.set_cons_zero, List.set_cons_succ]
        refine wpAnyH_done (by kernel_rfl) ?_ _
        refine NoPanic.normal ?_
        clear hHeld
        go_wp2_with fail
        go_meet
        exact ⟨Yc.heap.size, wa, cw, wb, cwb, rfl, rfl, rfl, AnsAt.new ow1 ow2 hpt (Nat.le_refl _) (by omega), hbS⟩
      · have hbA : Below y3.heap.size y3 (y3.drew.alloc (.cells #[.int .i64 0, .bool false, .slice none 0 0] 30)) := ((Below.refl y3.heap.size y3).drew).alloc ((Below.refl y3.heap.size y3).drew).size _
        go_simp
        refine hK.out _ _ (HS7.out _ hbA) (fun hHeld => ?_)
        clear hK K
        try simp only [Act.put, List.setIfInBounds_toArray, List.set_cons_zero, List.set_cons_succ]
        refine wpAnyH_ready (rs := [5]) (by kernel_rfl) (by simp) ?_
        refine (AllReadyH.cons (o := ({ dst := some 64, op := Op.call { callee := Callee.value (Operand.func 12), args := #[Operand.tmp 59, Operand.tmp 63], argTypes := #[30, 33] }, type := 35, pos := "laws.go:422", after := #[{ on := 0, ground := Ground.data }, { on := 4, ground := Ground.data }], guard := none } : Oper)) rfl (fun K hK => ?_) AllReadyH.nil)
        go_simp
        refine (implFeed_gen S0 E0 A0 N0 C0 Z0 k f s ea nn cc ezs _ (HK.out _ hbA).2.2.1 (HK.out _ hbA).2.2.2.1 HBs.out HCc.out (by omega) (by omega) (HK.out _ hbA).2.2.2.2 ((S, EN, Z1), Z2, C) HR.out L1 L2 HL1.out HL2.out).mono ?_
        rintro e Yc ⟨wa, cw, wb, cwb, rfl, ow1, ow2, hpt, hbw⟩
        have hbYc : Below y3.heap.size y3 Yc := (hbA).trans (hbw.mono (hbA).size)
        go_wp2_with fail
        refine hK.out _ _ (HS7.out _ hbYc) (fun hHeld => ?_)
        clear hK K
        try simp only [Act.put, List.setIfInBounds_toArray, List.set_cons_zero, List.set_cons_succ]
        refine wpAnyH_take (i := 6) (oi := ({ dst := some 58, op := Op.move (Operand.tmp 64), type := 35, pos := "laws.go:422", after := #[{ on := 5, ground := Ground.data }], guard := none } : Oper)) (v := ?tv1) rfl (by kernel_rfl) (by kernel_rfl) (by kernel_rfl) (fun _ _ _ h => h) (Or.inl ⟨by rfl, ?ty1⟩) (by assumption) ?tr1
        case ty1 => (intro w hSw; (try dsimp only at hSw); (try obtain ⟨s0, s1, s2, s3, s4, s5, s6⟩ := hSw); go_simp <;> with_reducible rfl)
        simp only [Act.put, List.setIfInBounds_toArray, List.set_cons_zero, List.set_cons_succ]
        refine wpAnyH_take (i := 7) (oi := ({ dst := some 65, op := Op.extract (Operand.tmp 58) 0, type := 30, pos := "laws.go:422", after := #[{ on := 6, ground := Ground.data }], guard := none } : Oper)) (v := ?tv2) rfl (by kernel_rfl) (by kernel_rfl) (by kernel_rfl) (fun _ _ _ h => h) (Or.inl ⟨by rfl, ?ty2⟩) (by assumption) ?tr2
        case ty2 => (intro w hSw; (try dsimp only at hSw); (try obtain ⟨s0, s1, s2, s3, s4, s5, s6⟩ := hSw); go_simp <;> with_reducible rfl)
        simp only [Act.put, List.setIfInBounds_toArray, List.set_cons_zero, List.set_cons_succ]
        refine wpAnyH_take (i := 8) (oi := ({ dst := some 66, op := Op.extract (Operand.tmp 58) 1, type := 22, pos := "laws.go:422", after := #[{ on := 6, ground := Ground.data }, { on := 11, ground := Ground.gcOnly Departure.lateStores }], guard := none } : Oper)) (v := ?tv3) rfl (by kernel_rfl) (by kernel_rfl) (by kernel_rfl) (fun _ _ _ h => h) (Or.inl ⟨by rfl, ?ty3⟩) (by assumption) ?tr3
        case ty3 => (intro w hSw; (try dsimp only at hSw); (try obtain ⟨s0, s1, s2, s3, s4, s5, s6⟩ := hSw); go_simp <;> with_reducible rfl)
        simp only [Act.put, List.setIfInBounds_toArray, List.set_cons_zero, List.set_cons_succ]
        refine wpAnyH_take (i := 9) (oi := ({ dst := some 67, op := Op.extract (Operand.tmp 58) 2, type := 3, pos := "laws.go:422", after := #[{ on := 6, ground := Ground.data }, { on := 12, ground := Ground.gcOnly Departure.lateStores }], guard := none } : Oper)) (v := ?tv4) rfl (by kernel_rfl) (by kernel_rfl) (by kernel_rfl) (fun _ _ _ h => h) (Or.inl ⟨by rfl, ?ty4⟩) (by assumption) ?tr4
        case ty4 => (intro w hSw; (try dsimp only at hSw); (try obtain ⟨s0, s1, s2, s3, s4, s5, s6⟩ := hSw); go_simp <;> with_reducible rfl)
        simp only [Act.put, List.setIfInBounds_toArray, List.set_cons_zero, List.set_cons_succ]
        have bx : Box3 Yc y3.heap.size 30 (.int .i64 0) (.bool false) (.slice none 0 0) := (Box3.new y3.drew 30 (.int .i64 0) (.bool false) (.slice none 0 0)).stays hbw
        have hsA : (y3.drew.alloc (.cells #[.int .i64 0, .bool false, .slice none 0 0] 30)).heap.size = y3.heap.size + 1 := by rw [World.size_alloc]; rfl
        refine wpAnyH_ready (rs := [11]) (by kernel_rfl) (by simp) ?_
        refine (AllReadyH.cons (o := ({ dst := none, op := Op.store 30 (Operand.tmp 9) (Operand.tmp 65), type := 0, pos := "laws.go:422", after := #[{ on := 10, ground := Ground.data }, { on := 7, ground := Ground.data }, { on := 5, ground := Ground.chain }, { on := 0, ground := Ground.phase }, { on := 1, ground := Ground.phase }, { on := 2, ground := Ground.phase }, { on := 3, ground := Ground.phase }, { on := 4, ground := Ground.phase }, { on := 5, ground := Ground.phase }, { on := 6, ground := Ground.phase }, { on := 7, ground := Ground.phase }, { on := 8, ground := Ground.textOnly Departure.lateStores }, { on := 9, ground := Ground.textOnly Departure.lateStores }, { on := 10, ground := Ground.phase }], guard := none } : Oper)) rfl (fun K hK => ?_) AllReadyH.nil)
        obtain ⟨g0, g1, g2⟩ := bx.cells
        have f0 := bx.frozen 0
        have f1 := bx.frozen 1
        have f2 := bx.frozen 2
        have hbS : Below y3.heap.size y3 (((Yc.setCell ⟨y3.heap.size, 0, none⟩ (.int .i64 S)).setCell ⟨y3.heap.size, 1, none⟩ (.bool EN)).setCell ⟨y3.heap.size, 2, none⟩ (.slice wa L1 cw)) := ((hbYc.setCell (p := ⟨y3.heap.size, 0, none⟩) (Nat.le_refl _) _).setCell (p := ⟨y3.heap.size, 1, none⟩) (Nat.le_refl _) _).setCell (p := ⟨y3.heap.size, 2, none⟩) (Nat.le_refl _) _
        go_simp
        refine hK.out _ _ (HS7.out _ hbS) (fun hHeld => ?_)
        clear hK K
        try simp only [Act.put, List.setIfInBounds_toArray, List.set_cons_zero, List.set_cons_succ]
        refine wpAnyH_take (i := 12) (oi := ({ dst := some 10, op := Op.assign (Operand.tmp 66), type := 22, pos := "laws.go:422", after := #[{ on := 8, ground := Ground.data }, { on := 11, ground := Ground.chain }, { on := 0, ground := Ground.phase }, { on := 1, ground := Ground.phase }, { on := 2, ground := Ground.phase }, { on := 3, ground := Ground.phase }, { on := 4, ground := Ground.phase }, { on := 5, ground := Ground.phase }, { on := 6, ground := Ground.phase }, { on := 7, ground := Ground.phase }, { on := 8, ground := Ground.phase }, { on := 9, ground := Ground.textOnly Departure.lateStores }, { on := 10, ground := Ground.phase }, { on := 11, ground := Ground.phase }], guard := none } : Oper)) (v := ?tv5) rfl (by kernel_rfl) (by kernel_rfl) (by kernel_rfl) (fun _ _ _ h => h) (Or.inl ⟨by rfl, ?ty5⟩) (by assumption) ?tr5
        case ty5 => (intro w hSw; (try dsimp only at hSw); (try obtain ⟨s0, s1, s2, s3, s4, s5, s6⟩ := hSw); go_simp <;> with_reducible rfl)
        simp only [Act.put, List.setIfInBounds_toArray, List.set_cons_zero, List.set_cons_succ]
        refine wpAnyH_take (i := 13) (oi := ({ dst := some 11, op := Op.assign (Operand.tmp 67), type := 3, pos := "laws.go:422", after := #[{ on := 9, ground := Ground.data }, { on := 12, ground := Ground.chain }, { on := 0, ground := Ground.phase }, { on := 1, ground := Ground.phase }, { on := 2, ground := Ground.phase }, { on := 3, ground := Ground.phase }, { on := 4, ground := Ground.phase }, { on := 5, ground := Ground.phase }, { on := 6, ground := Ground.phase }, { on := 7, ground := Ground.phase }, { on := 8, ground := Ground.phase }, { on := 9, ground := Ground.phase }, { on := 10, ground := Ground.phase }, { on := 11, ground := Ground.phase }, { on := 12, ground := Ground.phase }], guard := none } : Oper)) (v := ?tv6) rfl (by kernel_rfl) (by kernel_rfl) (by kernel_rfl) (fun _ _ _ h => h) (Or.inl ⟨by rfl, ?ty6⟩) (by assumption) ?tr6
        case ty6 => (intro w hSw; (try dsimp only at hSw); (try obtain ⟨s0, s1, s2, s3, s4, s5, s6⟩ := hSw); go_simp <;> with_reducible rfl)
        simp only [Act.put, List.setIfInBounds_toArray, List.set_cons_zero, List.set_cons_succ]
        refine wpAnyH_done (by kernel_rfl) ?_ _
        refine NoPanic.normal ?_
        clear hHeld
        go_wp2_with fail
        go_meet
        exact ⟨y3.heap.size, wa, cw, wb, cwb, rfl, rfl, rfl, AnsAt.store bx ow1 ow2 hpt (by omega) (Nat.le_refl _), hbS⟩
    case rest =>
    obtain ⟨bw, wa, cw, wb, cwb, rfl, rfl, rfl, HAc, HBd⟩ := hcut
    obtain ⟨y4, hy4⟩ : ∃ y4, wc = y4 := ⟨_, rfl⟩
    rw [hy4] at HAc HBd ⊢
    have HB4 : Hid (Below x3.heap.size x3 y4) := by
      have h1 : Below wr.heap.size wr y4 := HBc.out.trans (HBd.out.mono HBc.out.size)
      exact HB.out.trans (h1.mono HB.out.size)
    have HG4 : Hid (Box3 y4 x3.heap.size 30 (.int .i64 S0) (.bool E0) (.slice A0 N0 C0)) := (HK.out _ HBd.out).1
    have HLt : Hid (x3.heap.size < y3.heap.size) := (HK.out _ (Below.refl _ _)).1.lt
    clear hy4 HK HS7 HBc HBd HCells HOe HO HG HB HCode HOk HEnd HBs HCc
    obtain ⟨e0, e1, e2⟩ := HAc.out.1.cells
    by_cases hlast : j + 1 = N
    · have h := HR.out.symm.trans HFd.out
      rw [if_pos hlast] at h
      simp only [Prod.mk.injEq] at h
      obtain ⟨⟨hS, hE, hZ1⟩, hZ2, hC⟩ := h
      have hL2 : L2 = n := by rw [← HL2.out, hZ2]; exact HBY.out.1
      have HA2 : Hid (Seg y4 wb n ys) := by have h := HAc.out.2.2.1.seg; rw [hL2, hZ2] at h; exact h
      rw [hS] at e0
      rw [hC, hL2]
      have HY4 : Hid (Seg y4 (some ⟨g, 0, none⟩) n ys) := HBY.out.below HB4.out
      have hle : ((j : Int) == (N : Int) - 1) = true := by simp; omega
      have hle2 : (j : Int) = (N : Int) - 1 := by omega
      clear hS hE hZ1 hZ2 hC hL2 HAc HR HFd HL1 HL2 hlast
      go_wp2_with fail
      refine (sameB_same wb (some ⟨g, 0, none⟩) n cwb cp ys y4 HA2.out HY4.out (by omega)).mono ?_
      rintro e y5 ⟨rfl, m5, rfl⟩
      have HF : Hid (Below w.heap.size w (y4.drewN m5)) := by
        have h1 : Below w.heap.size w y4 := HB3.out.trans (HB4.out.mono HB3.out.size)
        exact Still.below ⟨m5, rfl⟩ h1
      have e0' : (y4.drewN m5).cell? ⟨bw, 0, none⟩ = some (.int .i64 0) := e0
      clear e0 e1 e2
      go_wp2_with fail
      go_ret
      exact ⟨rfl, HF.out⟩
    · have hg : gotG (clampM most) en ys (j + 1) = (3, en, ys.take ((j + 1) * clampM most)) := by unfold gotG; rw [if_neg (by omega)]
      have h := HR.out.symm.trans HFd.out
      rw [if_neg hlast, hg] at h
      simp only [Prod.mk.injEq] at h
      obtain ⟨⟨hS, hE, hZ1⟩, hZ2, hC⟩ := h
      have hL2 : L2 = 0 := by rw [← HL2.out, hZ2]; rfl
      have HGn : Hid (gotG (clampM most) en ys (j + 1) = (3, en, Z1)) := by show _ = _; rw [hZ1]; exact hg
      rw [hS] at e0
      rw [hE] at e1
      rw [hC, hL2]
      have hle : ((j : Int) == (N : Int) - 1) = false := by simp; omega
      have hle2 : ¬ (j : Int) = (N : Int) - 1 := by omega
      have hne : (en != en) = false := by cases en <;> rfl
      obtain ⟨d0, d1, d2⟩ := HG4.out.cells
      have f0 := HG4.out.frozen 0
      have f1 := HG4.out.frozen 1
      have f2 := HG4.out.frozen 2
      have HN4 : Hid (Box3 (((y4.setCell ⟨x3.heap.size, 0, none⟩ (.int .i64 3)).setCell ⟨x3.heap.size, 1, none⟩ (.bool en)).setCell ⟨x3.heap.size, 2, none⟩ (.slice wa L1 cw)) x3.heap.size 30 (.int .i64 3) (.bool en) (.slice wa L1 cw)) := box3_set2 (box3_set1 (box3_set0 HG4.out _) _) _
      have HO4 : Hid (Owns (((y4.setCell ⟨x3.heap.size, 0, none⟩ (.int .i64 3)).setCell ⟨x3.heap.size, 1, none⟩ (.bool en)).setCell ⟨x3.heap.size, 2, none⟩ (.slice wa L1 cw)) (x3.heap.size + 1) wa L1 cw Z1) := by
        have hlt3 := HLt.out
        have n1 : wa.map (·.block) ≠ some x3.heap.size := fun e => by have := (HAc.out.2.1.lt _ e).1; omega
        exact (owns_set (owns_set (owns_set HAc.out.2.1 n1) n1) n1).low (by omega)
      have HB5 : Hid (Below x3.heap.size x3 (((y4.setCell ⟨x3.heap.size, 0, none⟩ (.int .i64 3)).setCell ⟨x3.heap.size, 1, none⟩ (.bool en)).setCell ⟨x3.heap.size, 2, none⟩ (.slice wa L1 cw))) := ((HB4.out.setCell (p := ⟨x3.heap.size, 0, none⟩) (Nat.le_refl _) _).setCell (p := ⟨x3.heap.size, 1, none⟩) (Nat.le_refl _) _).setCell (p := ⟨x3.heap.size, 2, none⟩) (Nat.le_refl _) _
      have hlt2 : j + 1 < N := by omega
      clear hS hE hZ1 hZ2 hC hL2 HAc HR HFd HL1 HL2 hlast hg
      go_wp2_with fail
      go_roundw
      case rel => exact ⟨j + 1, 3, en, Z1, wa, L1, cw, hlt2, by go_num, HGn, HN4, HO4, HB5⟩
      case measure => simp [intOf]; omega
end Go.Proofs.YtpjldfpipchmjadDoor
