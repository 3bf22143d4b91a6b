/- Rows of frames: one held against another that says the same; the marks, laid and asked. -/
import Derived.Test.YtpjldfpipchmjaoFrRow
import Derived.Test.YtpjldfpipchmjaoFrEq
import Derived.Test.YtpjldfpipchmjaoMarkB
import Derived.Deep.RegionHeld3
namespace Go.Proofs.Ytpjldfpipchmjao
open Go.RowKit
set_option linter.unusedVariables false

theorem data_at {l m : List FE} (h : l.map FE.data = m.map FE.data) {i : Nat} (hi : i < l.length) (hj : i < m.length) : (l[i]).k = (m[i]).k ∧ (l[i]).f = (m[i]).f ∧ (l[i]).s = (m[i]).s ∧ (l[i]).zs = (m[i]).zs := by
  have h1 : (l.map FE.data)[i]? = (m.map FE.data)[i]? := by rw [h]
  rw [List.getElem?_map, List.getElem?_map, List.getElem?_eq_getElem hi, List.getElem?_eq_getElem hj] at h1
  simp only [Option.map_some, Option.some.injEq, FE.data, Prod.mk.injEq] at h1
  exact h1

set_option maxHeartbeats 1600000 in
theorem eqFrameS_same (a b : Option Addr) (n ca cb s1 s2 : Nat) (l m : List FE) (w : World) (hx : FrRow w s1 (.slice a n ca) l) (hy : FrRow w s2 (.slice b n cb) m) (hn : l.length = n) (hm : m.length = n) (hd : l.map FE.data = m.map FE.data) (hb : ∀ e ∈ l, e.n ≤ 1099511627776) (hla : n ≤ 1099511627776) :
    Calls Try.prog 7 #[.slice a n ca, .slice b n cb] w fun e w' => e = .returned (.bool true) ∧ Below w.heap.size w w' := by
  have HX : Hid (FrRow w s1 (.slice a n ca) l) := hx
  have HY : Hid (FrRow w s2 (.slice b n cb) m) := hy
  have HD : Hid (l.map FE.data = m.map FE.data) := hd
  have HBn : Hid (∀ e ∈ l, e.n ≤ 1099511627776) := hb
  have HN : Hid (l.length = n ∧ m.length = n) := ⟨hn, hm⟩
  clear hx hy hd hb hn hm
  have hne : ((n : Int) != (n : Int)) = false := by simp
  go_enter Try.func7, Try.ntmps7
  go_wp2
  go_loopw [5] (fun i wr => ∃ k : Nat, k ≤ n ∧ i = .int .i64 k ∧ Hid (Below w.heap.size w wr)) (fun i _ => n - (intOf i).toNat)
  case atStart => exact ⟨0, Nat.zero_le _, rfl, Below.refl _ _⟩
  case round =>
    obtain ⟨k, hk, rfl, HW⟩ := hrel
    by_cases hlt : k < n
    · have hkl : k < l.length := by have := HN.out.1; omega
      have hkm : k < m.length := by have := HN.out.2; omega
      have hX := HX.out.stays (W' := wr) (HW.out)
      have hY := HY.out.stays (W' := wr) (HW.out)
      obtain ⟨ga, rfl, ga0, ga1, ga2, ga3, _⟩ := hX.at HN.out.1.symm hkl
      obtain ⟨gb, rfl, gb0, gb1, gb2, gb3, _⟩ := hY.at HN.out.2.symm hkm
      have ho1 := hX.2.1 _ (List.getElem_mem hkl)
      have ho2 := hY.2.1 _ (List.getElem_mem hkm)
      obtain ⟨dk, df, ds, dz⟩ := data_at HD.out hkl hkm
      have hbn := HBn.out _ (List.getElem_mem hkl)
      generalize l[k] = e1 at *
      generalize m[k] = e2 at *
      obtain ⟨k1, f1, s1', a1, n1, c1, z1⟩ := e1
      obtain ⟨k2, f2, s2', a2, n2, c2, z2⟩ := e2
      dsimp only at *
      subst dk df ds dz
      obtain rfl : n1 = n2 := by have h1 := ho1.seg.1; have h2 := ho2.seg.1; omega
      have HO1 : Hid (Seg wr a1 n1 z1) := ho1.seg
      have HO2 : Hid (Seg wr a2 n1 z1) := ho2.seg
      clear hX hY ho1 ho2 hkl hkm
      have hki : (k : Int) < (n : Int) := by omega
      have hk0 : (0 : Int) ≤ (k : Int) := by omega
      go_wp2_with fail
      go_region_held3 (fun W => W.cell? ⟨ga, k * 4, none⟩ = some (.int .i64 k1) ∧ W.cell? ⟨ga, k * 4 + 1, none⟩ = some (.int .i64 f1) ∧ W.cell? ⟨ga, k * 4 + 2, none⟩ = some (.int .i64 s1') ∧ W.cell? ⟨ga, k * 4 + 3, none⟩ = some (.slice a1 n1 c1) ∧ W.cell? ⟨gb, k * 4, none⟩ = some (.int .i64 k1) ∧ W.cell? ⟨gb, k * 4 + 1, none⟩ = some (.int .i64 f1) ∧ W.cell? ⟨gb, k * 4 + 2, none⟩ = some (.int .i64 s1') ∧ W.cell? ⟨gb, k * 4 + 3, none⟩ = some (.slice a2 n1 c2)) (refine ⟨?_, ?_, ?_, ?_, ?_, ?_, ?_, ?_⟩ <;> assumption) (first
        | (go_at_call 17; refine (eqFrame_same k1 f1 s1' a1 a2 n1 c1 c2 z1 _ (HO1.out.below (Below.refl _ _).drew) (HO2.out.below (Below.refl _ _).drew) hbn).mono ?_; rintro e x3 ⟨rfl, hb3⟩
           have hb3' : Below wr.heap.size wr x3 := (Below.refl wr.heap.size wr).drew.trans (hb3.mono (Nat.le_refl _))
           have r0 := (hb3'.cell (p := ⟨ga, k * 4, none⟩) (lt_of_cell ga0)).trans ga0
           have r1 := (hb3'.cell (p := ⟨ga, k * 4 + 1, none⟩) (lt_of_cell ga0)).trans ga1
           have r2 := (hb3'.cell (p := ⟨ga, k * 4 + 2, none⟩) (lt_of_cell ga0)).trans ga2
           have r3 := (hb3'.cell (p := ⟨ga, k * 4 + 3, none⟩) (lt_of_cell ga0)).trans ga3
           have t0 := (hb3'.cell (p := ⟨gb, k * 4, none⟩) (lt_of_cell gb0)).trans gb0
           have t1 := (hb3'.cell (p := ⟨gb, k * 4 + 1, none⟩) (lt_of_cell gb0)).trans gb1
           have t2 := (hb3'.cell (p := ⟨gb, k * 4 + 2, none⟩) (lt_of_cell gb0)).trans gb2
           have t3 := (hb3'.cell (p := ⟨gb, k * 4 + 3, none⟩) (lt_of_cell gb0)).trans gb3)
        | fail)
      all_goals
        have HB3 : Hid (Below w.heap.size w x3) := HW.out.trans (hb3'.mono HW.out.size)
        clear hb3 hb3' r0 r1 r2 r3 t0 t1 t2 t3
        go_wp2
        go_roundw
        case rel => exact ⟨k + 1, by omega, by go_num, HB3⟩
        case measure => simp [intOf]; omega
    · go_wp2
      go_ret
      exact ⟨rfl, HW.out⟩

/-- The marks of frames, from k on. -/
def mkFr : Nat → List FE → List FE
  | _, [] => []
  | k, e :: l => { e with k := (k : Int), f := (k : Int) + 1, s := (k : Int) + 1 + 1, zs := marks (k + 3) e.n } :: mkFr (k + 3 + e.n) l

/-- The number behind the marks. -/
def mkEnd : Nat → List FE → Nat
  | k, [] => k
  | k, e :: l => mkEnd (k + 3 + e.n) l

theorem mkFr_len (k : Nat) (l : List FE) : (mkFr k l).length = l.length := by
  induction l generalizing k with
  | nil => rfl
  | cons e l ih => simp [mkFr, ih]

theorem mkFr_append (k : Nat) (l m : List FE) : mkFr k (l ++ m) = mkFr k l ++ mkFr (mkEnd k l) m := by
  induction l generalizing k with
  | nil => rfl
  | cons e l ih => simp [mkFr, mkEnd, ih]

theorem mkEnd_append (k : Nat) (l m : List FE) : mkEnd k (l ++ m) = mkEnd (mkEnd k l) m := by
  induction l generalizing k with
  | nil => rfl
  | cons e l ih => simp [mkEnd, ih]

theorem mkEnd_ge (k : Nat) (l : List FE) : k ≤ mkEnd k l := by
  induction l generalizing k with
  | nil => exact Nat.le_refl _
  | cons e l ih => have := ih (k + 3 + e.n); simp only [mkEnd]; omega

theorem mkFr_apart (k : Nat) (l : List FE) (e : FE) : (∀ x ∈ l, apart x e) → ∀ x ∈ mkFr k l, apart x e := by
  induction l generalizing k with
  | nil => intro _ x hx; simp [mkFr] at hx
  | cons y l ih =>
    intro h x hx
    simp only [mkFr, List.mem_cons] at hx
    rcases hx with rfl | hx
    · exact h y (List.mem_cons_self ..)
    · exact ih _ (fun z hz => h z (List.mem_cons_of_mem _ hz)) x hx

theorem mark_int (base : Nat) (a : Option Addr) (n cap k : Nat) (kk : Int) (zs : List Int) (w : World) (h : Owns w base a n cap zs) (hn : n ≤ 2199023255552) (hk : k ≤ 2199023255552) (hkk : kk = (k : Int)) :
    Calls Try.prog 9 #[.slice a n cap, .int .i64 kk] w fun e w' => e = .returned (.int .i64 ((k + n : Nat) : Int)) ∧ Owns w' base a n cap (marks k n) ∧ Only w w' a := by
  subst hkk
  exact mark_any base a n cap k zs w h hn hk

theorem held_int (base : Nat) (a : Option Addr) (n cap k : Nat) (kk : Int) (w : World) (h : Owns w base a n cap (marks k n)) (hn : n ≤ 2199023255552) (hk : k ≤ 2199023255552) (hkk : kk = (k : Int)) :
    Calls Try.prog 18 #[.slice a n cap, .int .i64 kk] w fun e w' => e = .returned (.int .i64 ((k + n : Nat) : Int)) ∧ w' = w := by
  subst hkk
  exact held_any base a n cap k w h hn hk

set_option maxRecDepth 10000 in
set_option maxHeartbeats 1600000 in
theorem markFrS_any (base : Nat) (a : Option Addr) (n cap k : Nat) (l : List FE) (w : World) (h : FrRow w base (.slice a n cap) l) (hn : l.length = n) (hk : mkEnd k l ≤ 2199023255552) (hnb : n ≤ 1099511627776) (hwb : base ≤ w.heap.size) :
    Calls Try.prog 10 #[.slice a n cap, .int .i64 (k : Int)] w fun e w' => e = .returned (.int .i64 (mkEnd k l : Int)) ∧ FrRow w' base (.slice a n cap) (mkFr k l) ∧ Below base w w' := by
  have HO : Hid (FrRow w base (.slice a n cap) l) := h
  have HN : Hid (l.length = n) := hn
  have HK : Hid (mkEnd k l ≤ 2199023255552) := hk
  clear h hn hk
  go_enter Try.func10, Try.ntmps10
  go_wp2
  go_loopw [1, 5] (fun v i wr => ∃ j : Nat, j ≤ n ∧ i = .int .i64 j ∧ v = .int .i64 (mkEnd k (l.take j) : Int) ∧ Hid (FrRow wr base (.slice a n cap) (mkFr k (l.take j) ++ l.drop j)) ∧ Hid (Below base w wr)) (fun _ i _ => n - (intOf i).toNat)
  case atStart => exact ⟨0, Nat.zero_le _, rfl, rfl, HO, Below.refl _ _⟩
  case round =>
    clear HO
    obtain ⟨j, hj, rfl, rfl, HO, HB⟩ := hrel
    by_cases hlt : j < n
    · have hjl : j < l.length := by have := HN.out; omega
      have hd : l.drop j = l[j] :: l.drop (j + 1) := List.drop_eq_getElem_cons hjl
      have ht : l.take (j + 1) = l.take j ++ [l[j]] := List.take_succ_eq_append_getElem hjl
      have hml : (mkFr k (l.take j)).length = j := by rw [mkFr_len, List.length_take]; omega
      have HEnd : Hid (mkEnd k (l.take (j + 1)) = mkEnd k (l.take j) + 3 + (l[j]).n) := by show _ = _; rw [ht, mkEnd_append]; rfl
      have HFr : Hid (mkFr k (l.take (j + 1)) = mkFr k (l.take j) ++ [{ l[j] with k := (mkEnd k (l.take j) : Int), f := (mkEnd k (l.take j) : Int) + 1, s := (mkEnd k (l.take j) : Int) + 1 + 1, zs := marks (mkEnd k (l.take j) + 3) (l[j]).n }]) := by show _ = _; rw [ht, mkFr_append]; rfl
      have hKb : mkEnd k (l.take j) + 3 + (l[j]).n ≤ 2199023255552 := by
        have h1 := HK.out
        rw [← List.take_append_drop (j + 1) l, mkEnd_append] at h1
        have h2 := mkEnd_ge (mkEnd k (l.take (j + 1))) (l.drop (j + 1))
        have h3 := HEnd.out
        omega
      have hO := HO.out
      rw [hd] at hO
      have hlen : (mkFr k (l.take j) ++ l[j] :: l.drop (j + 1)).length = n := by rw [List.length_append, hml, List.length_cons, List.length_drop]; have := HN.out; omega
      have hat := hO.at hlen.symm (i := j) (by omega)
      rw [show (mkFr k (l.take j) ++ l[j] :: l.drop (j + 1))[j]'(by omega) = l[j] by rw [List.getElem_append_right (by omega)]; simp [hml]] at hat
      obtain ⟨g, rfl, c0, c1, c2, c3, hfr⟩ := hat
      have f0 := hfr (j * 4)
      have f1 := hfr (j * 4 + 1)
      have f2 := hfr (j * 4 + 2)
      have hge := hO.1.lt g rfl
      clear hfr hd ht
      generalize mkFr k (l.take j) = M at *
      generalize mkEnd k (l.take j) = K at *
      obtain ⟨D, hD⟩ : ∃ D, l.drop (j + 1) = D := ⟨_, rfl⟩
      have HD : Hid (l.drop (j + 1) = D) := hD
      rw [hD] at hO hlen
      clear hD
      generalize l[j] = e at *
      have hnum := hO.numbers hlen K ((K : Int) + 1) ((K : Int) + 1 + 1)
      rw [hml] at hnum
      have HR : Hid (FrRow (((wr.setCell ⟨g, j * 4, none⟩ (.int .i64 K)).setCell ⟨g, j * 4 + 1, none⟩ (.int .i64 ((K : Int) + 1))).setCell ⟨g, j * 4 + 2, none⟩ (.int .i64 ((K : Int) + 1 + 1))) base (.slice (some ⟨g, 0, none⟩) n cap) (M ++ { e with k := (K : Int), f := (K : Int) + 1, s := (K : Int) + 1 + 1 } :: D)) := hnum.1
      have HG : Hid (wr.grownBy (((wr.setCell ⟨g, j * 4, none⟩ (.int .i64 K)).setCell ⟨g, j * 4 + 1, none⟩ (.int .i64 ((K : Int) + 1))).setCell ⟨g, j * 4 + 2, none⟩ (.int .i64 ((K : Int) + 1 + 1))) (some g)) := hnum.2
      obtain ⟨ek, ef, es, ea, en, ec, ez⟩ := e
      dsimp only at *
      have HE : Hid (Owns (((wr.setCell ⟨g, j * 4, none⟩ (.int .i64 K)).setCell ⟨g, j * 4 + 1, none⟩ (.int .i64 ((K : Int) + 1))).setCell ⟨g, j * 4 + 2, none⟩ (.int .i64 ((K : Int) + 1 + 1))) base ea en ec ez) := hnum.1.2.1 ⟨_, _, _, ea, en, ec, ez⟩ (List.mem_append_right _ (List.mem_cons_self ..))
      clear hnum hO
      have hKi : (K : Int) ≤ 2199023255552 := by omega
      go_wp2_with fail
      refine (mark_int base ea en ec (K + 3) _ ez _ HE.out (by omega) (by omega) (by omega)).mono ?_
      rintro e x4 ⟨rfl, hm, hon⟩
      have HO4 : Hid (FrRow x4 base (.slice (some ⟨g, 0, none⟩) n cap) (M ++ ⟨(K : Int), (K : Int) + 1, (K : Int) + 1 + 1, ea, en, ec, marks (K + 3) en⟩ :: D)) := HR.out.bodied (marks (K + 3) en) hm hon
      have HB4 : Hid (Below base w x4) := by
        have h1 : Below base w (((wr.setCell ⟨g, j * 4, none⟩ (.int .i64 K)).setCell ⟨g, j * 4 + 1, none⟩ (.int .i64 ((K : Int) + 1))).setCell ⟨g, j * 4 + 2, none⟩ (.int .i64 ((K : Int) + 1 + 1))) := HB.out.grown HG.out (by have := HB.out.size; omega) (fun q e => by injection e with e; omega)
        exact h1.grown hon (by have := h1.size; omega) (fun q e => (HE.out.lt q e).1)
      clear hm hon HE HR HG HO HB c0 c1 c2 c3 f0 f1 f2
      obtain ⟨K4, hK4⟩ : ∃ K4, K + 3 + en = K4 := ⟨_, rfl⟩
      have HK4 : Hid (K + 3 + en = K4) := hK4
      rw [hK4]
      clear hK4
      go_wp2
      go_roundw
      case rel =>
        refine ⟨j + 1, by omega, by go_num, by rw [HEnd.out, HK4.out], ?_, HB4⟩
        show FrRow _ _ _ _
        rw [HFr.out, List.append_assoc, HD.out]
        exact HO4.out
      case measure => simp [intOf]; omega
    · have hjn : j = n := by omega
      subst hjn
      have hl := HN.out
      have HO2 : Hid (FrRow wr base (.slice a j cap) (mkFr k l)) := by
        have h := HO.out
        rw [List.take_of_length_le (by omega), List.drop_of_length_le (by omega), List.append_nil] at h
        exact h
      have HE : Hid (mkEnd k (l.take j) = mkEnd k l) := by show _ = _; rw [List.take_of_length_le (by omega)]
      generalize mkEnd k (l.take j) = K at *
      go_wp2
      go_ret
      exact ⟨ret_int (by rw [HE.out]), HO2.out, HB.out⟩

set_option maxRecDepth 10000 in
set_option maxHeartbeats 1600000 in
theorem heldFrS_any (base : Nat) (a : Option Addr) (n cap k : Nat) (l : List FE) (w : World) (h : FrRow w base (.slice a n cap) (mkFr k l)) (hn : l.length = n) (hk : mkEnd k l ≤ 2199023255552) (hnb : n ≤ 1099511627776) :
    Calls Try.prog 11 #[.slice a n cap, .int .i64 (k : Int)] w fun e w' => e = .returned (.int .i64 (mkEnd k l : Int)) ∧ w' = w := by
  have HO : Hid (FrRow w base (.slice a n cap) (mkFr k l)) := h
  have HN : Hid (l.length = n) := hn
  have HK : Hid (mkEnd k l ≤ 2199023255552) := hk
  clear h hn hk
  go_enter Try.func11, Try.ntmps11
  go_wp2
  go_loop [1, 5] (fun v i => ∃ j : Nat, j ≤ n ∧ i = .int .i64 j ∧ v = .int .i64 (mkEnd k (l.take j) : Int)) (fun _ i => n - (intOf i).toNat)
  case atStart => exact ⟨0, Nat.zero_le _, rfl, rfl⟩
  case round =>
    obtain ⟨j, hj, rfl, rfl⟩ := hrel
    by_cases hlt : j < n
    · have hjl : j < l.length := by have := HN.out; omega
      have ht : l.take (j + 1) = l.take j ++ [l[j]] := List.take_succ_eq_append_getElem hjl
      have hml : (mkFr k (l.take j)).length = j := by rw [mkFr_len, List.length_take]; omega
      have HEnd : Hid (mkEnd k (l.take (j + 1)) = mkEnd k (l.take j) + 3 + (l[j]).n) := by show _ = _; rw [ht, mkEnd_append]; rfl
      have hKb : mkEnd k (l.take j) + 3 + (l[j]).n ≤ 2199023255552 := by
        have h1 := HK.out
        rw [← List.take_append_drop (j + 1) l, mkEnd_append] at h1
        have h2 := mkEnd_ge (mkEnd k (l.take (j + 1))) (l.drop (j + 1))
        have h3 := HEnd.out
        omega
      have hFr : mkFr k l = mkFr k (l.take j) ++ { l[j] with k := (mkEnd k (l.take j) : Int), f := (mkEnd k (l.take j) : Int) + 1, s := (mkEnd k (l.take j) : Int) + 1 + 1, zs := marks (mkEnd k (l.take j) + 3) (l[j]).n } :: mkFr (mkEnd k (l.take j) + 3 + (l[j]).n) (l.drop (j + 1)) := by
        have hd : l = l.take j ++ l[j] :: l.drop (j + 1) := by rw [← List.drop_eq_getElem_cons hjl]; exact (List.take_append_drop j l).symm
        rw [show mkFr k l = mkFr k (l.take j ++ l[j] :: l.drop (j + 1)) from congrArg (mkFr k) hd, mkFr_append]
        rfl
      have hO := HO.out
      have hlen : (mkFr k l).length = n := by rw [mkFr_len]; exact HN.out
      have hat := hO.at hlen.symm (i := j) (by omega)
      have hin := hO.2.1 ((mkFr k l)[j]'(by omega)) (List.getElem_mem _)
      have hge : (mkFr k l)[j]'(by omega) = { l[j] with k := (mkEnd k (l.take j) : Int), f := (mkEnd k (l.take j) : Int) + 1, s := (mkEnd k (l.take j) : Int) + 1 + 1, zs := marks (mkEnd k (l.take j) + 3) (l[j]).n } := by
        have h1 : (mkFr k l)[j]? = some { l[j] with k := (mkEnd k (l.take j) : Int), f := (mkEnd k (l.take j) : Int) + 1, s := (mkEnd k (l.take j) : Int) + 1 + 1, zs := marks (mkEnd k (l.take j) + 3) (l[j]).n } := by
          rw [hFr, List.getElem?_append_right (by omega), hml, Nat.sub_self]
          rfl
        rw [List.getElem?_eq_getElem (by omega)] at h1
        exact Option.some.inj h1
      rw [hge] at hat hin
      dsimp only at hat hin
      obtain ⟨g, rfl, c0, c1, c2, c3, _⟩ := hat
      clear hO hge hFr ht hml hlen
      generalize mkEnd k (l.take j) = K at *
      generalize l[j] = e at *
      obtain ⟨ek, ef, es, ea, en, ec, ez⟩ := e
      dsimp only at *
      have HE : Hid (Owns w base ea en ec (marks (K + 3) en)) := hin
      clear hin
      have hKi : (K : Int) ≤ 2199023255552 := by omega
      have n0 : ((K : Int) != (K : Int)) = false := by simp
      have n1 : ((K : Int) + 1 != (K : Int) + 1) = false := by simp
      have n2 : ((K : Int) + 1 + 1 != (K : Int) + 1 + 1) = false := by simp
      go_wp2_with fail
      refine (held_int base ea en ec (K + 3) _ _ HE.out (by omega) (by omega) (by omega)).mono ?_
      rintro e x4 ⟨rfl, rfl⟩
      obtain ⟨K4, hK4⟩ : ∃ K4, K + 3 + en = K4 := ⟨_, rfl⟩
      have HK4 : Hid (K + 3 + en = K4) := hK4
      rw [hK4]
      have hK4p : ¬ (K4 : Int) < 0 := by omega
      clear hK4
      go_wp2
      go_round
      case rel => exact ⟨j + 1, by omega, by go_num, by rw [HEnd.out, HK4.out]⟩
      case measure => simp [intOf]; omega
    · have hjn : j = n := by omega
      subst hjn
      have hl := HN.out
      have HE : Hid (mkEnd k (l.take j) = mkEnd k l) := by show _ = _; rw [List.take_of_length_le (by omega)]
      generalize mkEnd k (l.take j) = K at *
      go_wp2
      go_ret
      exact ⟨ret_int (by rw [HE.out]), rfl⟩

end Go.Proofs.Ytpjldfpipchmjao
