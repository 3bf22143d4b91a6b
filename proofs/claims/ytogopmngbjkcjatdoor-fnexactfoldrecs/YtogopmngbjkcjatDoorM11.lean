/- The marks laid into a row of records, and nothing else is changed than what lies between two bounds. Rows of records: one held against another that says the same. -/
import Derived.Test.YtogopmngbjkcjatDoorM10
import Derived.Test.YtogopmngbjkcjatDoorM10
import Derived.Test.YtogopmngbjkcjatDoorM03
import Derived.Test.YtogopmngbjkcjatDoorM06
import Derived.Test.YtogopmngbjkcjatDoorM07
import Derived.Deep.RegionHeld3
namespace Go.Proofs.YtogopmngbjkcjatDoor
open Go.RowKit
set_option linter.unusedVariables false

set_option maxRecDepth 10000 in
set_option maxHeartbeats 3200000 in
theorem markRcW_any (base : Nat) (a : Option Addr) (n cap k : Nat) (l : List RE) (w : World) (h : RcRow w base (.slice a n cap) l) (hn : l.length = n) (hk : mkREnd k l ≤ 2199023255552) (hnb : n ≤ 1099511627776) (hi : Nat) (hwi : (∀ q, a.map (·.block) = some q → q < hi) ∧ ∀ e ∈ l, ∀ q, e.a.map (·.block) = some q → q < hi) :
    Calls Tryd.prog 17 #[.slice a n cap, .int .i64 (k : Int)] w fun e w' => e = .returned (.int .i64 (mkREnd k l : Int)) ∧ RcRow w' base (.slice a n cap) (mkRc k l) ∧ Within w w' base hi := by
  have HO : Hid (RcRow w base (.slice a n cap) l) := h
  have HN : Hid (l.length = n) := hn
  have HK : Hid (mkREnd k l ≤ 2199023255552) := hk
  have HHi : Hid ((∀ q, a.map (·.block) = some q → q < hi) ∧ ∀ e ∈ l, ∀ q, e.a.map (·.block) = some q → q < hi) := hwi
  clear h hn hk hwi
  go_enter Tryd.func17, Tryd.ntmps17
  go_wp2
  go_loopw [1, 5] (fun v i wr => ∃ j : Nat, j ≤ n ∧ i = .int .i64 j ∧ v = .int .i64 (mkREnd k (l.take j) : Int) ∧ Hid (RcRow wr base (.slice a n cap) (mkRc k (l.take j) ++ l.drop j)) ∧ Hid (Within w wr base hi)) (fun _ i _ => n - (intOf i).toNat)
  case atStart => exact ⟨0, Nat.zero_le _, rfl, rfl, HO, Within.refl _ _ _⟩
  case round =>
    clear HO
    obtain ⟨j, hj, rfl, rfl, HO, HB⟩ := hrel
    by_cases hlt : j < n
    · have hjl : j < l.length := by have := HN.out; omega
      have hd : l.drop j = l[j] :: l.drop (j + 1) := List.drop_eq_getElem_cons hjl
      have ht : l.take (j + 1) = l.take j ++ [l[j]] := List.take_succ_eq_append_getElem hjl
      have hml : (mkRc k (l.take j)).length = j := by rw [mkRc_len, List.length_take]; omega
      have HEnd : Hid (mkREnd k (l.take (j + 1)) = mkREnd k (l.take j) + 5 + (l[j]).n) := by show _ = _; rw [ht, mkREnd_append]; rfl
      have HFr : Hid (mkRc k (l.take (j + 1)) = mkRc k (l.take j) ++ [mkR1 (mkREnd k (l.take j)) (l[j])]) := by show _ = _; rw [ht, mkRc_append]; rfl
      have hKb : mkREnd k (l.take j) + 5 + (l[j]).n ≤ 2199023255552 := by
        have h1 := HK.out
        rw [← List.take_append_drop (j + 1) l, mkREnd_append] at h1
        have h2 := mkREnd_ge (mkREnd k (l.take (j + 1))) (l.drop (j + 1))
        have h3 := HEnd.out
        omega
      have hO := HO.out
      rw [hd] at hO
      have hlen : (mkRc k (l.take j) ++ l[j] :: l.drop (j + 1)).length = n := by rw [List.length_append, hml, List.length_cons, List.length_drop]; have := HN.out; omega
      have hat := hO.at hlen.symm (i := j) (by omega)
      rw [show (mkRc k (l.take j) ++ l[j] :: l.drop (j + 1))[j]'(by omega) = l[j] by rw [List.getElem_append_right (by omega)]; simp [hml]] at hat
      obtain ⟨g, rfl, c0, c1, c2, c3, c4, c5, hfr⟩ := hat
      have f0 := hfr (j * 6)
      have f1 := hfr (j * 6 + 1)
      have f2 := hfr (j * 6 + 2)
      have hge := hO.1.lt g rfl
      have hgh : g < hi := HHi.out.1 g rfl
      have HEh : Hid (∀ q, (l[j]).a.map (·.block) = some q → q < hi) := HHi.out.2 _ (List.getElem_mem hjl)
      clear hfr hd ht
      generalize mkRc k (l.take j) = M at *
      generalize mkREnd k (l.take j) = K at *
      obtain ⟨D, hD⟩ : ∃ D, l.drop (j + 1) = D := ⟨_, rfl⟩
      have HD : Hid (l.drop (j + 1) = D) := hD
      rw [hD] at hO hlen
      clear hD
      generalize l[j] = e at *
      obtain ⟨⟨re, rq, rk, rid, rn, rz⟩, ea, en, ec⟩ := e
      dsimp only at *
      have hlx : ∀ x : RE, (M ++ x :: D).length = n := fun x => by rw [← hlen]; simp
      have p1 := hO.put1 hlen 0 (j * 6) (by omega) (by omega) (.int .i64 (K : Int)) ⟨⟨(K : Int), rq, rk, rid, rn, rz⟩, ea, en, ec⟩ rfl rfl rfl rfl rfl
      have p2 := p1.1.put1 (hlx _) 1 (j * 6 + 1) (by omega) (by omega) (.int .i64 ((K : Int) + 1)) ⟨⟨(K : Int), (K : Int) + 1, rk, rid, rn, rz⟩, ea, en, ec⟩ rfl rfl rfl rfl rfl
      have p3 := p2.1.put1 (hlx _) 2 (j * 6 + 2) (by omega) (by omega) (.int .i64 ((K : Int) + 1 + 1)) ⟨⟨(K : Int), (K : Int) + 1, (K : Int) + 1 + 1, rid, rn, rz⟩, ea, en, ec⟩ rfl rfl rfl rfl rfl
      have HR : Hid (RcRow (((wr.setCell ⟨g, j * 6, none⟩ (.int .i64 K)).setCell ⟨g, j * 6 + 1, none⟩ (.int .i64 ((K : Int) + 1))).setCell ⟨g, j * 6 + 2, none⟩ (.int .i64 ((K : Int) + 1 + 1))) base (.slice (some ⟨g, 0, none⟩) n cap) (M ++ ⟨⟨(K : Int), (K : Int) + 1, (K : Int) + 1 + 1, rid, rn, rz⟩, ea, en, ec⟩ :: D)) := p3.1
      have HG : Hid (wr.grownBy (((wr.setCell ⟨g, j * 6, none⟩ (.int .i64 K)).setCell ⟨g, j * 6 + 1, none⟩ (.int .i64 ((K : Int) + 1))).setCell ⟨g, j * 6 + 2, none⟩ (.int .i64 ((K : Int) + 1 + 1))) (some g)) := grow_trans (grow_trans p1.2 p2.2) p3.2
      clear p1 p2 p3 hO
      have HFr : Hid (mkRc k (l.take (j + 1)) = M ++ [⟨⟨(K : Int), (K : Int) + 1, (K : Int) + 1 + 1, mt (K + 3), (K : Int) + 1 + 1 + 1 + 1, marks (K + 5) en⟩, ea, en, ec⟩]) := HFr.out
      have hKi : (K : Int) ≤ 2199023255552 := by omega
      have hji : (j : Int) < (n : Int) := by omega
      go_wp2_with fail
      refine (text_intR (K + 3) _ _ (by omega) (by omega)).mono ?_
      rintro _ x1 ⟨rfl, hb1⟩
      have hR1 := HR.out.stays hb1
      have hG1 : wr.grownBy x1 (some g) := grow_trans HG.out ⟨hb1.os, hb1.tape, hb1.output, hb1.size, fun i hi _ => hb1.block i hi⟩
      have q4 := hR1.put1 (hlx _) 3 (j * 6 + 3) (by omega) (by omega) (.string (mt (K + 3))) ⟨⟨(K : Int), (K : Int) + 1, (K : Int) + 1 + 1, mt (K + 3), rn, rz⟩, ea, en, ec⟩ rfl rfl rfl rfl rfl
      have q5 := q4.1.put1 (hlx _) 4 (j * 6 + 4) (by omega) (by omega) (.int .i64 ((K : Int) + 1 + 1 + 1 + 1)) ⟨⟨(K : Int), (K : Int) + 1, (K : Int) + 1 + 1, mt (K + 3), (K : Int) + 1 + 1 + 1 + 1, rz⟩, ea, en, ec⟩ rfl rfl rfl rfl rfl
      have hat := hR1.at (hlx _).symm (i := j) (by have := hlx ⟨⟨(K : Int), (K : Int) + 1, (K : Int) + 1 + 1, rid, rn, rz⟩, ea, en, ec⟩; omega)
      rw [show (M ++ (⟨⟨(K : Int), (K : Int) + 1, (K : Int) + 1 + 1, rid, rn, rz⟩, ea, en, ec⟩ : RE) :: D)[j]'(by have := hlx ⟨⟨(K : Int), (K : Int) + 1, (K : Int) + 1 + 1, rid, rn, rz⟩, ea, en, ec⟩; omega) = ⟨⟨(K : Int), (K : Int) + 1, (K : Int) + 1 + 1, rid, rn, rz⟩, ea, en, ec⟩ by rw [List.getElem_append_right (by omega)]; simp [hml]] at hat
      obtain ⟨g', hgg, _, _, _, d3, d4, d5, hfr⟩ := hat
      obtain rfl : g = g' := by simpa using hgg
      have h3 := hfr (j * 6 + 3)
      have h4 := hfr (j * 6 + 4)
      dsimp only at d3 d4 d5
      have HR2 : Hid (RcRow ((x1.setCell ⟨g, j * 6 + 3, none⟩ (.string (mt (K + 3)))).setCell ⟨g, j * 6 + 4, none⟩ (.int .i64 ((K : Int) + 1 + 1 + 1 + 1))) base (.slice (some ⟨g, 0, none⟩) n cap) (M ++ ⟨⟨(K : Int), (K : Int) + 1, (K : Int) + 1 + 1, mt (K + 3), (K : Int) + 1 + 1 + 1 + 1, rz⟩, ea, en, ec⟩ :: D)) := q5.1
      have HG2 : Hid (wr.grownBy ((x1.setCell ⟨g, j * 6 + 3, none⟩ (.string (mt (K + 3)))).setCell ⟨g, j * 6 + 4, none⟩ (.int .i64 ((K : Int) + 1 + 1 + 1 + 1))) (some g)) := grow_trans hG1 (grow_trans q4.2 q5.2)
      have HE : Hid (Owns ((x1.setCell ⟨g, j * 6 + 3, none⟩ (.string (mt (K + 3)))).setCell ⟨g, j * 6 + 4, none⟩ (.int .i64 ((K : Int) + 1 + 1 + 1 + 1))) base ea en ec rz) := q5.1.2.1 ⟨⟨(K : Int), (K : Int) + 1, (K : Int) + 1 + 1, mt (K + 3), (K : Int) + 1 + 1 + 1 + 1, rz⟩, ea, en, ec⟩ (List.mem_append_right _ (List.mem_cons_self ..))
      clear q4 q5 hR1 hG1 hb1 hfr hgg HR HG c0 c1 c2 c3 c4 c5 f0 f1 f2 HO
      generalize mt (K + 3) = T3 at *
      go_wp2_with fail
      refine (mark_intR base ea en ec (K + 5) _ rz _ HE.out (by omega) (by omega) (by omega)).mono ?_
      rintro _ x4 ⟨rfl, hm, hon⟩
      have HO4 : Hid (RcRow x4 base (.slice (some ⟨g, 0, none⟩) n cap) (M ++ ⟨⟨(K : Int), (K : Int) + 1, (K : Int) + 1 + 1, T3, (K : Int) + 1 + 1 + 1 + 1, marks (K + 5) en⟩, ea, en, ec⟩ :: D)) := HR2.out.bodied (marks (K + 5) en) hm hon
      have HB4 : Hid (Within w x4 base hi) := by
        have h1 := HB.out.trans (within_grown HG2.out (fun q e => by injection e with e; omega))
        exact h1.trans (within_grown hon (fun q e => ⟨(HE.out.lt q e).1, HEh.out q e⟩))
      clear hm hon HE HR2 HG2 HB d3 d4 d5 h3 h4
      obtain ⟨K4, hK4⟩ : ∃ K4, K + 5 + en = K4 := ⟨_, rfl⟩
      have HK4 : Hid (K + 5 + en = K4) := hK4
      rw [hK4]
      clear hK4
      go_wp2
      go_roundw
      case rel =>
        refine ⟨j + 1, by omega, by go_num, by rw [HEnd.out, HK4.out], ?_, HB4⟩
        show RcRow _ _ _ _
        rw [HFr.out, List.append_assoc, HD.out]
        exact HO4.out
      case measure => simp [intOf]; omega
    · have hjn : j = n := by omega
      subst hjn
      have hl := HN.out
      have HO2 : Hid (RcRow wr base (.slice a j cap) (mkRc k l)) := by
        have h := HO.out
        rw [List.take_of_length_le (by omega), List.drop_of_length_le (by omega), List.append_nil] at h
        exact h
      have HE : Hid (mkREnd k (l.take j) = mkREnd k l) := by show _ = _; rw [List.take_of_length_le (by omega)]
      generalize mkREnd k (l.take j) = K at *
      go_wp2
      go_ret
      exact ⟨ret_int (by rw [HE.out]), HO2.out, HB.out⟩

end Go.Proofs.YtogopmngbjkcjatDoor

namespace Go.Proofs.YtogopmngbjkcjatDoor
open Go.RowKit
set_option linter.unusedVariables false

theorem rdata_at {l m : List RE} (h : l.map RE.r = m.map RE.r) {i : Nat} (hi : i < l.length) (hj : i < m.length) : (l[i]).r = (m[i]).r := by
  have h1 : (l.map RE.r)[i]? = (m.map RE.r)[i]? := by rw [h]
  rw [List.getElem?_map, List.getElem?_map, List.getElem?_eq_getElem hi, List.getElem?_eq_getElem hj] at h1
  simpa using h1

set_option maxHeartbeats 3200000 in
theorem eqRecS_same (a b : Option Addr) (n ca cb s1 s2 : Nat) (l m : List RE) (w : World) (hx : RcRow w s1 (.slice a n ca) l) (hy : RcRow w s2 (.slice b n cb) m) (hn : l.length = n) (hm : m.length = n) (hd : l.map RE.r = m.map RE.r) (hb : ∀ e ∈ l, e.n ≤ 1099511627776) (hla : n ≤ 1099511627776) :
    Calls Tryd.prog 16 #[.slice a n ca, .slice b n cb] w fun e w' => e = .returned (.bool true) ∧ Below w.heap.size w w' := by
  have HX : Hid (RcRow w s1 (.slice a n ca) l) := hx
  have HY : Hid (RcRow w s2 (.slice b n cb) m) := hy
  have HD : Hid (l.map RE.r = m.map RE.r) := hd
  have HBn : Hid (∀ e ∈ l, e.n ≤ 1099511627776) := hb
  have HN : Hid (l.length = n ∧ m.length = n) := ⟨hn, hm⟩
  clear hx hy hd hb hn hm
  have hne : ((n : Int) != (n : Int)) = false := by simp
  go_enter Tryd.func16, Tryd.ntmps16
  go_wp2
  go_loopw [5] (fun i wr => ∃ k : Nat, k ≤ n ∧ i = .int .i64 k ∧ Hid (Below w.heap.size w wr)) (fun i _ => n - (intOf i).toNat)
  case atStart => exact ⟨0, Nat.zero_le _, rfl, Below.refl _ _⟩
  case round =>
    obtain ⟨k, hk, rfl, HW⟩ := hrel
    by_cases hlt : k < n
    · have hkl : k < l.length := by have := HN.out.1; omega
      have hkm : k < m.length := by have := HN.out.2; omega
      have hX := HX.out.stays (W' := wr) (HW.out)
      have hY := HY.out.stays (W' := wr) (HW.out)
      obtain ⟨ga, rfl, ga0, ga1, ga2, ga3, ga4, ga5, _⟩ := hX.at HN.out.1.symm hkl
      obtain ⟨gb, rfl, gb0, gb1, gb2, gb3, gb4, gb5, _⟩ := hY.at HN.out.2.symm hkm
      have ho1 := hX.2.1 _ (List.getElem_mem hkl)
      have ho2 := hY.2.1 _ (List.getElem_mem hkm)
      have dr := rdata_at HD.out hkl hkm
      have hbn := HBn.out _ (List.getElem_mem hkl)
      generalize l[k] = e1 at *
      generalize m[k] = e2 at *
      obtain ⟨r1, a1, n1, c1⟩ := e1
      obtain ⟨r2, a2, n2, c2⟩ := e2
      dsimp only at *
      subst dr
      obtain rfl : n1 = n2 := by have h1 := ho1.seg.1; have h2 := ho2.seg.1; omega
      have HO1 : Hid (Seg wr a1 n1 r1.zs) := ho1.seg
      have HO2 : Hid (Seg wr a2 n1 r1.zs) := ho2.seg
      clear hX hY ho1 ho2 hkl hkm
      have hki : (k : Int) < (n : Int) := by omega
      have hk0 : (0 : Int) ≤ (k : Int) := by omega
      go_wp2_with fail
      go_region_held3 (fun W => W.cell? ⟨ga, k * 6, none⟩ = some (.int .i64 r1.e) ∧ W.cell? ⟨ga, k * 6 + 1, none⟩ = some (.int .i64 r1.q) ∧ W.cell? ⟨ga, k * 6 + 2, none⟩ = some (.int .i64 r1.k) ∧ W.cell? ⟨ga, k * 6 + 3, none⟩ = some (.string r1.id) ∧ W.cell? ⟨ga, k * 6 + 4, none⟩ = some (.int .i64 r1.n) ∧ W.cell? ⟨ga, k * 6 + 5, none⟩ = some (.slice a1 n1 c1) ∧ W.cell? ⟨gb, k * 6, none⟩ = some (.int .i64 r1.e) ∧ W.cell? ⟨gb, k * 6 + 1, none⟩ = some (.int .i64 r1.q) ∧ W.cell? ⟨gb, k * 6 + 2, none⟩ = some (.int .i64 r1.k) ∧ W.cell? ⟨gb, k * 6 + 3, none⟩ = some (.string r1.id) ∧ W.cell? ⟨gb, k * 6 + 4, none⟩ = some (.int .i64 r1.n) ∧ W.cell? ⟨gb, k * 6 + 5, none⟩ = some (.slice a2 n1 c2)) (refine ⟨?_, ?_, ?_, ?_, ?_, ?_, ?_, ?_, ?_, ?_, ?_, ?_⟩ <;> assumption) (first
        | (go_at_call 36; refine (eqRec_same r1.e r1.q r1.k r1.id r1.n a1 a2 n1 c1 c2 r1.zs _ (HO1.out.below (Below.refl _ _).drew) (HO2.out.below (Below.refl _ _).drew) hbn).mono ?_; rintro e x3 ⟨rfl, hb3⟩
           have hb3' : Below wr.heap.size wr x3 := (Below.refl wr.heap.size wr).drew.trans (hb3.mono (Nat.le_refl _))
           have p0 := (hb3'.cell (p := ⟨ga, k * 6, none⟩) (lt_of_cell ga0)).trans ga0
           have p1 := (hb3'.cell (p := ⟨ga, k * 6 + 1, none⟩) (lt_of_cell ga0)).trans ga1
           have p2 := (hb3'.cell (p := ⟨ga, k * 6 + 2, none⟩) (lt_of_cell ga0)).trans ga2
           have p3 := (hb3'.cell (p := ⟨ga, k * 6 + 3, none⟩) (lt_of_cell ga0)).trans ga3
           have p4 := (hb3'.cell (p := ⟨ga, k * 6 + 4, none⟩) (lt_of_cell ga0)).trans ga4
           have p5 := (hb3'.cell (p := ⟨ga, k * 6 + 5, none⟩) (lt_of_cell ga0)).trans ga5
           have t0 := (hb3'.cell (p := ⟨gb, k * 6, none⟩) (lt_of_cell gb0)).trans gb0
           have t1 := (hb3'.cell (p := ⟨gb, k * 6 + 1, none⟩) (lt_of_cell gb0)).trans gb1
           have t2 := (hb3'.cell (p := ⟨gb, k * 6 + 2, none⟩) (lt_of_cell gb0)).trans gb2
           have t3 := (hb3'.cell (p := ⟨gb, k * 6 + 3, none⟩) (lt_of_cell gb0)).trans gb3
           have t4 := (hb3'.cell (p := ⟨gb, k * 6 + 4, none⟩) (lt_of_cell gb0)).trans gb4
           have t5 := (hb3'.cell (p := ⟨gb, k * 6 + 5, none⟩) (lt_of_cell gb0)).trans gb5)
        | fail)
      all_goals
        have HB3 : Hid (Below w.heap.size w x3) := HW.out.trans (hb3'.mono HW.out.size)
        clear hb3 hb3' p0 p1 p2 p3 p4 p5 t0 t1 t2 t3 t4 t5
        go_wp2
        go_roundw
        case rel => exact ⟨k + 1, by omega, by go_num, HB3⟩
        case measure => simp [intOf]; omega
    · go_wp2
      go_ret
      exact ⟨rfl, HW.out⟩

end Go.Proofs.YtogopmngbjkcjatDoor
