/- The marks laid into a row of records. How great rows of texts are. The copy of a row of texts. -/
import Derived.Test.YtenkpgnkkkgdmasDoorM08
import Derived.Deep.CutBlock
import Derived.Test.YtenkpgnkkkgdmasDoorM04
namespace Go.Proofs.YtenkpgnkkkgdmasDoor
open Go.RowKit
set_option linter.unusedVariables false

theorem mark_intR (base : Nat) (a : Option Addr) (n cap k : Nat) (kk : Int) (zs : List Int) (w : World) (h : Owns w base a n cap zs) (hn : n ≤ 2199023255552) (hk : k ≤ 2199023255552) (hkk : kk = (k : Int)) :
    Calls Tryd.prog 40 #[.slice a n cap, .int .i64 kk] w fun e w' => e = .returned (.int .i64 ((k + n : Nat) : Int)) ∧ Owns w' base a n cap (marks k n) ∧ Only w w' a := by
  subst hkk
  exact mark_any base a n cap k zs w h hn hk

theorem text_intR (k : Nat) (kk : Int) (w : World) (hk : k ≤ 4398046511104) (hkk : kk = (k : Int)) : Calls Tryd.prog 46 #[.int .i64 kk] w fun e w' => e = .returned (.string (mt k)) ∧ Below w.heap.size w w' := by
  subst hkk
  exact markText_any k w hk

set_option maxRecDepth 10000 in
set_option maxHeartbeats 3200000 in
theorem markRcS_any (base : Nat) (a : Option Addr) (n cap k : Nat) (l : List RE) (w : World) (h : RcRow w base (.slice a n cap) l) (hn : l.length = n) (hk : mkREnd k l ≤ 2199023255552) (hnb : n ≤ 1099511627776) (hwb : base ≤ w.heap.size) :
    Calls Tryd.prog 25 #[.slice a n cap, .int .i64 (k : Int)] w fun e w' => e = .returned (.int .i64 (mkREnd k l : Int)) ∧ RcRow w' base (.slice a n cap) (mkRc k l) ∧ Below base w w' := by
  have HO : Hid (RcRow w base (.slice a n cap) l) := h
  have HN : Hid (l.length = n) := hn
  have HK : Hid (mkREnd k l ≤ 2199023255552) := hk
  clear h hn hk
  go_enter Tryd.func25, Tryd.ntmps25
  go_wp2
  go_loopw [1, 5] (fun v i wr => ∃ j : Nat, j ≤ n ∧ i = .int .i64 j ∧ v = .int .i64 (mkREnd k (l.take j) : Int) ∧ Hid (RcRow wr base (.slice a n cap) (mkRc k (l.take j) ++ l.drop j)) ∧ Hid (Below base w wr)) (fun _ i _ => n - (intOf i).toNat)
  case atStart => exact ⟨0, Nat.zero_le _, rfl, rfl, HO, Below.refl _ _⟩
  case round =>
    clear HO
    obtain ⟨j, hj, rfl, rfl, HO, HB⟩ := hrel
    by_cases hlt : j < n
    · have hjl : j < l.length := by have := HN.out; omega
      have hd : l.drop j = l[j] :: l.drop (j + 1) := List.drop_eq_getElem_cons hjl
      have ht : l.take (j + 1) = l.take j ++ [l[j]] := List.take_succ_eq_append_getElem hjl
      have hml : (mkRc k (l.take j)).length = j := by rw [mkRc_len, List.length_take]; omega
      have HEnd : Hid (mkREnd k (l.take (j + 1)) = mkREnd k (l.take j) + 5 + (l[j]).n) := by show _ = _; rw [ht, mkREnd_append]; rfl
      have HFr : Hid (mkRc k (l.take (j + 1)) = mkRc k (l.take j) ++ [mkR1 (mkREnd k (l.take j)) (l[j])]) := by show _ = _; rw [ht, mkRc_append]; rfl
      have hKb : mkREnd k (l.take j) + 5 + (l[j]).n ≤ 2199023255552 := by
        have h1 := HK.out
        rw [← List.take_append_drop (j + 1) l, mkREnd_append] at h1
        have h2 := mkREnd_ge (mkREnd k (l.take (j + 1))) (l.drop (j + 1))
        have h3 := HEnd.out
        omega
      have hO := HO.out
      rw [hd] at hO
      have hlen : (mkRc k (l.take j) ++ l[j] :: l.drop (j + 1)).length = n := by rw [List.length_append, hml, List.length_cons, List.length_drop]; have := HN.out; omega
      have hat := hO.at hlen.symm (i := j) (by omega)
      rw [show (mkRc k (l.take j) ++ l[j] :: l.drop (j + 1))[j]'(by omega) = l[j] by rw [List.getElem_append_right (by omega)]; simp [hml]] at hat
      obtain ⟨g, rfl, c0, c1, c2, c3, c4, c5, hfr⟩ := hat
      have f0 := hfr (j * 6)
      have f1 := hfr (j * 6 + 1)
      have f2 := hfr (j * 6 + 2)
      have hge := hO.1.lt g rfl
      clear hfr hd ht
      generalize mkRc k (l.take j) = M at *
      generalize mkREnd k (l.take j) = K at *
      obtain ⟨D, hD⟩ : ∃ D, l.drop (j + 1) = D := ⟨_, rfl⟩
      have HD : Hid (l.drop (j + 1) = D) := hD
      rw [hD] at hO hlen
      clear hD
      generalize l[j] = e at *
      obtain ⟨⟨re, rq, rk, rid, rn, rz⟩, ea, en, ec⟩ := e
      dsimp only at *
      have hlx : ∀ x : RE, (M ++ x :: D).length = n := fun x => by rw [← hlen]; simp
      have p1 := hO.put1 hlen 0 (j * 6) (by omega) (by omega) (.int .i64 (K : Int)) ⟨⟨(K : Int), rq, rk, rid, rn, rz⟩, ea, en, ec⟩ rfl rfl rfl rfl rfl
      have p2 := p1.1.put1 (hlx _) 1 (j * 6 + 1) (by omega) (by omega) (.int .i64 ((K : Int) + 1)) ⟨⟨(K : Int), (K : Int) + 1, rk, rid, rn, rz⟩, ea, en, ec⟩ rfl rfl rfl rfl rfl
      have p3 := p2.1.put1 (hlx _) 2 (j * 6 + 2) (by omega) (by omega) (.int .i64 ((K : Int) + 1 + 1)) ⟨⟨(K : Int), (K : Int) + 1, (K : Int) + 1 + 1, rid, rn, rz⟩, ea, en, ec⟩ rfl rfl rfl rfl rfl
      have HR : Hid (RcRow (((wr.setCell ⟨g, j * 6, none⟩ (.int .i64 K)).setCell ⟨g, j * 6 + 1, none⟩ (.int .i64 ((K : Int) + 1))).setCell ⟨g, j * 6 + 2, none⟩ (.int .i64 ((K : Int) + 1 + 1))) base (.slice (some ⟨g, 0, none⟩) n cap) (M ++ ⟨⟨(K : Int), (K : Int) + 1, (K : Int) + 1 + 1, rid, rn, rz⟩, ea, en, ec⟩ :: D)) := p3.1
      have HG : Hid (wr.grownBy (((wr.setCell ⟨g, j * 6, none⟩ (.int .i64 K)).setCell ⟨g, j * 6 + 1, none⟩ (.int .i64 ((K : Int) + 1))).setCell ⟨g, j * 6 + 2, none⟩ (.int .i64 ((K : Int) + 1 + 1))) (some g)) := grow_trans (grow_trans p1.2 p2.2) p3.2
      clear p1 p2 p3 hO
      have HFr : Hid (mkRc k (l.take (j + 1)) = M ++ [⟨⟨(K : Int), (K : Int) + 1, (K : Int) + 1 + 1, mt (K + 3), (K : Int) + 1 + 1 + 1 + 1, marks (K + 5) en⟩, ea, en, ec⟩]) := HFr.out
      have hKi : (K : Int) ≤ 2199023255552 := by omega
      have hji : (j : Int) < (n : Int) := by omega
      go_wp2_with fail
      refine (text_intR (K + 3) _ _ (by omega) (by omega)).mono ?_
      rintro _ x1 ⟨rfl, hb1⟩
      have hR1 := HR.out.stays hb1
      have hG1 : wr.grownBy x1 (some g) := grow_trans HG.out ⟨hb1.os, hb1.tape, hb1.output, hb1.size, fun i hi _ => hb1.block i hi⟩
      have q4 := hR1.put1 (hlx _) 3 (j * 6 + 3) (by omega) (by omega) (.string (mt (K + 3))) ⟨⟨(K : Int), (K : Int) + 1, (K : Int) + 1 + 1, mt (K + 3), rn, rz⟩, ea, en, ec⟩ rfl rfl rfl rfl rfl
      have q5 := q4.1.put1 (hlx _) 4 (j * 6 + 4) (by omega) (by omega) (.int .i64 ((K : Int) + 1 + 1 + 1 + 1)) ⟨⟨(K : Int), (K : Int) + 1, (K : Int) + 1 + 1, mt (K + 3), (K : Int) + 1 + 1 + 1 + 1, rz⟩, ea, en, ec⟩ rfl rfl rfl rfl rfl
      have hat := hR1.at (hlx _).symm (i := j) (by have := hlx ⟨⟨(K : Int), (K : Int) + 1, (K : Int) + 1 + 1, rid, rn, rz⟩, ea, en, ec⟩; omega)
      rw [show (M ++ (⟨⟨(K : Int), (K : Int) + 1, (K : Int) + 1 + 1, rid, rn, rz⟩, ea, en, ec⟩ : RE) :: D)[j]'(by have := hlx ⟨⟨(K : Int), (K : Int) + 1, (K : Int) + 1 + 1, rid, rn, rz⟩, ea, en, ec⟩; omega) = ⟨⟨(K : Int), (K : Int) + 1, (K : Int) + 1 + 1, rid, rn, rz⟩, ea, en, ec⟩ by rw [List.getElem_append_right (by omega)]; simp [hml]] at hat
      obtain ⟨g', hgg, _, _, _, d3, d4, d5, hfr⟩ := hat
      obtain rfl : g = g' := by simpa using hgg
      have h3 := hfr (j * 6 + 3)
      have h4 := hfr (j * 6 + 4)
      dsimp only at d3 d4 d5
      have HR2 : Hid (RcRow ((x1.setCell ⟨g, j * 6 + 3, none⟩ (.string (mt (K + 3)))).setCell ⟨g, j * 6 + 4, none⟩ (.int .i64 ((K : Int) + 1 + 1 + 1 + 1))) base (.slice (some ⟨g, 0, none⟩) n cap) (M ++ ⟨⟨(K : Int), (K : Int) + 1, (K : Int) + 1 + 1, mt (K + 3), (K : Int) + 1 + 1 + 1 + 1, rz⟩, ea, en, ec⟩ :: D)) := q5.1
      have HG2 : Hid (wr.grownBy ((x1.setCell ⟨g, j * 6 + 3, none⟩ (.string (mt (K + 3)))).setCell ⟨g, j * 6 + 4, none⟩ (.int .i64 ((K : Int) + 1 + 1 + 1 + 1))) (some g)) := grow_trans hG1 (grow_trans q4.2 q5.2)
      have HE : Hid (Owns ((x1.setCell ⟨g, j * 6 + 3, none⟩ (.string (mt (K + 3)))).setCell ⟨g, j * 6 + 4, none⟩ (.int .i64 ((K : Int) + 1 + 1 + 1 + 1))) base ea en ec rz) := q5.1.2.1 ⟨⟨(K : Int), (K : Int) + 1, (K : Int) + 1 + 1, mt (K + 3), (K : Int) + 1 + 1 + 1 + 1, rz⟩, ea, en, ec⟩ (List.mem_append_right _ (List.mem_cons_self ..))
      clear q4 q5 hR1 hG1 hb1 hfr hgg HR HG c0 c1 c2 c3 c4 c5 f0 f1 f2 HO
      generalize mt (K + 3) = T3 at *
      go_wp2_with fail
      refine (mark_intR base ea en ec (K + 5) _ rz _ HE.out (by omega) (by omega) (by omega)).mono ?_
      rintro _ x4 ⟨rfl, hm, hon⟩
      have HO4 : Hid (RcRow x4 base (.slice (some ⟨g, 0, none⟩) n cap) (M ++ ⟨⟨(K : Int), (K : Int) + 1, (K : Int) + 1 + 1, T3, (K : Int) + 1 + 1 + 1 + 1, marks (K + 5) en⟩, ea, en, ec⟩ :: D)) := HR2.out.bodied (marks (K + 5) en) hm hon
      have HB4 : Hid (Below base w x4) := by
        have h1 := HB.out.grown HG2.out (by have := HB.out.size; omega) (fun q e => by injection e with e; omega)
        exact h1.grown hon (by have := h1.size; omega) (fun q e => (HE.out.lt q e).1)
      clear hm hon HE HR2 HG2 HB d3 d4 d5 h3 h4
      obtain ⟨K4, hK4⟩ : ∃ K4, K + 5 + en = K4 := ⟨_, rfl⟩
      have HK4 : Hid (K + 5 + en = K4) := hK4
      rw [hK4]
      clear hK4
      go_wp2
      go_roundw
      case rel =>
        refine ⟨j + 1, by omega, by go_num, by rw [HEnd.out, HK4.out], ?_, HB4⟩
        show RcRow _ _ _ _
        rw [HFr.out, List.append_assoc, HD.out]
        exact HO4.out
      case measure => simp [intOf]; omega
    · have hjn : j = n := by omega
      subst hjn
      have hl := HN.out
      have HO2 : Hid (RcRow wr base (.slice a j cap) (mkRc k l)) := by
        have h := HO.out
        rw [List.take_of_length_le (by omega), List.drop_of_length_le (by omega), List.append_nil] at h
        exact h
      have HE : Hid (mkREnd k (l.take j) = mkREnd k l) := by show _ = _; rw [List.take_of_length_le (by omega)]
      generalize mkREnd k (l.take j) = K at *
      go_wp2
      go_ret
      exact ⟨ret_int (by rw [HE.out]), HO2.out, HB.out⟩

end Go.Proofs.YtenkpgnkkkgdmasDoor

namespace Go.Proofs.YtenkpgnkkkgdmasDoor
open Go.RowKit
set_option linter.unusedVariables false

set_option maxHeartbeats 400000 in
theorem szStrS_any (a : Option Addr) (len ca : Nat) (xs : List ByteArray) (n : Int) (w : World) (hx : Strs w a len xs) (hn : 0 ≤ n) (hn2 : n ≤ 1048576) (hl : len ≤ maxLen) :
    Calls Tryd.prog 42 #[.slice a len ca, .int .i64 n] w fun e w' => (∃ v : Int, e = .returned (.int .i64 v) ∧ v ≤ n ∧ (0 ≤ v → v + (len + strBytes xs) ≤ n)) ∧ Below w.heap.size w w' := by
  have HX : Hid (Strs w a len xs) := hx
  clear hx
  have hm : maxLen < 9223372036854775808 := by decide
  by_cases h0 : n - len < 0
  · go_enter Tryd.func42, Tryd.ntmps42
    go_wp2
    go_ret
    exact ⟨⟨_, rfl, by omega, by omega⟩, Below.refl _ _⟩
  · go_enter Tryd.func42, Tryd.ntmps42
    go_wp2
    go_loopw [1, 5] (fun l i wr => ∃ (k : Nat) (u : Int), k ≤ len ∧ i = .int .i64 k ∧ l = .int .i64 u ∧ 0 ≤ u ∧ u ≤ 1048576 ∧ Hid (u = n - len - strBytes (xs.take k)) ∧ Hid (Below w.heap.size w wr)) (fun _ i _ => len - (intOf i).toNat)
    case atStart => exact ⟨0, n - len, Nat.zero_le _, rfl, rfl, by omega, by omega, by show _ = _; simp [strBytes], Below.refl _ _⟩
    case round =>
      obtain ⟨k, u, hk, rfl, rfl, hu, hu2, HU, HW⟩ := hrel
      by_cases hlt : k < len
      · obtain ⟨ba, oa, x, rfl, hba, hfa, ha0⟩ := HX.out.at hlt
        have ga0 : wr.cell? ⟨ba, oa + k, none⟩ = some (.string x) := (HW.out.cell (p := ⟨ba, _, none⟩) hba).trans ha0
        have hsz := HX.out.2.1 x (List.mem_of_getElem? hfa)
        have HF : Hid (strBytes (xs.take (k + 1)) = strBytes (xs.take k) + x.size) := strBytes_step xs k x hfa
        clear hfa ha0
        have hki : (k : Int) < (len : Int) := by omega
        have hk0 : (0 : Int) ≤ (k : Int) := by omega
        by_cases hneg : u - x.size < 0
        · go_wp2
          go_ret
          exact ⟨⟨_, rfl, by omega, by omega⟩, HW.out⟩
        · go_wp2
          go_roundw
          case rel =>
            refine ⟨k + 1, u - x.size, by omega, by go_num, rfl, by omega, by omega, ?_, HW⟩
            show _ = _
            have h2 := HF.out
            have h3 := HU.out
            omega
          case measure => simp [intOf]; omega
      · go_wp2
        go_ret
        have hkl : k = len := by omega
        have h3 := HU.out
        have h4 := HX.out.1
        rw [List.take_of_length_le (by omega)] at h3
        exact ⟨⟨_, rfl, by omega, by omega⟩, HW.out⟩

end Go.Proofs.YtenkpgnkkkgdmasDoor

namespace Go.Proofs.YtenkpgnkkkgdmasDoor
open Go.RowKit
set_option linter.unusedVariables false

set_option maxHeartbeats 400000 in
theorem toStrS_own (a : Option Addr) (len ca : Nat) (xs : List ByteArray) (w : World) (hx : Strs w a len xs) (hl : len ≤ 1048576) :
    Calls Tryd.prog 43 #[.slice a len ca] w fun e w' => e = .returned (.slice (some ⟨w.heap.size, 0, none⟩) len len) ∧ OwnSt w' w.heap.size (.slice (some ⟨w.heap.size, 0, none⟩) len len) len xs ∧ Below w.heap.size w w' := by
  obtain ⟨i0, hi, hz0, hz1, hz2⟩ := info_parts info_string
  have HS : Hid (Strs w a len xs) := hx
  clear hx
  go_enter Tryd.func43, Tryd.ntmps43
  go_wp2_with (at_make; refine wpList_make_full _ rfl _ _ 36 rfl w.heap.size 9 i0 (.string ⟨#[]⟩) 1 Tryd.underlying36 hi hz0 hz1 _ _ _ _ len rfl rfl rfl rfl (by rw [hz2]; omega) (by unfold maxLen; omega) (Nat.le_refl _) ?_; intro w1 hown hgrow)
  have hrow : w1.ownsRow w.heap.size 9 1 (.slice (some ⟨w.heap.size, 0, none⟩) len len) len (scells (srowTo xs len 0)) := by
    have : (madeCells (Value.string ⟨#[]⟩).cells (len * 1)).toList = scells (srowTo xs len 0) := by
      rw [show (Value.string ⟨#[]⟩).cells = #[Value.string ⟨#[]⟩] from rfl, toList_madeCells_one]
      simp [srowTo, scells]
    rwa [this] at hown
  have hbel : Below w.heap.size w w1 := (Below.refl _ _).grown hgrow (Nat.le_refl _) (by simp)
  have HR := (show Hid _ from hrow)
  have HB := (show Hid _ from hbel)
  clear hown hgrow hrow hbel
  go_loopw [4] (fun i wr => ∃ k : Nat, k ≤ len ∧ i = .int .i64 k ∧ Hid (wr.ownsRow w.heap.size 9 1 (.slice (some ⟨w.heap.size, 0, none⟩) len len) len (scells (srowTo xs len k))) ∧ Hid (Below w.heap.size w wr)) (fun i _ => len - (intOf i).toNat)
  case atStart => exact ⟨0, Nat.zero_le _, rfl, HR, HB⟩
  case round =>
    clear HR HB
    obtain ⟨k, hk, rfl, HO, HB⟩ := hrel
    by_cases hlt : k < len
    · obtain ⟨ba, oa, x, rfl, hba, hfa, ha0⟩ := HS.out.at hlt
      have ga0 : wr.cell? ⟨ba, oa + k, none⟩ = some (.string x) := (HB.out.cell (p := ⟨ba, _, none⟩) hba).trans ha0
      have HF : Hid (xs[k]? = some x) := hfa
      clear hfa ha0
      have hki : (k : Int) < (len : Int) := by omega
      have hk0 : (0 : Int) ≤ (k : Int) := by omega
      have hln : (scells (srowTo xs len k)).length = len := by rw [scells_len, srowTo_len xs len k HS.out.1 hk]
      have f0 : wr.frozen? ⟨w.heap.size, k, none⟩ = false := HO.out.frozenAt _
      obtain ⟨u0, hu0⟩ : ∃ u, wr.cell? ⟨w.heap.size, k, none⟩ = some u := by
        rw [HO.out.cellAt _ (by omega)]
        exact ⟨_, List.getElem?_eq_getElem (by omega)⟩
      clear hln
      go_wp2
      go_roundw
      case rel =>
        refine ⟨k + 1, by omega, by go_num, ?_, ?_⟩
        · have h := (HO.out.stored k (.string x)).1
          rw [scells_set, srowTo_step xs len k x HF.out hlt] at h
          exact h
        · exact HB.out.setCell (Nat.le_refl _) _
      case measure => simp [intOf]; omega
    · go_wp2
      go_ret
      have hkl : k = len := by omega
      subst hkl
      have hl1 := HS.out.1
      have h := HO.out
      rw [show srowTo xs k k = xs by simp [srowTo, List.take_of_length_le (Nat.le_of_eq hl1)]] at h
      exact ⟨rfl, ⟨h, HS.out.2.1⟩, HB.out⟩

end Go.Proofs.YtenkpgnkkkgdmasDoor
