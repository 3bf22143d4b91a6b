/- The marks laid into a row of records. What is written lies between two bounds. No program in it. -/
import Derived.Test.YtogopmngbjkcjatDoorM07
import Derived.Deep.CutBlock
import Derived.Test.YtogopmngbjkcjatDoorM01
namespace Go.Proofs.YtogopmngbjkcjatDoor
open Go.RowKit
set_option linter.unusedVariables false

theorem mark_intR (base : Nat) (a : Option Addr) (n cap k : Nat) (kk : Int) (zs : List Int) (w : World) (h : Owns w base a n cap zs) (hn : n ≤ 2199023255552) (hk : k ≤ 2199023255552) (hkk : kk = (k : Int)) :
    Calls Tryd.prog 38 #[.slice a n cap, .int .i64 kk] w fun e w' => e = .returned (.int .i64 ((k + n : Nat) : Int)) ∧ Owns w' base a n cap (marks k n) ∧ Only w w' a := by
  subst hkk
  exact mark_any base a n cap k zs w h hn hk

theorem text_intR (k : Nat) (kk : Int) (w : World) (hk : k ≤ 4398046511104) (hkk : kk = (k : Int)) : Calls Tryd.prog 37 #[.int .i64 kk] w fun e w' => e = .returned (.string (mt k)) ∧ Below w.heap.size w w' := by
  subst hkk
  exact markText_any k w hk

set_option maxRecDepth 10000 in
set_option maxHeartbeats 3200000 in
theorem markRcS_any (base : Nat) (a : Option Addr) (n cap k : Nat) (l : List RE) (w : World) (h : RcRow w base (.slice a n cap) l) (hn : l.length = n) (hk : mkREnd k l ≤ 2199023255552) (hnb : n ≤ 1099511627776) (hwb : base ≤ w.heap.size) :
    Calls Tryd.prog 17 #[.slice a n cap, .int .i64 (k : Int)] w fun e w' => e = .returned (.int .i64 (mkREnd k l : Int)) ∧ RcRow w' base (.slice a n cap) (mkRc k l) ∧ Below base w w' := by
  have HO : Hid (RcRow w base (.slice a n cap) l) := h
  have HN : Hid (l.length = n) := hn
  have HK : Hid (mkREnd k l ≤ 2199023255552) := hk
  clear h hn hk
  go_enter Tryd.func17, Tryd.ntmps17
  go_wp2
  go_loopw [1, 5] (fun v i wr => ∃ j : Nat, j ≤ n ∧ i = .int .i64 j ∧ v = .int .i64 (mkREnd k (l.take j) : Int) ∧ Hid (RcRow wr base (.slice a n cap) (mkRc k (l.take j) ++ l.drop j)) ∧ Hid (Below base w wr)) (fun _ i _ => n - (intOf i).toNat)
  case atStart => exact ⟨0, Nat.zero_le _, rfl, rfl, HO, Below.refl _ _⟩
  case round =>
    clear HO
    obtain ⟨j, hj, rfl, rfl, HO, HB⟩ := hrel
    by_cases hlt : j < n
    · have hjl : j < l.length := by have := HN.out; omega
      have hd : l.drop j = l[j] :: l.drop (j + 1) := List.drop_eq_getElem_cons hjl
      have ht : l.take (j + 1) = l.take j ++ [l[j]] := List.take_succ_eq_append_getElem hjl
      have hml : (mkRc k (l.take j)).length = j := by rw [mkRc_len, List.length_take]; omega
      have HEnd : Hid (mkREnd k (l.take (j + 1)) = mkREnd k (l.take j) + 5 + (l[j]).n) := by show _ = _; rw [ht, mkREnd_append]; rfl
      have HFr : Hid (mkRc k (l.take (j + 1)) = mkRc k (l.take j) ++ [mkR1 (mkREnd k (l.take j)) (l[j])]) := by show _ = _; rw [ht, mkRc_append]; rfl
      have hKb : mkREnd k (l.take j) + 5 + (l[j]).n ≤ 2199023255552 := by
        have h1 := HK.out
        rw [← List.take_append_drop (j + 1) l, mkREnd_append] at h1
        have h2 := mkREnd_ge (mkREnd k (l.take (j + 1))) (l.drop (j + 1))
        have h3 := HEnd.out
        omega
      have hO := HO.out
      rw [hd] at hO
      have hlen : (mkRc k (l.take j) ++ l[j] :: l.drop (j + 1)).length = n := by rw [List.length_append, hml, List.length_cons, List.length_drop]; have := HN.out; omega
      have hat := hO.at hlen.symm (i := j) (by omega)
      rw [show (mkRc k (l.take j) ++ l[j] :: l.drop (j + 1))[j]'(by omega) = l[j] by rw [List.getElem_append_right (by omega)]; simp [hml]] at hat
      obtain ⟨g, rfl, c0, c1, c2, c3, c4, c5, hfr⟩ := hat
      have f0 := hfr (j * 6)
      have f1 := hfr (j * 6 + 1)
      have f2 := hfr (j * 6 + 2)
      have hge := hO.1.lt g rfl
      clear hfr hd ht
      generalize mkRc k (l.take j) = M at *
      generalize mkREnd k (l.take j) = K at *
      obtain ⟨D, hD⟩ : ∃ D, l.drop (j + 1) = D := ⟨_, rfl⟩
      have HD : Hid (l.drop (j + 1) = D) := hD
      rw [hD] at hO hlen
      clear hD
      generalize l[j] = e at *
      obtain ⟨⟨re, rq, rk, rid, rn, rz⟩, ea, en, ec⟩ := e
      dsimp only at *
      have hlx : ∀ x : RE, (M ++ x :: D).length = n := fun x => by rw [← hlen]; simp
      have p1 := hO.put1 hlen 0 (j * 6) (by omega) (by omega) (.int .i64 (K : Int)) ⟨⟨(K : Int), rq, rk, rid, rn, rz⟩, ea, en, ec⟩ rfl rfl rfl rfl rfl
      have p2 := p1.1.put1 (hlx _) 1 (j * 6 + 1) (by omega) (by omega) (.int .i64 ((K : Int) + 1)) ⟨⟨(K : Int), (K : Int) + 1, rk, rid, rn, rz⟩, ea, en, ec⟩ rfl rfl rfl rfl rfl
      have p3 := p2.1.put1 (hlx _) 2 (j * 6 + 2) (by omega) (by omega) (.int .i64 ((K : Int) + 1 + 1)) ⟨⟨(K : Int), (K : Int) + 1, (K : Int) + 1 + 1, rid, rn, rz⟩, ea, en, ec⟩ rfl rfl rfl rfl rfl
      have HR : Hid (RcRow (((wr.setCell ⟨g, j * 6, none⟩ (.int .i64 K)).setCell ⟨g, j * 6 + 1, none⟩ (.int .i64 ((K : Int) + 1))).setCell ⟨g, j * 6 + 2, none⟩ (.int .i64 ((K : Int) + 1 + 1))) base (.slice (some ⟨g, 0, none⟩) n cap) (M ++ ⟨⟨(K : Int), (K : Int) + 1, (K : Int) + 1 + 1, rid, rn, rz⟩, ea, en, ec⟩ :: D)) := p3.1
      have HG : Hid (wr.grownBy (((wr.setCell ⟨g, j * 6, none⟩ (.int .i64 K)).setCell ⟨g, j * 6 + 1, none⟩ (.int .i64 ((K : Int) + 1))).setCell ⟨g, j * 6 + 2, none⟩ (.int .i64 ((K : Int) + 1 + 1))) (some g)) := grow_trans (grow_trans p1.2 p2.2) p3.2
      clear p1 p2 p3 hO
      have HFr : Hid (mkRc k (l.take (j + 1)) = M ++ [⟨⟨(K : Int), (K : Int) + 1, (K : Int) + 1 + 1, mt (K + 3), (K : Int) + 1 + 1 + 1 + 1, marks (K + 5) en⟩, ea, en, ec⟩]) := HFr.out
      have hKi : (K : Int) ≤ 2199023255552 := by omega
      have hji : (j : Int) < (n : Int) := by omega
      go_wp2_with fail
      refine (text_intR (K + 3) _ _ (by omega) (by omega)).mono ?_
      rintro _ x1 ⟨rfl, hb1⟩
      have hR1 := HR.out.stays hb1
      have hG1 : wr.grownBy x1 (some g) := grow_trans HG.out ⟨hb1.os, hb1.tape, hb1.output, hb1.size, fun i hi _ => hb1.block i hi⟩
      have q4 := hR1.put1 (hlx _) 3 (j * 6 + 3) (by omega) (by omega) (.string (mt (K + 3))) ⟨⟨(K : Int), (K : Int) + 1, (K : Int) + 1 + 1, mt (K + 3), rn, rz⟩, ea, en, ec⟩ rfl rfl rfl rfl rfl
      have q5 := q4.1.put1 (hlx _) 4 (j * 6 + 4) (by omega) (by omega) (.int .i64 ((K : Int) + 1 + 1 + 1 + 1)) ⟨⟨(K : Int), (K : Int) + 1, (K : Int) + 1 + 1, mt (K + 3), (K : Int) + 1 + 1 + 1 + 1, rz⟩, ea, en, ec⟩ rfl rfl rfl rfl rfl
      have hat := hR1.at (hlx _).symm (i := j) (by have := hlx ⟨⟨(K : Int), (K : Int) + 1, (K : Int) + 1 + 1, rid, rn, rz⟩, ea, en, ec⟩; omega)
      rw [show (M ++ (⟨⟨(K : Int), (K : Int) + 1, (K : Int) + 1 + 1, rid, rn, rz⟩, ea, en, ec⟩ : RE) :: D)[j]'(by have := hlx ⟨⟨(K : Int), (K : Int) + 1, (K : Int) + 1 + 1, rid, rn, rz⟩, ea, en, ec⟩; omega) = ⟨⟨(K : Int), (K : Int) + 1, (K : Int) + 1 + 1, rid, rn, rz⟩, ea, en, ec⟩ by rw [List.getElem_append_right (by omega)]; simp [hml]] at hat
      obtain ⟨g', hgg, _, _, _, d3, d4, d5, hfr⟩ := hat
      obtain rfl : g = g' := by simpa using hgg
      have h3 := hfr (j * 6 + 3)
      have h4 := hfr (j * 6 + 4)
      dsimp only at d3 d4 d5
      have HR2 : Hid (RcRow ((x1.setCell ⟨g, j * 6 + 3, none⟩ (.string (mt (K + 3)))).setCell ⟨g, j * 6 + 4, none⟩ (.int .i64 ((K : Int) + 1 + 1 + 1 + 1))) base (.slice (some ⟨g, 0, none⟩) n cap) (M ++ ⟨⟨(K : Int), (K : Int) + 1, (K : Int) + 1 + 1, mt (K + 3), (K : Int) + 1 + 1 + 1 + 1, rz⟩, ea, en, ec⟩ :: D)) := q5.1
      have HG2 : Hid (wr.grownBy ((x1.setCell ⟨g, j * 6 + 3, none⟩ (.string (mt (K + 3)))).setCell ⟨g, j * 6 + 4, none⟩ (.int .i64 ((K : Int) + 1 + 1 + 1 + 1))) (some g)) := grow_trans hG1 (grow_trans q4.2 q5.2)
      have HE : Hid (Owns ((x1.setCell ⟨g, j * 6 + 3, none⟩ (.string (mt (K + 3)))).setCell ⟨g, j * 6 + 4, none⟩ (.int .i64 ((K : Int) + 1 + 1 + 1 + 1))) base ea en ec rz) := q5.1.2.1 ⟨⟨(K : Int), (K : Int) + 1, (K : Int) + 1 + 1, mt (K + 3), (K : Int) + 1 + 1 + 1 + 1, rz⟩, ea, en, ec⟩ (List.mem_append_right _ (List.mem_cons_self ..))
      clear q4 q5 hR1 hG1 hb1 hfr hgg HR HG c0 c1 c2 c3 c4 c5 f0 f1 f2 HO
      generalize mt (K + 3) = T3 at *
      go_wp2_with fail
      refine (mark_intR base ea en ec (K + 5) _ rz _ HE.out (by omega) (by omega) (by omega)).mono ?_
      rintro _ x4 ⟨rfl, hm, hon⟩
      have HO4 : Hid (RcRow x4 base (.slice (some ⟨g, 0, none⟩) n cap) (M ++ ⟨⟨(K : Int), (K : Int) + 1, (K : Int) + 1 + 1, T3, (K : Int) + 1 + 1 + 1 + 1, marks (K + 5) en⟩, ea, en, ec⟩ :: D)) := HR2.out.bodied (marks (K + 5) en) hm hon
      have HB4 : Hid (Below base w x4) := by
        have h1 := HB.out.grown HG2.out (by have := HB.out.size; omega) (fun q e => by injection e with e; omega)
        exact h1.grown hon (by have := h1.size; omega) (fun q e => (HE.out.lt q e).1)
      clear hm hon HE HR2 HG2 HB d3 d4 d5 h3 h4
      obtain ⟨K4, hK4⟩ : ∃ K4, K + 5 + en = K4 := ⟨_, rfl⟩
      have HK4 : Hid (K + 5 + en = K4) := hK4
      rw [hK4]
      clear hK4
      go_wp2
      go_roundw
      case rel =>
        refine ⟨j + 1, by omega, by go_num, by rw [HEnd.out, HK4.out], ?_, HB4⟩
        show RcRow _ _ _ _
        rw [HFr.out, List.append_assoc, HD.out]
        exact HO4.out
      case measure => simp [intOf]; omega
    · have hjn : j = n := by omega
      subst hjn
      have hl := HN.out
      have HO2 : Hid (RcRow wr base (.slice a j cap) (mkRc k l)) := by
        have h := HO.out
        rw [List.take_of_length_le (by omega), List.drop_of_length_le (by omega), List.append_nil] at h
        exact h
      have HE : Hid (mkREnd k (l.take j) = mkREnd k l) := by show _ = _; rw [List.take_of_length_le (by omega)]
      generalize mkREnd k (l.take j) = K at *
      go_wp2
      go_ret
      exact ⟨ret_int (by rw [HE.out]), HO2.out, HB.out⟩

end Go.Proofs.YtogopmngbjkcjatDoor

namespace Go.Proofs.YtogopmngbjkcjatDoor
open Go.RowKit
set_option linter.unusedVariables false

/-- Of what was there, only blocks from lo on and below hi may have turned. -/
structure Within (w w' : World) (lo hi : Nat) : Prop where
  os : w'.os = w.os
  tape : w'.tape = w.tape
  output : w'.output = w.output
  size : w.heap.size ≤ w'.heap.size
  block : ∀ q, q < w.heap.size → (q < lo ∨ hi ≤ q) → w'.heap[q]? = w.heap[q]?

theorem Within.refl (w : World) (lo hi : Nat) : Within w w lo hi := ⟨rfl, rfl, rfl, Nat.le_refl _, fun _ _ _ => rfl⟩

theorem Within.trans {w w1 w2 : World} {lo hi : Nat} (h : Within w w1 lo hi) (k : Within w1 w2 lo hi) : Within w w2 lo hi :=
  ⟨k.os.trans h.os, k.tape.trans h.tape, k.output.trans h.output, Nat.le_trans h.size k.size, fun q hq ho => (k.block q (Nat.lt_of_lt_of_le hq h.size) ho).trans (h.block q hq ho)⟩

theorem within_below {w w' : World} {lo hi : Nat} (h : Below w.heap.size w w') : Within w w' lo hi := ⟨h.os, h.tape, h.output, h.size, fun q hq _ => h.block q hq⟩

theorem within_grown {w w' : World} {lo hi : Nat} {r : Option Nat} (h : w.grownBy w' r) (hr : ∀ q, r = some q → lo ≤ q ∧ q < hi) : Within w w' lo hi :=
  ⟨h.os, h.tape, h.output, h.size, fun q hq ho => h.block q hq (fun e => by have := hr q e.symm; omega)⟩

theorem Within.below {w w' : World} {lo hi : Nat} (h : Within w w' lo hi) (hl : lo ≤ w.heap.size) : Below lo w w' :=
  ⟨h.os, h.tape, h.output, h.size, fun q hq => h.block q (Nat.lt_of_lt_of_le hq hl) (.inl hq)⟩

theorem Within.more {w w' : World} {lo hi lo' hi' : Nat} (h : Within w w' lo hi) (h1 : lo' ≤ lo) (h2 : hi ≤ hi') : Within w w' lo' hi' :=
  ⟨h.os, h.tape, h.output, h.size, fun q hq ho => h.block q hq (by omega)⟩

end Go.Proofs.YtogopmngbjkcjatDoor
