/- The marks laid into a row of uploads. Marks laid on a row of texts. The marks laid into a disk. The marks laid into a store, and asked for. The marks of a row of uploads, asked for. Marks of texts that are asked for. The marks of a disk, asked for. -/
import Derived.Test.YtenkpgnkkkgdmauGreatDoorM03
import Derived.Test.YtenkpgnkkkgdmauGreatDoorM06
import Derived.Test.YtenkpgnkkkgdmauGreatDoorM06
import Derived.Test.YtenkpgnkkkgdmauGreatDoorM06
import Derived.Test.YtenkpgnkkkgdmauGreatDoorM06
import Derived.Deep.CutBlock
import Derived.Test.YtenkpgnkkkgdmauGreatDoorM04
import Derived.Deep.RegionWith
namespace Go.Proofs.YtenkpgnkkkgdmauGreatDoor
open Go.RowKit
set_option linter.unusedVariables false

def mbU (k : Nat) : Bool := decide (k % 3 = 0)

theorem mbU_is (k : Nat) : ((k : Int) % 3 == 0) = mbU k := by
  rw [Bool.eq_iff_iff, beq_iff_eq, mbU, decide_eq_true_eq]
  omega

/-- The marks of one upload, from k on. -/
def mkU1 (k : Nat) (e : UE) : UE := { e with u := ⟨mt k, (k : Int) + 1, marks (k + 2) e.n, mbU (k + 2 + e.n)⟩ }

/-- The marks of uploads, from k on. -/
def mkUp : Nat → List UE → List UE
  | _, [] => []
  | k, e :: l => mkU1 k e :: mkUp (k + 3 + e.n) l

/-- The number behind the marks. -/
def mkUEnd : Nat → List UE → Nat
  | k, [] => k
  | k, e :: l => mkUEnd (k + 3 + e.n) l

theorem mkUp_len (k : Nat) (l : List UE) : (mkUp k l).length = l.length := by
  induction l generalizing k with
  | nil => rfl
  | cons e l ih => simp [mkUp, ih]

theorem mkUp_append (k : Nat) (l m : List UE) : mkUp k (l ++ m) = mkUp k l ++ mkUp (mkUEnd k l) m := by
  induction l generalizing k with
  | nil => rfl
  | cons e l ih => simp [mkUp, mkUEnd, ih]

theorem mkUEnd_append (k : Nat) (l m : List UE) : mkUEnd k (l ++ m) = mkUEnd (mkUEnd k l) m := by
  induction l generalizing k with
  | nil => rfl
  | cons e l ih => simp [mkUEnd, ih]

theorem mkUEnd_ge (k : Nat) (l : List UE) : k ≤ mkUEnd k l := by
  induction l generalizing k with
  | nil => exact Nat.le_refl _
  | cons e l ih => have := ih (k + 3 + e.n); simp only [mkUEnd]; omega

theorem mkUEnd_le (k B : Nat) (l : List UE) (h : ∀ e ∈ l, e.n ≤ B) : mkUEnd k l ≤ k + (3 + B) * l.length := by
  induction l generalizing k with
  | nil => simp [mkUEnd]
  | cons e l ih =>
    have h1 := ih (k + 3 + e.n) (fun x hx => h x (List.mem_cons_of_mem _ hx))
    have h2 := h e (List.mem_cons_self ..)
    simp only [mkUEnd, List.length_cons, Nat.mul_add, Nat.mul_one]
    omega

theorem mark_intU (base : Nat) (a : Option Addr) (n cap k : Nat) (kk : Int) (zs : List Int) (w : World) (h : Owns w base a n cap zs) (hn : n ≤ 2199023255552) (hk : k ≤ 2199023255552) (hkk : kk = (k : Int)) :
    Calls Tryz.prog 70 #[.slice a n cap, .int .i64 kk] w fun e w' => e = .returned (.int .i64 ((k + n : Nat) : Int)) ∧ Owns w' base a n cap (marks k n) ∧ Only w w' a := by
  subst hkk
  exact mark_any base a n cap k zs w h hn hk

set_option maxRecDepth 10000 in
set_option maxHeartbeats 3200000 in
theorem markUpS_any (base : Nat) (a : Option Addr) (n cap k : Nat) (l : List UE) (w : World) (h : UpRow w base (.slice a n cap) l) (hn : l.length = n) (hk : mkUEnd k l ≤ 2199023255552) (hnb : n ≤ 1099511627776) (hi : Nat) (hwi : (∀ q, a.map (·.block) = some q → q < hi) ∧ ∀ e ∈ l, ∀ q, e.a.map (·.block) = some q → q < hi) :
    Calls Tryz.prog 35 #[.slice a n cap, .int .i64 (k : Int)] w fun e w' => e = .returned (.int .i64 (mkUEnd k l : Int)) ∧ UpRow w' base (.slice a n cap) (mkUp k l) ∧ Within w w' base hi ∧ KeptT w w' := by
  have HO : Hid (UpRow w base (.slice a n cap) l) := h
  have HN : Hid (l.length = n) := hn
  have HK : Hid (mkUEnd k l ≤ 2199023255552) := hk
  have HHi : Hid ((∀ q, a.map (·.block) = some q → q < hi) ∧ ∀ e ∈ l, ∀ q, e.a.map (·.block) = some q → q < hi) := hwi
  clear h hn hk hwi
  go_enter Tryz.func35, Tryz.ntmps35
  go_wp2
  go_loopw [1, 5] (fun v i wr => ∃ j : Nat, j ≤ n ∧ i = .int .i64 j ∧ v = .int .i64 (mkUEnd k (l.take j) : Int) ∧ Hid (UpRow wr base (.slice a n cap) (mkUp k (l.take j) ++ l.drop j)) ∧ Hid (Within w wr base hi) ∧ Hid (KeptT w wr)) (fun _ i _ => n - (intOf i).toNat)
  case atStart => exact ⟨0, Nat.zero_le _, rfl, rfl, HO, Within.refl _ _ _, KeptT.refl _⟩
  case round =>
    clear HO
    obtain ⟨j, hj, rfl, rfl, HO, HB, HKt⟩ := hrel
    by_cases hlt : j < n
    · have hjl : j < l.length := by have := HN.out; omega
      have hd : l.drop j = l[j] :: l.drop (j + 1) := List.drop_eq_getElem_cons hjl
      have ht : l.take (j + 1) = l.take j ++ [l[j]] := List.take_succ_eq_append_getElem hjl
      have hml : (mkUp k (l.take j)).length = j := by rw [mkUp_len, List.length_take]; omega
      have HEnd : Hid (mkUEnd k (l.take (j + 1)) = mkUEnd k (l.take j) + 3 + (l[j]).n) := by show _ = _; rw [ht, mkUEnd_append]; rfl
      have HFr : Hid (mkUp k (l.take (j + 1)) = mkUp k (l.take j) ++ [mkU1 (mkUEnd k (l.take j)) (l[j])]) := by show _ = _; rw [ht, mkUp_append]; rfl
      have hKb : mkUEnd k (l.take j) + 3 + (l[j]).n ≤ 2199023255552 := by
        have h1 := HK.out
        rw [← List.take_append_drop (j + 1) l, mkUEnd_append] at h1
        have h2 := mkUEnd_ge (mkUEnd k (l.take (j + 1))) (l.drop (j + 1))
        have h3 := HEnd.out
        omega
      have hO := HO.out
      rw [hd] at hO
      have hlen : (mkUp k (l.take j) ++ l[j] :: l.drop (j + 1)).length = n := by rw [List.length_append, hml, List.length_cons, List.length_drop]; have := HN.out; omega
      have hat := hO.at hlen.symm (i := j) (by omega)
      rw [show (mkUp k (l.take j) ++ l[j] :: l.drop (j + 1))[j]'(by omega) = l[j] by rw [List.getElem_append_right (by omega)]; simp [hml]] at hat
      obtain ⟨g, rfl, c0, c1, c2, c3, _⟩ := hat
      have hge := hO.1.lt g rfl
      have hgh : g < hi := HHi.out.1 g rfl
      have HEh : Hid (∀ q, (l[j]).a.map (·.block) = some q → q < hi) := HHi.out.2 _ (List.getElem_mem hjl)
      clear hd ht c0 c1 c2 c3
      generalize mkUp k (l.take j) = M at *
      generalize mkUEnd k (l.take j) = K at *
      obtain ⟨D, hD⟩ : ∃ D, l.drop (j + 1) = D := ⟨_, rfl⟩
      have HD : Hid (l.drop (j + 1) = D) := hD
      rw [hD] at hO hlen
      clear hD
      have HO1 : Hid (UpRow wr base (.slice (some ⟨g, 0, none⟩) n cap) (M ++ l[j] :: D)) := hO
      clear hO HO
      generalize l[j] = e at *
      obtain ⟨⟨eid, ew, ez, ed⟩, ea, en, ec⟩ := e
      dsimp only at *
      have HFr : Hid (mkUp k (l.take (j + 1)) = M ++ [⟨⟨mt K, (K : Int) + 1, marks (K + 2) en, mbU (K + 2 + en)⟩, ea, en, ec⟩]) := HFr.out
      have hKi : (K : Int) ≤ 2199023255552 := by omega
      have hji : (j : Int) < (n : Int) := by omega
      have hlx : ∀ x : UE, (M ++ x :: D).length = n := fun x => by rw [← hlen]; simp
      go_wp2_with fail
      refine (markText_any K _ (by omega)).mono ?_
      rintro _ x1 ⟨rfl, hb1⟩
      have hR1 := HO1.out.stays hb1
      have hG1 : wr.grownBy x1 (some g) := ⟨hb1.os, hb1.tape, hb1.output, hb1.size, fun i hi _ => hb1.block i hi⟩
      have hnm := hR1.numbers (hlx _) (mt K) ((K : Int) + 1)
      have hKt2 : KeptT w ((x1.setCell ⟨g, M.length * 4, none⟩ (.string (mt K))).setCell ⟨g, M.length * 4 + 1, none⟩ (.int .i64 ((K : Int) + 1))) := (HKt.out.trans (keptT_below hb1)).trans (keptT_grown (v := .slice (some ⟨g, 0, none⟩) n cap) hnm.2 hR1.1 (by decide))
      rw [hml] at hKt2
      have HKt2 : Hid (KeptT w ((x1.setCell ⟨g, j * 4, none⟩ (.string (mt K))).setCell ⟨g, j * 4 + 1, none⟩ (.int .i64 ((K : Int) + 1)))) := hKt2
      clear hKt2 HKt
      rw [hml] at hnm
      dsimp only at hnm
      have hat := hR1.at (hlx _).symm (i := j) (by have := hlx ⟨⟨eid, ew, ez, ed⟩, ea, en, ec⟩; omega)
      rw [show (M ++ (⟨⟨eid, ew, ez, ed⟩, ea, en, ec⟩ : UE) :: D)[j]'(by have := hlx ⟨⟨eid, ew, ez, ed⟩, ea, en, ec⟩; omega) = ⟨⟨eid, ew, ez, ed⟩, ea, en, ec⟩ by rw [List.getElem_append_right (by omega)]; simp [hml]] at hat
      obtain ⟨g', hgg, d0, d1, d2, d3, hfr⟩ := hat
      obtain rfl : g = g' := by simpa using hgg
      have h0 := hfr (j * 4)
      have h1 := hfr (j * 4 + 1)
      dsimp only at d0 d1 d2 d3
      have HR2 : Hid (UpRow ((x1.setCell ⟨g, j * 4, none⟩ (.string (mt K))).setCell ⟨g, j * 4 + 1, none⟩ (.int .i64 ((K : Int) + 1))) base (.slice (some ⟨g, 0, none⟩) n cap) (M ++ ⟨⟨mt K, (K : Int) + 1, ez, ed⟩, ea, en, ec⟩ :: D)) := hnm.1
      have HG2 : Hid (wr.grownBy ((x1.setCell ⟨g, j * 4, none⟩ (.string (mt K))).setCell ⟨g, j * 4 + 1, none⟩ (.int .i64 ((K : Int) + 1))) (some g)) := grow_transU hG1 hnm.2
      have HE : Hid (Owns ((x1.setCell ⟨g, j * 4, none⟩ (.string (mt K))).setCell ⟨g, j * 4 + 1, none⟩ (.int .i64 ((K : Int) + 1))) base ea en ec ez) := hnm.1.2.1 ⟨⟨mt K, (K : Int) + 1, ez, ed⟩, ea, en, ec⟩ (List.mem_append_right _ (List.mem_cons_self ..))
      clear hnm hR1 hG1 hb1 hfr hgg HO1
      generalize mt K = T3 at *
      go_wp2_with fail
      refine (mark_intU base ea en ec (K + 2) _ ez _ HE.out (by omega) (by omega) (by omega)).mono ?_
      rintro _ x4 ⟨rfl, hm, hon⟩
      have hO4 : UpRow x4 base (.slice (some ⟨g, 0, none⟩) n cap) (M ++ ⟨⟨T3, (K : Int) + 1, marks (K + 2) en, ed⟩, ea, en, ec⟩ :: D) := HR2.out.bodied (marks (K + 2) en) hm hon
      have hdn := hO4.doned (hlx _) (mbU (K + 2 + en))
      have hKt4 : KeptT w x4 := HKt2.out.trans (keptT_grown (v := .slice ea en ec) (by rw [ownBlock_sU]; exact hon) HE.out.1 (by decide))
      have hKt5 : KeptT w (x4.setCell ⟨g, M.length * 4 + 3, none⟩ (.bool (mbU (K + 2 + en)))) := hKt4.trans (keptT_grown (v := .slice (some ⟨g, 0, none⟩) n cap) hdn.2 hO4.1 (by decide))
      rw [hml] at hKt5
      have HKt5 : Hid (KeptT w (x4.setCell ⟨g, j * 4 + 3, none⟩ (.bool (mbU (K + 2 + en))))) := hKt5
      clear hKt4 hKt5 HKt2
      rw [hml] at hdn
      dsimp only at hdn
      have HB4 : Hid (Within w x4 base hi) := by
        have h1 := HB.out.trans (within_grown HG2.out (fun q e => by injection e with e; omega))
        exact h1.trans (within_grown hon (fun q e => ⟨(HE.out.lt q e).1, HEh.out q e⟩))
      have hat := hO4.at (hlx _).symm (i := j) (by have := hlx ⟨⟨T3, (K : Int) + 1, marks (K + 2) en, ed⟩, ea, en, ec⟩; omega)
      obtain ⟨g', hgg, _, _, _, q3, hfr⟩ := hat
      obtain rfl : g = g' := by simpa using hgg
      have z3 := hfr (j * 4 + 3)
      have HO5 : Hid (UpRow (x4.setCell ⟨g, j * 4 + 3, none⟩ (.bool (mbU (K + 2 + en)))) base (.slice (some ⟨g, 0, none⟩) n cap) (M ++ ⟨⟨T3, (K : Int) + 1, marks (K + 2) en, mbU (K + 2 + en)⟩, ea, en, ec⟩ :: D)) := hdn.1
      have HB5 : Hid (Within w (x4.setCell ⟨g, j * 4 + 3, none⟩ (.bool (mbU (K + 2 + en)))) base hi) := HB4.out.trans (within_grown hdn.2 (fun q e => by injection e with e; omega))
      clear hm hon HE HR2 HG2 HB HB4 d0 d1 d2 d3 h0 h1 hO4 hdn hfr hgg
      obtain ⟨K4, hK4⟩ : ∃ K4, K + 2 + en = K4 := ⟨_, rfl⟩
      have HK4 : Hid (K + 2 + en = K4) := hK4
      rw [hK4] at HO5 HB5 HKt5 ⊢
      have HFr2 : Hid (mkUp k (l.take (j + 1)) = M ++ [⟨⟨T3, (K : Int) + 1, marks (K + 2) en, mbU K4⟩, ea, en, ec⟩]) := by show _ = _; rw [HFr.out, hK4]
      have hmb := mbU_is K4
      have hK4i : (K4 : Int) ≤ 2199023255552 := by omega
      clear hK4 HFr
      go_wp2
      go_roundw
      case rel =>
        refine ⟨j + 1, by omega, by go_num, ?_, ?_, HB5, HKt5⟩
        · rw [HEnd.out]
          have := HK4.out
          go_num
        · show UpRow _ _ _ _
          rw [HFr2.out, List.append_assoc, HD.out]
          exact HO5.out
      case measure => simp [intOf]; omega
    · have hjn : j = n := by omega
      subst hjn
      have hl := HN.out
      have HO2 : Hid (UpRow wr base (.slice a j cap) (mkUp k l)) := by
        have h := HO.out
        rw [List.take_of_length_le (by omega), List.drop_of_length_le (by omega), List.append_nil] at h
        exact h
      have HE : Hid (mkUEnd k (l.take j) = mkUEnd k l) := by show _ = _; rw [List.take_of_length_le (by omega)]
      generalize mkUEnd k (l.take j) = K at *
      go_wp2
      go_ret
      exact ⟨ret_int (by rw [HE.out]), HO2.out, HB.out, HKt.out⟩

end Go.Proofs.YtenkpgnkkkgdmauGreatDoor

namespace Go.Proofs.YtenkpgnkkkgdmauGreatDoor
open Go.RowKit
set_option linter.unusedVariables false

/-- The marks of n texts, from the number k on. -/
def marksS (k n : Nat) : List ByteArray := (List.range n).map fun j => mt (k + j)
theorem marksS_len (k n : Nat) : (marksS k n).length = n := by simp [marksS]
theorem marksS_at (k n j : Nat) (hj : j < n) : (marksS k n)[j]? = some (mt (k + j)) := by simp [marksS, hj]

/-- Texts of which the first j are marked. -/
def smarkTo (k : Nat) (xs : List ByteArray) (j : Nat) : List ByteArray := marksS k j ++ xs.drop j

theorem smarkTo_len (k : Nat) (xs : List ByteArray) (j : Nat) (h : j ≤ xs.length) : (smarkTo k xs j).length = xs.length := by
  simp [smarkTo, marksS_len]
  omega

theorem smarkTo_step (k : Nat) (xs : List ByteArray) (j : Nat) (h : j < xs.length) : (smarkTo k xs j).set j (mt (k + j)) = smarkTo k xs (j + 1) := by
  rw [smarkTo, smarkTo, List.set_append_right j _ (by rw [marksS_len]; exact Nat.le_refl _), marksS_len, Nat.sub_self, List.drop_eq_getElem_cons h, List.set_cons_zero]
  simp [marksS, List.range_succ]

set_option maxRecDepth 10000 in
set_option maxHeartbeats 1600000 in
theorem markStrS_any (base : Nat) (a : Option Addr) (n cap k : Nat) (xs : List ByteArray) (w : World) (h : OwnSt w base (.slice a n cap) n xs) (hn : n ≤ 1099511627776) (hk : k ≤ 1099511627776) :
    Calls Tryz.prog 68 #[.slice a n cap, .int .i64 (k : Int)] w fun e w' => e = .returned (.int .i64 ((k + n : Nat) : Int)) ∧ OwnSt w' base (.slice a n cap) n (marksS k n) ∧ w.grownBy w' (a.map (·.block)) := by
  have hlen := h.len
  have HO0 : Hid (w.ownsRow base 9 1 (.slice a n cap) n (scells (smarkTo k xs 0))) := h.1
  clear h
  go_enter Tryz.func68, Tryz.ntmps68
  go_wp2_with fail
  go_loopw [1, 5] (fun q i wr => ∃ j : Nat, j ≤ n ∧ i = .int .i64 j ∧ q = .int .i64 ((k + j : Nat) : Int) ∧ Hid (wr.ownsRow base 9 1 (.slice a n cap) n (scells (smarkTo k xs j))) ∧ Hid (w.grownBy wr (a.map (·.block)))) (fun _ i _ => n - (intOf i).toNat)
  case atStart => exact ⟨0, Nat.zero_le _, rfl, rfl, HO0, grown_refl _ _⟩
  case round =>
    clear HO0
    obtain ⟨j, hj, rfl, rfl, HO, HG⟩ := hrel
    by_cases hlt : j < n
    · obtain ⟨g, rfl⟩ : ∃ g, a = some ⟨g, 0, none⟩ := by
        rcases HO.out.2 with ⟨_, h0⟩ | ⟨g, cap', cur, he, _⟩
        · omega
        · injection he with e1 _ _
          exact ⟨g, e1⟩
      have hji : (j : Int) < (n : Int) := by omega
      have HM1 : Hid (∀ W, Calls Tryz.prog 69 #[.int .i64 ((k + j : Nat) : Int)] W fun e w' => e = .returned (.string (mt (k + j))) ∧ Below W.heap.size W w') := fun W => markText_any _ W (by omega)
      have HSt : Hid ((smarkTo k xs j).set j (mt (k + j)) = smarkTo k xs (j + 1)) := smarkTo_step k xs j (by omega)
      have HLn : Hid ((smarkTo k xs j).length = n) := by show _ = _; rw [smarkTo_len k xs j (by omega), hlen]
      generalize mt (k + j) = m1 at *
      generalize smarkTo k xs j = L at *
      obtain ⟨K1, hK1⟩ : ∃ K1, k + (j + 1) = K1 := ⟨_, rfl⟩
      obtain ⟨K0, hK0⟩ : ∃ K0, k + j = K0 := ⟨_, rfl⟩
      have hq1 : (K0 : Int) + 1 = (K1 : Int) := by omega
      rw [hK0] at HM1 ⊢
      have HK1 : Hid (k + (j + 1) = K1) := hK1
      have hK0b : (K0 : Int) ≤ 4398046511104 := by omega
      clear hK0 hK1
      go_wp2_with fail
      refine (HM1.out wr).mono ?_
      rintro e x1 ⟨rfl, hb1⟩
      have HO1 : Hid (x1.ownsRow base 9 1 (.slice (some ⟨g, 0, none⟩) n cap) n (scells L)) := own_stays HO.out hb1
      have HG1 : Hid (w.grownBy x1 (some g)) := grown_trans HG.out (grown_below hb1)
      clear hb1 HO HG
      have hln : (scells L).length = n := by rw [scells_len, HLn.out]
      have f0 : x1.frozen? ⟨g, j, none⟩ = false := HO1.out.frozenAt _
      obtain ⟨u0, hu0⟩ : ∃ u, x1.cell? ⟨g, j, none⟩ = some u := by
        rw [HO1.out.cellAt _ (by omega)]
        exact ⟨_, List.getElem?_eq_getElem (by omega)⟩
      have hst := HO1.out.stored j (.string m1)
      have HO4 : Hid ((x1.setCell ⟨g, j, none⟩ (.string m1)).ownsRow base 9 1 (.slice (some ⟨g, 0, none⟩) n cap) n (scells (smarkTo k xs (j + 1)))) := by
        have h1 := hst.1
        rw [scells_set, HSt.out] at h1
        exact h1
      have HG4 : Hid (w.grownBy (x1.setCell ⟨g, j, none⟩ (.string m1)) (some g)) := grown_trans HG1.out hst.2
      clear hst hln HO1 HG1
      go_wp2_with fail
      go_roundw
      case rel => exact ⟨j + 1, by omega, by go_num, by rw [HK1.out], HO4, HG4⟩
      case measure => simp [intOf]; omega
    · have hjn : j = n := by omega
      subst hjn
      go_wp2_with fail
      go_ret
      have hd : smarkTo k xs j = marksS k j := by
        rw [smarkTo, List.drop_eq_nil_of_le (by omega), List.append_nil]
      have h1 := HO.out
      rw [hd] at h1
      refine ⟨rfl, ⟨h1, ?_⟩, HG.out⟩
      intro f hf
      simp only [marksS, List.mem_map, List.mem_range] at hf
      obtain ⟨i, hi, rfl⟩ := hf
      have s1 := mt_size (k + i)
      unfold maxLen
      omega

end Go.Proofs.YtenkpgnkkkgdmauGreatDoor

namespace Go.Proofs.YtenkpgnkkkgdmauGreatDoor
open Go.RowKit
set_option linter.unusedVariables false

theorem blkOf_slice (a : Option Addr) (n c : Nat) : blkOf (.slice a n c) = a.map (·.block) := by cases a <;> rfl

theorem ret_i64 {a b : Int} (h : a = b) : Ending.returned (.int .i64 a) = .returned (.int .i64 b) := by rw [h]

/-- Of all that was there two blocks alone may have changed. -/
def Two (w w' : World) (r r' : Option Nat) : Prop := ∃ w1, w.grownBy w1 r ∧ w1.grownBy w' r'

set_option maxHeartbeats 800000 in
theorem markDisk_any (base : Nat) (a : Option Addr) (n ca : Nat) (xs : List ByteArray) (a' : Option Addr) (n' ca' : Nat) (ys : List ByteArray) (k : Nat) (w : World) (h1 : OwnSt w base (.slice a n ca) n xs) (h2 : OwnSt w base (.slice a' n' ca') n' ys) (hne : ∀ q, a.map (·.block) = some q → a'.map (·.block) ≠ some q) (hn : n ≤ 1073741824) (hn' : n' ≤ 1073741824) (hk : k ≤ 1073741824) :
    Calls Tryz.prog 34 #[.agg #[.slice a n ca, .slice a' n' ca'], .int .i64 (k : Int)] w fun r w' => r = .returned (.int .i64 ((k + n + n' : Nat) : Int)) ∧ OwnSt w' base (.slice a n ca) n (marksS k n) ∧ OwnSt w' base (.slice a' n' ca') n' (marksS (k + n) n') ∧ Two w w' (a.map (·.block)) (a'.map (·.block)) := by
  have HO : Hid (OwnSt w base (.slice a n ca) n xs) := h1
  have HP : Hid (OwnSt w base (.slice a' n' ca') n' ys) := h2
  have HN : Hid (∀ q, a.map (·.block) = some q → a'.map (·.block) ≠ some q) := hne
  clear h1 h2 hne
  have HA : Hid (Box2R (w.alloc (Obj.cells #[Value.slice a n ca, Value.slice a' n' ca'] 29)) w.heap.size 29 (.slice a n ca) (.slice a' n' ca')) := Box2R.new _ _ _ _
  have HB : Hid (Below w.heap.size w (w.alloc (Obj.cells #[Value.slice a n ca, Value.slice a' n' ca'] 29))) := (Below.refl _ _).alloc (Nat.le_refl _) _
  go_enter Tryz.func34, Tryz.ntmps34
  go_wp2_with fail
  refine (markStrS_any base a n ca k xs _ (HO.out.below HB.out) (by omega) (by omega)).mono ?_
  rintro r x1 ⟨rfl, ho1, hg1⟩
  have hlt : ∀ q, a.map (·.block) = some q → q < w.heap.size := fun q hq => (HO.out.lt q (by rw [blkOf_slice]; exact hq)).2
  have HO1 : Hid (OwnSt x1 base (.slice a n ca) n (marksS k n)) := ho1
  have HP1 : Hid (OwnSt x1 base (.slice a' n' ca') n' ys) := (HP.out.below HB.out).kept hg1 (fun q hq => by rw [blkOf_slice]; exact HN.out q hq)
  have HG1 : Hid (w.grownBy x1 (a.map (·.block))) := grown_trans (grown_below HB.out) hg1
  have HA1 : Hid (Box2R x1 w.heap.size 29 (.slice a n ca) (.slice a' n' ca')) := HA.out.grown hg1 (fun e => by have := hlt _ e; omega)
  clear ho1 hg1 hlt HA HB HO HP
  obtain ⟨c0, c1⟩ := HA1.out.cells
  have HM : Hid (Calls Tryz.prog 68 #[.slice a' n' ca', .int .i64 ((k + n : Nat) : Int)] x1 fun e w' => e = .returned (.int .i64 ((k + n + n' : Nat) : Int)) ∧ OwnSt w' base (.slice a' n' ca') n' (marksS (k + n) n') ∧ x1.grownBy w' (a'.map (·.block))) := markStrS_any base a' n' ca' (k + n) ys _ HP1.out (by omega) (by omega)
  obtain ⟨K, hK⟩ : ∃ K, k + n = K := ⟨_, rfl⟩
  rw [hK] at HM ⊢
  have hKb : K ≤ 2147483648 := by omega
  have HK : Hid (k + n = K) := hK
  clear hK
  go_wp2_with fail
  refine HM.out.mono ?_
  rintro r x2 ⟨rfl, ho2, hg2⟩
  have HP2 : Hid (OwnSt x2 base (.slice a' n' ca') n' (marksS K n')) := ho2
  have HO2 : Hid (OwnSt x2 base (.slice a n ca) n (marksS k n)) := HO1.out.kept hg2 (fun q hq e => HN.out q (by rw [blkOf_slice] at e; exact e) hq)
  have HG2 : Hid (Two w x2 (a.map (·.block)) (a'.map (·.block))) := ⟨x1, HG1.out, hg2⟩
  clear ho2 hg2 HM HA1 c0 c1
  obtain ⟨K2, hK2⟩ : ∃ K2, K + n' = K2 := ⟨_, rfl⟩
  have HK2 : Hid (K + n' = K2) := hK2
  rw [hK2]
  clear hK2
  go_wp2_with fail
  go_ret
  exact ⟨ret_i64 (by rw [HK.out, HK2.out]), HO2.out, by rw [HK.out]; exact HP2.out, HG2.out⟩

end Go.Proofs.YtenkpgnkkkgdmauGreatDoor

namespace Go.Proofs.YtenkpgnkkkgdmauGreatDoor
open Go.RowKit
set_option linter.unusedVariables false

/-- The rows of a store with the marks in them, from k on. -/
def StoMkd (W : World) (base k : Nat) (a : Option Addr) (n ca : Nat) (a' : Option Addr) (n' ca' : Nat) (ua : Option Addr) (un uc : Nat) (l : List UE) : Prop :=
  StoAt W base a n ca (marksS k n) a' n' ca' (marksS (k + n) n') ua un uc (mkUp (k + n + n') l)

set_option maxRecDepth 10000 in
set_option maxHeartbeats 1600000 in
theorem markStore_any (base : Nat) (a : Option Addr) (n ca : Nat) (X : List ByteArray) (a' : Option Addr) (n' ca' : Nat) (Y : List ByteArray) (ep nx : Int) (ua : Option Addr) (un uc : Nat) (l : List UE) (k : Nat) (w : World) (h : StoAt w base a n ca X a' n' ca' Y ua un uc l) (hn : n ≤ 2097152) (hn' : n' ≤ 2097152) (hk : k ≤ 1073741824) (hul : un ≤ 1099511627776) (hkE : mkUEnd (k + n + n') l ≤ 2199023255552) (hi : Nat) (hwi : StoIn a a' ua l hi) :
    Calls Tryz.prog 11 #[.agg #[.slice a n ca, .slice a' n' ca', .int .i64 ep, .int .i64 nx, .slice ua un uc], .int .i64 (k : Int)] w fun r w' => r = .returned (.int .i64 (mkUEnd (k + n + n') l : Int)) ∧ StoMkd w' base k a n ca a' n' ca' ua un uc l ∧ Within w w' base hi := by
  have HHi : Hid (StoIn a a' ua l hi) := hwi
  clear hwi
  have HS : Hid (StoAt w base a n ca X a' n' ca' Y ua un uc l) := h
  have HK : Hid (mkUEnd (k + n + n') l ≤ 2199023255552) := hkE
  clear h hkE
  have HA : Hid (BoxN (w.alloc (.cells #[.slice a n ca, .slice a' n' ca', .int .i64 ep, .int .i64 nx, .slice ua un uc] 32)) w.heap.size 32 [.slice a n ca, .slice a' n' ca', .int .i64 ep, .int .i64 nx, .slice ua un uc]) := BoxN.new _ _ _
  have HB : Hid (Below w.heap.size w (w.alloc (.cells #[.slice a n ca, .slice a' n' ca', .int .i64 ep, .int .i64 nx, .slice ua un uc] 32))) := (Below.refl _ _).alloc (Nat.le_refl _) _
  go_enter Tryz.func11, Tryz.ntmps11
  go_wp2_with fail
  obtain ⟨w0, hw0⟩ : ∃ w0, w.alloc (.cells #[.slice a n ca, .slice a' n' ca', .int .i64 ep, .int .i64 nx, .slice ua un uc] 32) = w0 := ⟨_, rfl⟩
  rw [hw0] at HA HB ⊢
  clear hw0
  have HS0 : Hid (StoAt w0 base a n ca X a' n' ca' Y ua un uc l) := HS.out.stays HB.out
  have hww : w.heap.size < w0.heap.size := HA.out.lt
  refine (markDisk_any base a n ca X a' n' ca' Y k w0 HS0.out.now HS0.out.sure HS0.out.apart (by omega) (by omega) hk).mono ?_
  rintro _ x1 ⟨rfl, ho1, ho2, h2⟩
  have HT : Hid (Two w0 x1 (a.map (·.block)) (a'.map (·.block))) := h2
  have hU1 : UpRow x1 base (.slice ua un uc) l := by
    obtain ⟨y, g1, g2⟩ := h2
    have hy := HS0.out.ups.keptS HS0.out.now g1
    have hy2 : OwnSt y base (.slice a' n' ca') n' Y := HS0.out.sure.kept g1 (fun q hq hq2 => by rw [blk_own] at hq2; exact HS0.out.apart q hq hq2)
    exact hy.keptS hy2 g2
  have HB1 : Hid (Within w x1 base hi) := by
    obtain ⟨y, g1, g2⟩ := h2
    exact ((within_below HB.out).trans (within_grown g1 (fun q hq => ⟨(HS0.out.now.lt q (by rw [blk_own]; exact hq)).1, HHi.out.1 q hq⟩))).trans (within_grown g2 (fun q hq => ⟨(HS0.out.sure.lt q (by rw [blk_own]; exact hq)).1, HHi.out.2.1 q hq⟩))
  have hA1 : BoxN x1 w.heap.size 32 [.slice a n ca, .slice a' n' ca', .int .i64 ep, .int .i64 nx, .slice ua un uc] := by
    obtain ⟨y, g1, g2⟩ := h2
    refine (HA.out.grown g1 (fun e => ?_)).grown g2 (fun e => ?_)
    · have h9 := HS.out.now.lt w.heap.size (by rw [blk_own]; exact e); omega
    · have h9 := HS.out.sure.lt w.heap.size (by rw [blk_own]; exact e); omega
  have c4 := hA1.cell 4 rfl
  have HD1 : Hid (OwnSt x1 base (.slice a n ca) n (marksS k n) ∧ OwnSt x1 base (.slice a' n' ca') n' (marksS (k + n) n') ∧ UpRow x1 base (.slice ua un uc) l) := ⟨ho1, ho2, hU1⟩
  obtain ⟨K, hK⟩ : ∃ K, k + n + n' = K := ⟨_, rfl⟩
  have HKe : Hid (k + n + n' = K) := hK
  rw [hK] at HK ⊢
  have hKb : (K : Int) ≤ 2199023255552 := by have := HKe.out; omega
  clear hK ho1 ho2 h2 hU1 hA1
  go_wp2_with fail
  refine (markUpS_any base ua un uc K l x1 HD1.out.2.2 HS.out.len.symm HK.out hul hi HHi.out.2.2).mono ?_
  rintro _ x2 ⟨rfl, hu2, hb2, hk2⟩
  have HR : Hid (StoMkd x2 base k a n ca a' n' ca' ua un uc l ∧ Within w x2 base hi) := by
    refine ⟨⟨HD1.out.1.keptT hk2, HD1.out.2.1.keptT hk2, HS.out.apart, ?_, ?_⟩, HB1.out.trans hb2⟩
    · rw [HKe.out]; exact hu2
    · rw [mkUp_len]; exact HS.out.len
  obtain ⟨E, hE⟩ : ∃ E, mkUEnd K l = E := ⟨_, rfl⟩
  have HEe : Hid (mkUEnd K l = E) := hE
  rw [hE]
  clear hE hu2 hb2 hk2
  go_wp2_with fail
  go_ret
  exact ⟨ret_i64 (by rw [HKe.out, HEe.out]), HR.out.1, HR.out.2⟩

section
variable {W W' : World} {lo b : Nat} {a : Option Addr} {n ca : Nat} {X : List ByteArray} {a' : Option Addr} {n' ca' : Nat} {Y : List ByteArray} {ep nx : Int} {ua : Option Addr} {un uc : Nat} {l : List UE}

/-- The marks are in it. -/
theorem SAt.marked {k : Nat} (h : SAt W lo b a n ca X a' n' ca' Y ep nx ua un uc l) (hm : StoMkd W' lo k a n ca a' n' ca' ua un uc l) (hw : Within W W' lo b) : BoxN W' b 32 [.slice a n ca, .slice a' n' ca', .int .i64 ep, .int .i64 nx, .slice ua un uc] ∧ StoMkd W' lo k a n ca a' n' ca' ua un uc l :=
  ⟨(hw.block b h.box.lt (.inr (Nat.le_refl _))).trans h.box, hm⟩
end

end Go.Proofs.YtenkpgnkkkgdmauGreatDoor

namespace Go.Proofs.YtenkpgnkkkgdmauGreatDoor
open Go.RowKit
set_option linter.unusedVariables false

theorem held_intU (base : Nat) (a : Option Addr) (n cap k : Nat) (kk : Int) (w : World) (h : Owns w base a n cap (marks k n)) (hn : n ≤ 2199023255552) (hk : k ≤ 2199023255552) (hkk : kk = (k : Int)) :
    Calls Tryz.prog 72 #[.slice a n cap, .int .i64 kk] w fun e w' => e = .returned (.int .i64 ((k + n : Nat) : Int)) ∧ w' = w := by
  subst hkk
  exact held_any base a n cap k w h hn hk

set_option maxRecDepth 10000 in
set_option maxHeartbeats 3200000 in
theorem heldUpS_any (base : Nat) (a : Option Addr) (n cap k : Nat) (l : List UE) (w : World) (h : UpRow w base (.slice a n cap) (mkUp k l)) (hn : l.length = n) (hk : mkUEnd k l ≤ 2199023255552) (hnb : n ≤ 1099511627776) :
    Calls Tryz.prog 37 #[.slice a n cap, .int .i64 (k : Int)] w fun e w' => e = .returned (.int .i64 (mkUEnd k l : Int)) ∧ Below w.heap.size w w' := by
  have HO : Hid (UpRow w base (.slice a n cap) (mkUp k l)) := h
  have HN : Hid (l.length = n) := hn
  have HK : Hid (mkUEnd k l ≤ 2199023255552) := hk
  clear h hn hk
  go_enter Tryz.func37, Tryz.ntmps37
  go_wp2
  go_loopw [1, 5] (fun v i wr => ∃ j : Nat, j ≤ n ∧ i = .int .i64 j ∧ v = .int .i64 (mkUEnd k (l.take j) : Int) ∧ Hid (Below w.heap.size w wr)) (fun _ i _ => n - (intOf i).toNat)
  case atStart => exact ⟨0, Nat.zero_le _, rfl, rfl, Below.refl _ _⟩
  case round =>
    obtain ⟨j, hj, rfl, rfl, HW⟩ := hrel
    by_cases hlt : j < n
    · have hjl : j < l.length := by have := HN.out; omega
      have ht : l.take (j + 1) = l.take j ++ [l[j]] := List.take_succ_eq_append_getElem hjl
      have hml : (mkUp k (l.take j)).length = j := by rw [mkUp_len, List.length_take]; omega
      have HEnd : Hid (mkUEnd k (l.take (j + 1)) = mkUEnd k (l.take j) + 3 + (l[j]).n) := by show _ = _; rw [ht, mkUEnd_append]; rfl
      have hKb : mkUEnd k (l.take j) + 3 + (l[j]).n ≤ 2199023255552 := by
        have h1 := HK.out
        rw [← List.take_append_drop (j + 1) l, mkUEnd_append] at h1
        have h2 := mkUEnd_ge (mkUEnd k (l.take (j + 1))) (l.drop (j + 1))
        have h3 := HEnd.out
        omega
      have hFr : mkUp k l = mkUp k (l.take j) ++ mkU1 (mkUEnd k (l.take j)) (l[j]) :: mkUp (mkUEnd k (l.take j) + 3 + (l[j]).n) (l.drop (j + 1)) := by
        have hd : l = l.take j ++ l[j] :: l.drop (j + 1) := by rw [← List.drop_eq_getElem_cons hjl]; exact (List.take_append_drop j l).symm
        rw [show mkUp k l = mkUp k (l.take j ++ l[j] :: l.drop (j + 1)) from congrArg (mkUp k) hd, mkUp_append]
        rfl
      have hlen : (mkUp k l).length = n := by rw [mkUp_len]; exact HN.out
      have hge : (mkUp k l)[j]'(by omega) = mkU1 (mkUEnd k (l.take j)) (l[j]) := by
        have h1 : (mkUp k l)[j]? = some (mkU1 (mkUEnd k (l.take j)) (l[j])) := by
          rw [hFr, List.getElem?_append_right (by omega), hml, Nat.sub_self]
          rfl
        rw [List.getElem?_eq_getElem (by omega)] at h1
        exact Option.some.inj h1
      have HAt : Hid (∀ W, Below w.heap.size w W → ∃ g, a = some ⟨g, 0, none⟩ ∧ W.cell? ⟨g, j * 4, none⟩ = some (.string (mt (mkUEnd k (l.take j)))) ∧ W.cell? ⟨g, j * 4 + 1, none⟩ = some (.int .i64 ((mkUEnd k (l.take j) : Int) + 1)) ∧ W.cell? ⟨g, j * 4 + 2, none⟩ = some (.slice (l[j]).a (l[j]).n (l[j]).c) ∧ W.cell? ⟨g, j * 4 + 3, none⟩ = some (.bool (mbU (mkUEnd k (l.take j) + 2 + (l[j]).n))) ∧ Owns W base (l[j]).a (l[j]).n (l[j]).c (marks (mkUEnd k (l.take j) + 2) (l[j]).n)) := fun W hb => by
        have hO := HO.out.stays hb
        have hat := hO.at hlen.symm (i := j) (by omega)
        have hin := hO.2.1 ((mkUp k l)[j]'(by omega)) (List.getElem_mem _)
        rw [hge] at hat hin
        obtain ⟨g, h1, h2, h3, h4, h5, _⟩ := hat
        exact ⟨g, h1, h2, h3, h4, h5, hin⟩
      clear hge hFr ht hml hlen
      generalize mkUEnd k (l.take j) = K at *
      generalize l[j] = e at *
      obtain ⟨r, ea, en, ec⟩ := e
      dsimp only at *
      obtain ⟨g, rfl, _⟩ := HAt.out _ HW.out
      have hKi : (K : Int) ≤ 2199023255552 := by omega
      have hji : (j : Int) < (n : Int) := by omega
      have hj0 : (0 : Int) ≤ (j : Int) := by omega
      have hC : ∀ P : Past wr, P.world.cell? ⟨g, j * 4, none⟩ = some (.string (mt K)) := fun P => by
        obtain ⟨g', hg, h1, _⟩ := HAt.out _ (HW.out.trans (P.below.mono HW.out.size))
        injection hg with hg
        injection hg with hg
        subst hg
        exact h1
      have HTx : Hid (∀ P : Past wr, Calls Tryz.prog 69 #[.int .i64 (K : Int)] P.world fun e w' => e = .returned (.string (mt K)) ∧ Below P.world.heap.size P.world w') := fun P => markText_any K P.world (by omega)
      have hnp := past_some wr
      generalize mt K = T3 at *
      have n3 : (T3.toList != T3.toList) = false := by simp
      go_wp2_with fail
      refine wp_region_past (by kernel_rfl) (by kernel_rfl) ?_
      repeat (quiet_step ((first | (go_at_call 69; with_reducible exact calls_past (HTx.out _)) | fail)))
      refine wpQuiet_nil ?_
      rintro _ ⟨z, rfl⟩
      have HB2 : Hid (Below w.heap.size w z.world) := HW.out.trans (z.below.mono HW.out.size)
      obtain ⟨x1, hx1⟩ : ∃ x1, z.world = x1 := ⟨_, rfl⟩
      rw [hx1] at HB2 ⊢
      clear hx1 z hnp hC HTx HW
      obtain ⟨g', hg, _, c1, c2, c3, ho⟩ := HAt.out _ HB2.out
      injection hg with hg
      injection hg with hg
      subst hg
      have HE : Hid (Owns x1 base ea en ec (marks (K + 2) en)) := ho
      have n1 : ((K : Int) + 1 != (K : Int) + 1) = false := by simp
      clear ho HAt
      go_wp2_with fail
      refine (held_intU base ea en ec (K + 2) _ _ HE.out (by omega) (by omega) (by omega)).mono ?_
      rintro _ x1 ⟨rfl, rfl⟩
      obtain ⟨K4, hK4⟩ : ∃ K4, K + 2 + en = K4 := ⟨_, rfl⟩
      have HK4 : Hid (K + 2 + en = K4) := hK4
      rw [hK4] at c3 ⊢
      have hmb := mbU_is K4
      have hK4i : (K4 : Int) ≤ 2199023255552 := by omega
      have hK4p : ¬ (K4 : Int) < 0 := by omega
      have n4 : (mbU K4 != mbU K4) = false := by simp
      clear hK4
      go_wp2
      go_roundw
      case rel =>
        refine ⟨j + 1, by omega, by go_num, ?_, HB2⟩
        rw [HEnd.out]
        have := HK4.out
        go_num
      case measure => simp [intOf]; omega
    · have hjn : j = n := by omega
      subst hjn
      have hl := HN.out
      have HE : Hid (mkUEnd k (l.take j) = mkUEnd k l) := by show _ = _; rw [List.take_of_length_le (by omega)]
      generalize mkUEnd k (l.take j) = K at *
      go_wp2
      go_ret
      exact ⟨ret_int (by rw [HE.out]), HW.out⟩

end Go.Proofs.YtenkpgnkkkgdmauGreatDoor

namespace Go.Proofs.YtenkpgnkkkgdmauGreatDoor
open Go.RowKit
set_option linter.unusedVariables false

set_option maxRecDepth 10000 in
set_option maxHeartbeats 1600000 in
theorem heldStrS_any (a : Option Addr) (n cap k : Nat) (w : World) (h : Strs w a n (marksS k n)) (hn : n ≤ 1099511627776) (hk : k ≤ 1099511627776) :
    Calls Tryz.prog 71 #[.slice a n cap, .int .i64 (k : Int)] w fun e w' => e = .returned (.int .i64 ((k + n : Nat) : Int)) ∧ Below w.heap.size w w' := by
  have HX : Hid (Strs w a n (marksS k n)) := h
  clear h
  go_enter Tryz.func71, Tryz.ntmps71
  go_wp2_with fail
  go_loopw [1, 5] (fun q i wr => ∃ j : Nat, j ≤ n ∧ i = .int .i64 j ∧ q = .int .i64 ((k + j : Nat) : Int) ∧ Hid (Below w.heap.size w wr)) (fun _ i _ => n - (intOf i).toNat)
  case atStart => exact ⟨0, Nat.zero_le _, rfl, rfl, Below.refl _ _⟩
  case round =>
    obtain ⟨j, hj, rfl, rfl, HB⟩ := hrel
    by_cases hlt : j < n
    · obtain ⟨b, off, x, rfl, hb, hfx, hc0⟩ := (HX.out.below HB.out).at hlt
      obtain rfl : x = mt (k + j) := by
        rw [marksS_at k n j hlt] at hfx
        simp at hfx
        exact hfx.symm
      have hji : (j : Int) < (n : Int) := by omega
      have HM1 : Hid (∀ W, Calls Tryz.prog 69 #[.int .i64 ((k + j : Nat) : Int)] W fun e w' => e = .returned (.string (mt (k + j))) ∧ Below W.heap.size W w') := fun W => markText_any _ W (by omega)
      generalize mt (k + j) = m1 at *
      obtain ⟨K1, hK1⟩ : ∃ K1, k + (j + 1) = K1 := ⟨_, rfl⟩
      obtain ⟨K0, hK0⟩ : ∃ K0, k + j = K0 := ⟨_, rfl⟩
      have hq1 : (K0 : Int) + 1 = (K1 : Int) := by omega
      rw [hK0] at HM1 ⊢
      have HK1 : Hid (k + (j + 1) = K1) := hK1
      have hK0b : (K0 : Int) ≤ 4398046511104 := by omega
      clear hK0 hK1 hfx
      have hne1 : (m1.toList != m1.toList) = false := by simp
      have HC : Hid (∀ W, Below wr.heap.size wr W → W.cell? ⟨b, off + j, none⟩ = some (.string m1) ∧ Below w.heap.size w W) := fun W hW => ⟨(hW.cell (p := ⟨b, _, none⟩) hb).trans hc0, HB.out.trans (hW.mono HB.out.size)⟩
      go_wp2_with fail
      go_region_with (first
        | (go_at_call 69; refine (HM1.out _).mono ?_; rintro e x1 ⟨rfl, hb1⟩; have hb1' : Below wr.heap.size wr x1 := (Below.refl wr.heap.size wr).drew.trans (hb1.mono (Nat.le_refl _)); obtain ⟨k0, k2⟩ := HC.out x1 hb1'))
      all_goals
        have HB3 : Hid (Below w.heap.size w x1) := k2
        clear hb1 hb1' k0 k2 hc0
        go_wp2_with fail
        go_roundw
        case rel => exact ⟨j + 1, by omega, by go_num, by rw [HK1.out], HB3⟩
        case measure => simp [intOf]; omega
    · have hjn : j = n := by omega
      subst hjn
      go_wp2_with fail
      go_ret
      exact ⟨rfl, HB.out⟩

end Go.Proofs.YtenkpgnkkkgdmauGreatDoor

namespace Go.Proofs.YtenkpgnkkkgdmauGreatDoor
open Go.RowKit
set_option linter.unusedVariables false

set_option maxHeartbeats 800000 in
theorem heldDisk_any (a : Option Addr) (n ca : Nat) (a' : Option Addr) (n' ca' : Nat) (k : Nat) (w : World) (h1 : Strs w a n (marksS k n)) (h2 : Strs w a' n' (marksS (k + n) n')) (hn : n ≤ 1073741824) (hn' : n' ≤ 1073741824) (hk : k ≤ 1073741824) :
    Calls Tryz.prog 36 #[.agg #[.slice a n ca, .slice a' n' ca'], .int .i64 (k : Int)] w fun r w' => r = .returned (.int .i64 ((k + n + n' : Nat) : Int)) ∧ Below w.heap.size w w' := by
  have HX : Hid (∀ W, Below w.heap.size w W → Strs W a n (marksS k n) ∧ Strs W a' n' (marksS (k + n) n')) := fun W h => ⟨h1.below h, h2.below h⟩
  clear h1 h2
  have HA : Hid (Box2R (w.alloc (Obj.cells #[Value.slice a n ca, Value.slice a' n' ca'] 29)) w.heap.size 29 (.slice a n ca) (.slice a' n' ca')) := Box2R.new _ _ _ _
  have HB : Hid (Below w.heap.size w (w.alloc (Obj.cells #[Value.slice a n ca, Value.slice a' n' ca'] 29))) := (Below.refl _ _).alloc (Nat.le_refl _) _
  go_enter Tryz.func36, Tryz.ntmps36
  go_wp2_with fail
  refine (heldStrS_any a n ca k _ (HX.out _ HB.out).1 (by omega) (by omega)).mono ?_
  rintro r x1 ⟨rfl, hb1⟩
  have HB1 : Hid (Below w.heap.size w x1) := HB.out.trans (hb1.mono HB.out.size)
  obtain ⟨c0, c1⟩ := (HA.out.stays hb1).cells
  clear hb1 HA HB
  have HM : Hid (Calls Tryz.prog 71 #[.slice a' n' ca', .int .i64 ((k + n : Nat) : Int)] x1 fun e w' => e = .returned (.int .i64 ((k + n + n' : Nat) : Int)) ∧ Below x1.heap.size x1 w') := heldStrS_any a' n' ca' (k + n) _ (HX.out _ HB1.out).2 (by omega) (by omega)
  clear HX
  obtain ⟨K, hK⟩ : ∃ K, k + n = K := ⟨_, rfl⟩
  rw [hK] at HM ⊢
  have hp1 : ¬ (K : Int) < 0 := by omega
  have hp1d : decide ((K : Int) < 0) = false := by simp
  have HK : Hid (k + n = K) := hK
  clear hK
  go_wp2_with fail
  refine HM.out.mono ?_
  rintro r x2 ⟨rfl, hb2⟩
  have HB2 : Hid (Below w.heap.size w x2) := HB1.out.trans (hb2.mono HB1.out.size)
  clear hb2 HM HB1 c0 c1
  obtain ⟨K2, hK2⟩ : ∃ K2, K + n' = K2 := ⟨_, rfl⟩
  have HK2 : Hid (K + n' = K2) := hK2
  rw [hK2]
  have hp2 : ¬ (K2 : Int) < 0 := by omega
  have hp2d : decide ((K2 : Int) < 0) = false := by simp
  clear hK2
  go_wp2_with fail
  go_ret
  exact ⟨ret_i64 (by rw [HK.out, HK2.out]), HB2.out⟩

end Go.Proofs.YtenkpgnkkkgdmauGreatDoor
