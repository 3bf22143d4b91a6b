/- The marks laid into a row of uploads. Marks laid on a row of texts. The marks laid into a disk. The marks laid into a store, and asked for. The marks of a row of uploads, asked for. Marks of texts that are asked for. The marks of a disk, asked for. The marks of a store, asked for. The walk of the law FnExactMakeUp; under contracts of both functions. A disk that comes in: its two rows of texts. -/
import Derived.Test.YtammmecddnafaaaGreatDoorM03
import Derived.Test.YtammmecddnafaaaGreatDoorM05
import Derived.Test.YtammmecddnafaaaGreatDoorM05
import Derived.Test.YtammmecddnafaaaGreatDoorM05
import Derived.Test.YtammmecddnafaaaGreatDoorM05
import Derived.Deep.CutBlock
import Derived.Test.YtammmecddnafaaaGreatDoorM04
import Derived.Deep.RegionWith
import Derived.Deep.RegionHeld3
import Derived.Lib.SmallJoins
import Derived.OpenShut
import Derived.ChangeOld
import Derived.WalkKit
import Derived.ProofKit
import Derived.Deep.Slices
namespace Go.Proofs.YtammmecddnafaaaGreatDoor
open Go.RowKit
set_option linter.unusedVariables false

def mbU (k : Nat) : Bool := decide (k % 3 = 0)

theorem mbU_is (k : Nat) : ((k : Int) % 3 == 0) = mbU k := by
  rw [Bool.eq_iff_iff, beq_iff_eq, mbU, decide_eq_true_eq]
  omega

/-- The marks of one upload, from k on. -/
def mkU1 (k : Nat) (e : UE) : UE := { e with u := ⟨mt k, (k : Int) + 1, marks (k + 2) e.n, mbU (k + 2 + e.n)⟩ }

/-- The marks of uploads, from k on. -/
def mkUp : Nat → List UE → List UE
  | _, [] => []
  | k, e :: l => mkU1 k e :: mkUp (k + 3 + e.n) l

/-- The number behind the marks. -/
def mkUEnd : Nat → List UE → Nat
  | k, [] => k
  | k, e :: l => mkUEnd (k + 3 + e.n) l

theorem mkUp_len (k : Nat) (l : List UE) : (mkUp k l).length = l.length := by
  induction l generalizing k with
  | nil => rfl
  | cons e l ih => simp [mkUp, ih]

theorem mkUp_append (k : Nat) (l m : List UE) : mkUp k (l ++ m) = mkUp k l ++ mkUp (mkUEnd k l) m := by
  induction l generalizing k with
  | nil => rfl
  | cons e l ih => simp [mkUp, mkUEnd, ih]

theorem mkUEnd_append (k : Nat) (l m : List UE) : mkUEnd k (l ++ m) = mkUEnd (mkUEnd k l) m := by
  induction l generalizing k with
  | nil => rfl
  | cons e l ih => simp [mkUEnd, ih]

theorem mkUEnd_ge (k : Nat) (l : List UE) : k ≤ mkUEnd k l := by
  induction l generalizing k with
  | nil => exact Nat.le_refl _
  | cons e l ih => have := ih (k + 3 + e.n); simp only [mkUEnd]; omega

theorem mkUEnd_le (k B : Nat) (l : List UE) (h : ∀ e ∈ l, e.n ≤ B) : mkUEnd k l ≤ k + (3 + B) * l.length := by
  induction l generalizing k with
  | nil => simp [mkUEnd]
  | cons e l ih =>
    have h1 := ih (k + 3 + e.n) (fun x hx => h x (List.mem_cons_of_mem _ hx))
    have h2 := h e (List.mem_cons_self ..)
    simp only [mkUEnd, List.length_cons, Nat.mul_add, Nat.mul_one]
    omega

theorem mark_intU (base : Nat) (a : Option Addr) (n cap k : Nat) (kk : Int) (zs : List Int) (w : World) (h : Owns w base a n cap zs) (hn : n ≤ 2199023255552) (hk : k ≤ 2199023255552) (hkk : kk = (k : Int)) :
    Calls Tryz.prog 18 #[.slice a n cap, .int .i64 kk] w fun e w' => e = .returned (.int .i64 ((k + n : Nat) : Int)) ∧ Owns w' base a n cap (marks k n) ∧ Only w w' a := by
  subst hkk
  exact mark_any base a n cap k zs w h hn hk

set_option maxRecDepth 10000 in
set_option maxHeartbeats 3200000 in
theorem markUpS_any (base : Nat) (a : Option Addr) (n cap k : Nat) (l : List UE) (w : World) (h : UpRow w base (.slice a n cap) l) (hn : l.length = n) (hk : mkUEnd k l ≤ 2199023255552) (hnb : n ≤ 1099511627776) (hi : Nat) (hwi : (∀ q, a.map (·.block) = some q → q < hi) ∧ ∀ e ∈ l, ∀ q, e.a.map (·.block) = some q → q < hi) :
    Calls Tryz.prog 40 #[.slice a n cap, .int .i64 (k : Int)] w fun e w' => e = .returned (.int .i64 (mkUEnd k l : Int)) ∧ UpRow w' base (.slice a n cap) (mkUp k l) ∧ Within w w' base hi ∧ KeptT w w' := by
  have HO : Hid (UpRow w base (.slice a n cap) l) := h
  have HN : Hid (l.length = n) := hn
  have HK : Hid (mkUEnd k l ≤ 2199023255552) := hk
  have HHi : Hid ((∀ q, a.map (·.block) = some q → q < hi) ∧ ∀ e ∈ l, ∀ q, e.a.map (·.block) = some q → q < hi) := hwi
  clear h hn hk hwi
  go_enter Tryz.func40, Tryz.ntmps40
  go_wp2
  go_loopw [1, 5] (fun v i wr => ∃ j : Nat, j ≤ n ∧ i = .int .i64 j ∧ v = .int .i64 (mkUEnd k (l.take j) : Int) ∧ Hid (UpRow wr base (.slice a n cap) (mkUp k (l.take j) ++ l.drop j)) ∧ Hid (Within w wr base hi) ∧ Hid (KeptT w wr)) (fun _ i _ => n - (intOf i).toNat)
  case atStart => exact ⟨0, Nat.zero_le _, rfl, rfl, HO, Within.refl _ _ _, KeptT.refl _⟩
  case round =>
    clear HO
    obtain ⟨j, hj, rfl, rfl, HO, HB, HKt⟩ := hrel
    by_cases hlt : j < n
    · have hjl : j < l.length := by have := HN.out; omega
      have hd : l.drop j = l[j] :: l.drop (j + 1) := List.drop_eq_getElem_cons hjl
      have ht : l.take (j + 1) = l.take j ++ [l[j]] := List.take_succ_eq_append_getElem hjl
      have hml : (mkUp k (l.take j)).length = j := by rw [mkUp_len, List.length_take]; omega
      have HEnd : Hid (mkUEnd k (l.take (j + 1)) = mkUEnd k (l.take j) + 3 + (l[j]).n) := by show _ = _; rw [ht, mkUEnd_append]; rfl
      have HFr : Hid (mkUp k (l.take (j + 1)) = mkUp k (l.take j) ++ [mkU1 (mkUEnd k (l.take j)) (l[j])]) := by show _ = _; rw [ht, mkUp_append]; rfl
      have hKb : mkUEnd k (l.take j) + 3 + (l[j]).n ≤ 2199023255552 := by
        have h1 := HK.out
        rw [← List.take_append_drop (j + 1) l, mkUEnd_append] at h1
        have h2 := mkUEnd_ge (mkUEnd k (l.take (j + 1))) (l.drop (j + 1))
        have h3 := HEnd.out
        omega
      have hO := HO.out
      rw [hd] at hO
      have hlen : (mkUp k (l.take j) ++ l[j] :: l.drop (j + 1)).length = n := by rw [List.length_append, hml, List.length_cons, List.length_drop]; have := HN.out; omega
      have hat := hO.at hlen.symm (i := j) (by omega)
      rw [show (mkUp k (l.take j) ++ l[j] :: l.drop (j + 1))[j]'(by omega) = l[j] by rw [List.getElem_append_right (by omega)]; simp [hml]] at hat
      obtain ⟨g, rfl, c0, c1, c2, c3, _⟩ := hat
      have hge := hO.1.lt g rfl
      have hgh : g < hi := HHi.out.1 g rfl
      have HEh : Hid (∀ q, (l[j]).a.map (·.block) = some q → q < hi) := HHi.out.2 _ (List.getElem_mem hjl)
      clear hd ht c0 c1 c2 c3
      generalize mkUp k (l.take j) = M at *
      generalize mkUEnd k (l.take j) = K at *
      obtain ⟨D, hD⟩ : ∃ D, l.drop (j + 1) = D := ⟨_, rfl⟩
      have HD : Hid (l.drop (j + 1) = D) := hD
      rw [hD] at hO hlen
      clear hD
      have HO1 : Hid (UpRow wr base (.slice (some ⟨g, 0, none⟩) n cap) (M ++ l[j] :: D)) := hO
      clear hO HO
      generalize l[j] = e at *
      obtain ⟨⟨eid, ew, ez, ed⟩, ea, en, ec⟩ := e
      dsimp only at *
      have HFr : Hid (mkUp k (l.take (j + 1)) = M ++ [⟨⟨mt K, (K : Int) + 1, marks (K + 2) en, mbU (K + 2 + en)⟩, ea, en, ec⟩]) := HFr.out
      have hKi : (K : Int) ≤ 2199023255552 := by omega
      have hji : (j : Int) < (n : Int) := by omega
      have hlx : ∀ x : UE, (M ++ x :: D).length = n := fun x => by rw [← hlen]; simp
      go_wp2_with fail
      refine (markText_any K _ (by omega)).mono ?_
      rintro _ x1 ⟨rfl, hb1⟩
      have hR1 := HO1.out.stays hb1
      have hG1 : wr.grownBy x1 (some g) := ⟨hb1.os, hb1.tape, hb1.output, hb1.size, fun i hi _ => hb1.block i hi⟩
      have hnm := hR1.numbers (hlx _) (mt K) ((K : Int) + 1)
      have hKt2 : KeptT w ((x1.setCell ⟨g, M.length * 4, none⟩ (.string (mt K))).setCell ⟨g, M.length * 4 + 1, none⟩ (.int .i64 ((K : Int) + 1))) := (HKt.out.trans (keptT_below hb1)).trans (keptT_grown (v := .slice (some ⟨g, 0, none⟩) n cap) hnm.2 hR1.1 (by decide))
      rw [hml] at hKt2
      have HKt2 : Hid (KeptT w ((x1.setCell ⟨g, j * 4, none⟩ (.string (mt K))).setCell ⟨g, j * 4 + 1, none⟩ (.int .i64 ((K : Int) + 1)))) := hKt2
      clear hKt2 HKt
      rw [hml] at hnm
      dsimp only at hnm
      have hat := hR1.at (hlx _).symm (i := j) (by have := hlx ⟨⟨eid, ew, ez, ed⟩, ea, en, ec⟩; omega)
      rw [show (M ++ (⟨⟨eid, ew, ez, ed⟩, ea, en, ec⟩ : UE) :: D)[j]'(by have := hlx ⟨⟨eid, ew, ez, ed⟩, ea, en, ec⟩; omega) = ⟨⟨eid, ew, ez, ed⟩, ea, en, ec⟩ by rw [List.getElem_append_right (by omega)]; simp [hml]] at hat
      obtain ⟨g', hgg, d0, d1, d2, d3, hfr⟩ := hat
      obtain rfl : g = g' := by simpa using hgg
      have h0 := hfr (j * 4)
      have h1 := hfr (j * 4 + 1)
      dsimp only at d0 d1 d2 d3
      have HR2 : Hid (UpRow ((x1.setCell ⟨g, j * 4, none⟩ (.string (mt K))).setCell ⟨g, j * 4 + 1, none⟩ (.int .i64 ((K : Int) + 1))) base (.slice (some ⟨g, 0, none⟩) n cap) (M ++ ⟨⟨mt K, (K : Int) + 1, ez, ed⟩, ea, en, ec⟩ :: D)) := hnm.1
      have HG2 : Hid (wr.grownBy ((x1.setCell ⟨g, j * 4, none⟩ (.string (mt K))).setCell ⟨g, j * 4 + 1, none⟩ (.int .i64 ((K : Int) + 1))) (some g)) := grow_transU hG1 hnm.2
      have HE : Hid (Owns ((x1.setCell ⟨g, j * 4, none⟩ (.string (mt K))).setCell ⟨g, j * 4 + 1, none⟩ (.int .i64 ((K : Int) + 1))) base ea en ec ez) := hnm.1.2.1 ⟨⟨mt K, (K : Int) + 1, ez, ed⟩, ea, en, ec⟩ (List.mem_append_right _ (List.mem_cons_self ..))
      clear hnm hR1 hG1 hb1 hfr hgg HO1
      generalize mt K = T3 at *
      go_wp2_with fail
      refine (mark_intU base ea en ec (K + 2) _ ez _ HE.out (by omega) (by omega) (by omega)).mono ?_
      rintro _ x4 ⟨rfl, hm, hon⟩
      have hO4 : UpRow x4 base (.slice (some ⟨g, 0, none⟩) n cap) (M ++ ⟨⟨T3, (K : Int) + 1, marks (K + 2) en, ed⟩, ea, en, ec⟩ :: D) := HR2.out.bodied (marks (K + 2) en) hm hon
      have hdn := hO4.doned (hlx _) (mbU (K + 2 + en))
      have hKt4 : KeptT w x4 := HKt2.out.trans (keptT_grown (v := .slice ea en ec) (by rw [ownBlock_sU]; exact hon) HE.out.1 (by decide))
      have hKt5 : KeptT w (x4.setCell ⟨g, M.length * 4 + 3, none⟩ (.bool (mbU (K + 2 + en)))) := hKt4.trans (keptT_grown (v := .slice (some ⟨g, 0, none⟩) n cap) hdn.2 hO4.1 (by decide))
      rw [hml] at hKt5
      have HKt5 : Hid (KeptT w (x4.setCell ⟨g, j * 4 + 3, none⟩ (.bool (mbU (K + 2 + en))))) := hKt5
      clear hKt4 hKt5 HKt2
      rw [hml] at hdn
      dsimp only at hdn
      have HB4 : Hid (Within w x4 base hi) := by
        have h1 := HB.out.trans (within_grown HG2.out (fun q e => by injection e with e; omega))
        exact h1.trans (within_grown hon (fun q e => ⟨(HE.out.lt q e).1, HEh.out q e⟩))
      have hat := hO4.at (hlx _).symm (i := j) (by have := hlx ⟨⟨T3, (K : Int) + 1, marks (K + 2) en, ed⟩, ea, en, ec⟩; omega)
      obtain ⟨g', hgg, _, _, _, q3, hfr⟩ := hat
      obtain rfl : g = g' := by simpa using hgg
      have z3 := hfr (j * 4 + 3)
      have HO5 : Hid (UpRow (x4.setCell ⟨g, j * 4 + 3, none⟩ (.bool (mbU (K + 2 + en)))) base (.slice (some ⟨g, 0, none⟩) n cap) (M ++ ⟨⟨T3, (K : Int) + 1, marks (K + 2) en, mbU (K + 2 + en)⟩, ea, en, ec⟩ :: D)) := hdn.1
      have HB5 : Hid (Within w (x4.setCell ⟨g, j * 4 + 3, none⟩ (.bool (mbU (K + 2 + en)))) base hi) := HB4.out.trans (within_grown hdn.2 (fun q e => by injection e with e; omega))
      clear hm hon HE HR2 HG2 HB HB4 d0 d1 d2 d3 h0 h1 hO4 hdn hfr hgg
      obtain ⟨K4, hK4⟩ : ∃ K4, K + 2 + en = K4 := ⟨_, rfl⟩
      have HK4 : Hid (K + 2 + en = K4) := hK4
      rw [hK4] at HO5 HB5 HKt5 ⊢
      have HFr2 : Hid (mkUp k (l.take (j + 1)) = M ++ [⟨⟨T3, (K : Int) + 1, marks (K + 2) en, mbU K4⟩, ea, en, ec⟩]) := by show _ = _; rw [HFr.out, hK4]
      have hmb := mbU_is K4
      have hK4i : (K4 : Int) ≤ 2199023255552 := by omega
      clear hK4 HFr
      go_wp2
      go_roundw
      case rel =>
        refine ⟨j + 1, by omega, by go_num, ?_, ?_, HB5, HKt5⟩
        · rw [HEnd.out]
          have := HK4.out
          go_num
        · show UpRow _ _ _ _
          rw [HFr2.out, List.append_assoc, HD.out]
          exact HO5.out
      case measure => simp [intOf]; omega
    · have hjn : j = n := by omega
      subst hjn
      have hl := HN.out
      have HO2 : Hid (UpRow wr base (.slice a j cap) (mkUp k l)) := by
        have h := HO.out
        rw [List.take_of_length_le (by omega), List.drop_of_length_le (by omega), List.append_nil] at h
        exact h
      have HE : Hid (mkUEnd k (l.take j) = mkUEnd k l) := by show _ = _; rw [List.take_of_length_le (by omega)]
      generalize mkUEnd k (l.take j) = K at *
      go_wp2
      go_ret
      exact ⟨ret_int (by rw [HE.out]), HO2.out, HB.out, HKt.out⟩

end Go.Proofs.YtammmecddnafaaaGreatDoor

namespace Go.Proofs.YtammmecddnafaaaGreatDoor
open Go.RowKit
set_option linter.unusedVariables false

/-- The marks of n texts, from the number k on. -/
def marksS (k n : Nat) : List ByteArray := (List.range n).map fun j => mt (k + j)
theorem marksS_len (k n : Nat) : (marksS k n).length = n := by simp [marksS]
theorem marksS_at (k n j : Nat) (hj : j < n) : (marksS k n)[j]? = some (mt (k + j)) := by simp [marksS, hj]

/-- Texts of which the first j are marked. -/
def smarkTo (k : Nat) (xs : List ByteArray) (j : Nat) : List ByteArray := marksS k j ++ xs.drop j

theorem smarkTo_len (k : Nat) (xs : List ByteArray) (j : Nat) (h : j ≤ xs.length) : (smarkTo k xs j).length = xs.length := by
  simp [smarkTo, marksS_len]
  omega

theorem smarkTo_step (k : Nat) (xs : List ByteArray) (j : Nat) (h : j < xs.length) : (smarkTo k xs j).set j (mt (k + j)) = smarkTo k xs (j + 1) := by
  rw [smarkTo, smarkTo, List.set_append_right j _ (by rw [marksS_len]; exact Nat.le_refl _), marksS_len, Nat.sub_self, List.drop_eq_getElem_cons h, List.set_cons_zero]
  simp [marksS, List.range_succ]

set_option maxRecDepth 10000 in
set_option maxHeartbeats 1600000 in
theorem markStrS_any (base : Nat) (a : Option Addr) (n cap k : Nat) (xs : List ByteArray) (w : World) (h : OwnSt w base (.slice a n cap) n xs) (hn : n ≤ 1099511627776) (hk : k ≤ 1099511627776) :
    Calls Tryz.prog 74 #[.slice a n cap, .int .i64 (k : Int)] w fun e w' => e = .returned (.int .i64 ((k + n : Nat) : Int)) ∧ OwnSt w' base (.slice a n cap) n (marksS k n) ∧ w.grownBy w' (a.map (·.block)) := by
  have hlen := h.len
  have HO0 : Hid (w.ownsRow base 9 1 (.slice a n cap) n (scells (smarkTo k xs 0))) := h.1
  clear h
  go_enter Tryz.func74, Tryz.ntmps74
  go_wp2_with fail
  go_loopw [1, 5] (fun q i wr => ∃ j : Nat, j ≤ n ∧ i = .int .i64 j ∧ q = .int .i64 ((k + j : Nat) : Int) ∧ Hid (wr.ownsRow base 9 1 (.slice a n cap) n (scells (smarkTo k xs j))) ∧ Hid (w.grownBy wr (a.map (·.block)))) (fun _ i _ => n - (intOf i).toNat)
  case atStart => exact ⟨0, Nat.zero_le _, rfl, rfl, HO0, grown_refl _ _⟩
  case round =>
    clear HO0
    obtain ⟨j, hj, rfl, rfl, HO, HG⟩ := hrel
    by_cases hlt : j < n
    · obtain ⟨g, rfl⟩ : ∃ g, a = some ⟨g, 0, none⟩ := by
        rcases HO.out.2 with ⟨_, h0⟩ | ⟨g, cap', cur, he, _⟩
        · omega
        · injection he with e1 _ _
          exact ⟨g, e1⟩
      have hji : (j : Int) < (n : Int) := by omega
      have HM1 : Hid (∀ W, Calls Tryz.prog 75 #[.int .i64 ((k + j : Nat) : Int)] W fun e w' => e = .returned (.string (mt (k + j))) ∧ Below W.heap.size W w') := fun W => markText_any _ W (by omega)
      have HSt : Hid ((smarkTo k xs j).set j (mt (k + j)) = smarkTo k xs (j + 1)) := smarkTo_step k xs j (by omega)
      have HLn : Hid ((smarkTo k xs j).length = n) := by show _ = _; rw [smarkTo_len k xs j (by omega), hlen]
      generalize mt (k + j) = m1 at *
      generalize smarkTo k xs j = L at *
      obtain ⟨K1, hK1⟩ : ∃ K1, k + (j + 1) = K1 := ⟨_, rfl⟩
      obtain ⟨K0, hK0⟩ : ∃ K0, k + j = K0 := ⟨_, rfl⟩
      have hq1 : (K0 : Int) + 1 = (K1 : Int) := by omega
      rw [hK0] at HM1 ⊢
      have HK1 : Hid (k + (j + 1) = K1) := hK1
      have hK0b : (K0 : Int) ≤ 4398046511104 := by omega
      clear hK0 hK1
      go_wp2_with fail
      refine (HM1.out wr).mono ?_
      rintro e x1 ⟨rfl, hb1⟩
      have HO1 : Hid (x1.ownsRow base 9 1 (.slice (some ⟨g, 0, none⟩) n cap) n (scells L)) := own_stays HO.out hb1
      have HG1 : Hid (w.grownBy x1 (some g)) := grown_trans HG.out (grown_below hb1)
      clear hb1 HO HG
      have hln : (scells L).length = n := by rw [scells_len, HLn.out]
      have f0 : x1.frozen? ⟨g, j, none⟩ = false := HO1.out.frozenAt _
      obtain ⟨u0, hu0⟩ : ∃ u, x1.cell? ⟨g, j, none⟩ = some u := by
        rw [HO1.out.cellAt _ (by omega)]
        exact ⟨_, List.getElem?_eq_getElem (by omega)⟩
      have hst := HO1.out.stored j (.string m1)
      have HO4 : Hid ((x1.setCell ⟨g, j, none⟩ (.string m1)).ownsRow base 9 1 (.slice (some ⟨g, 0, none⟩) n cap) n (scells (smarkTo k xs (j + 1)))) := by
        have h1 := hst.1
        rw [scells_set, HSt.out] at h1
        exact h1
      have HG4 : Hid (w.grownBy (x1.setCell ⟨g, j, none⟩ (.string m1)) (some g)) := grown_trans HG1.out hst.2
      clear hst hln HO1 HG1
      go_wp2_with fail
      go_roundw
      case rel => exact ⟨j + 1, by omega, by go_num, by rw [HK1.out], HO4, HG4⟩
      case measure => simp [intOf]; omega
    · have hjn : j = n := by omega
      subst hjn
      go_wp2_with fail
      go_ret
      have hd : smarkTo k xs j = marksS k j := by
        rw [smarkTo, List.drop_eq_nil_of_le (by omega), List.append_nil]
      have h1 := HO.out
      rw [hd] at h1
      refine ⟨rfl, ⟨h1, ?_⟩, HG.out⟩
      intro f hf
      simp only [marksS, List.mem_map, List.mem_range] at hf
      obtain ⟨i, hi, rfl⟩ := hf
      have s1 := mt_size (k + i)
      unfold maxLen
      omega

end Go.Proofs.YtammmecddnafaaaGreatDoor

namespace Go.Proofs.YtammmecddnafaaaGreatDoor
open Go.RowKit
set_option linter.unusedVariables false

theorem blkOf_slice (a : Option Addr) (n c : Nat) : blkOf (.slice a n c) = a.map (·.block) := by cases a <;> rfl

theorem ret_i64 {a b : Int} (h : a = b) : Ending.returned (.int .i64 a) = .returned (.int .i64 b) := by rw [h]

/-- Of all that was there two blocks alone may have changed. -/
def Two (w w' : World) (r r' : Option Nat) : Prop := ∃ w1, w.grownBy w1 r ∧ w1.grownBy w' r'

set_option maxHeartbeats 800000 in
theorem markDisk_any (base : Nat) (a : Option Addr) (n ca : Nat) (xs : List ByteArray) (a' : Option Addr) (n' ca' : Nat) (ys : List ByteArray) (k : Nat) (w : World) (h1 : OwnSt w base (.slice a n ca) n xs) (h2 : OwnSt w base (.slice a' n' ca') n' ys) (hne : ∀ q, a.map (·.block) = some q → a'.map (·.block) ≠ some q) (hn : n ≤ 1073741824) (hn' : n' ≤ 1073741824) (hk : k ≤ 1073741824) :
    Calls Tryz.prog 39 #[.agg #[.slice a n ca, .slice a' n' ca'], .int .i64 (k : Int)] w fun r w' => r = .returned (.int .i64 ((k + n + n' : Nat) : Int)) ∧ OwnSt w' base (.slice a n ca) n (marksS k n) ∧ OwnSt w' base (.slice a' n' ca') n' (marksS (k + n) n') ∧ Two w w' (a.map (·.block)) (a'.map (·.block)) := by
  have HO : Hid (OwnSt w base (.slice a n ca) n xs) := h1
  have HP : Hid (OwnSt w base (.slice a' n' ca') n' ys) := h2
  have HN : Hid (∀ q, a.map (·.block) = some q → a'.map (·.block) ≠ some q) := hne
  clear h1 h2 hne
  have HA : Hid (Box2R (w.alloc (Obj.cells #[Value.slice a n ca, Value.slice a' n' ca'] 29)) w.heap.size 29 (.slice a n ca) (.slice a' n' ca')) := Box2R.new _ _ _ _
  have HB : Hid (Below w.heap.size w (w.alloc (Obj.cells #[Value.slice a n ca, Value.slice a' n' ca'] 29))) := (Below.refl _ _).alloc (Nat.le_refl _) _
  go_enter Tryz.func39, Tryz.ntmps39
  go_wp2_with fail
  refine (markStrS_any base a n ca k xs _ (HO.out.below HB.out) (by omega) (by omega)).mono ?_
  rintro r x1 ⟨rfl, ho1, hg1⟩
  have hlt : ∀ q, a.map (·.block) = some q → q < w.heap.size := fun q hq => (HO.out.lt q (by rw [blkOf_slice]; exact hq)).2
  have HO1 : Hid (OwnSt x1 base (.slice a n ca) n (marksS k n)) := ho1
  have HP1 : Hid (OwnSt x1 base (.slice a' n' ca') n' ys) := (HP.out.below HB.out).kept hg1 (fun q hq => by rw [blkOf_slice]; exact HN.out q hq)
  have HG1 : Hid (w.grownBy x1 (a.map (·.block))) := grown_trans (grown_below HB.out) hg1
  have HA1 : Hid (Box2R x1 w.heap.size 29 (.slice a n ca) (.slice a' n' ca')) := HA.out.grown hg1 (fun e => by have := hlt _ e; omega)
  clear ho1 hg1 hlt HA HB HO HP
  obtain ⟨c0, c1⟩ := HA1.out.cells
  have HM : Hid (Calls Tryz.prog 74 #[.slice a' n' ca', .int .i64 ((k + n : Nat) : Int)] x1 fun e w' => e = .returned (.int .i64 ((k + n + n' : Nat) : Int)) ∧ OwnSt w' base (.slice a' n' ca') n' (marksS (k + n) n') ∧ x1.grownBy w' (a'.map (·.block))) := markStrS_any base a' n' ca' (k + n) ys _ HP1.out (by omega) (by omega)
  obtain ⟨K, hK⟩ : ∃ K, k + n = K := ⟨_, rfl⟩
  rw [hK] at HM ⊢
  have hKb : K ≤ 2147483648 := by omega
  have HK : Hid (k + n = K) := hK
  clear hK
  go_wp2_with fail
  refine HM.out.mono ?_
  rintro r x2 ⟨rfl, ho2, hg2⟩
  have HP2 : Hid (OwnSt x2 base (.slice a' n' ca') n' (marksS K n')) := ho2
  have HO2 : Hid (OwnSt x2 base (.slice a n ca) n (marksS k n)) := HO1.out.kept hg2 (fun q hq e => HN.out q (by rw [blkOf_slice] at e; exact e) hq)
  have HG2 : Hid (Two w x2 (a.map (·.block)) (a'.map (·.block))) := ⟨x1, HG1.out, hg2⟩
  clear ho2 hg2 HM HA1 c0 c1
  obtain ⟨K2, hK2⟩ : ∃ K2, K + n' = K2 := ⟨_, rfl⟩
  have HK2 : Hid (K + n' = K2) := hK2
  rw [hK2]
  clear hK2
  go_wp2_with fail
  go_ret
  exact ⟨ret_i64 (by rw [HK.out, HK2.out]), HO2.out, by rw [HK.out]; exact HP2.out, HG2.out⟩

end Go.Proofs.YtammmecddnafaaaGreatDoor

namespace Go.Proofs.YtammmecddnafaaaGreatDoor
open Go.RowKit
set_option linter.unusedVariables false

/-- The rows of a store with the marks in them, from k on. -/
def StoMkd (W : World) (base k : Nat) (a : Option Addr) (n ca : Nat) (a' : Option Addr) (n' ca' : Nat) (ua : Option Addr) (un uc : Nat) (l : List UE) : Prop :=
  StoAt W base a n ca (marksS k n) a' n' ca' (marksS (k + n) n') ua un uc (mkUp (k + n + n') l)

set_option maxRecDepth 10000 in
set_option maxHeartbeats 1600000 in
theorem markStore_any (base : Nat) (a : Option Addr) (n ca : Nat) (X : List ByteArray) (a' : Option Addr) (n' ca' : Nat) (Y : List ByteArray) (ep nx : Int) (ua : Option Addr) (un uc : Nat) (l : List UE) (k : Nat) (w : World) (h : StoAt w base a n ca X a' n' ca' Y ua un uc l) (hn : n ≤ 2097152) (hn' : n' ≤ 2097152) (hk : k ≤ 1073741824) (hul : un ≤ 1099511627776) (hkE : mkUEnd (k + n + n') l ≤ 2199023255552) (hi : Nat) (hwi : StoIn a a' ua l hi) :
    Calls Tryz.prog 12 #[.agg #[.slice a n ca, .slice a' n' ca', .int .i64 ep, .int .i64 nx, .slice ua un uc], .int .i64 (k : Int)] w fun r w' => r = .returned (.int .i64 (mkUEnd (k + n + n') l : Int)) ∧ StoMkd w' base k a n ca a' n' ca' ua un uc l ∧ Within w w' base hi := by
  have HHi : Hid (StoIn a a' ua l hi) := hwi
  clear hwi
  have HS : Hid (StoAt w base a n ca X a' n' ca' Y ua un uc l) := h
  have HK : Hid (mkUEnd (k + n + n') l ≤ 2199023255552) := hkE
  clear h hkE
  have HA : Hid (BoxN (w.alloc (.cells #[.slice a n ca, .slice a' n' ca', .int .i64 ep, .int .i64 nx, .slice ua un uc] 32)) w.heap.size 32 [.slice a n ca, .slice a' n' ca', .int .i64 ep, .int .i64 nx, .slice ua un uc]) := BoxN.new _ _ _
  have HB : Hid (Below w.heap.size w (w.alloc (.cells #[.slice a n ca, .slice a' n' ca', .int .i64 ep, .int .i64 nx, .slice ua un uc] 32))) := (Below.refl _ _).alloc (Nat.le_refl _) _
  go_enter Tryz.func12, Tryz.ntmps12
  go_wp2_with fail
  obtain ⟨w0, hw0⟩ : ∃ w0, w.alloc (.cells #[.slice a n ca, .slice a' n' ca', .int .i64 ep, .int .i64 nx, .slice ua un uc] 32) = w0 := ⟨_, rfl⟩
  rw [hw0] at HA HB ⊢
  clear hw0
  have HS0 : Hid (StoAt w0 base a n ca X a' n' ca' Y ua un uc l) := HS.out.stays HB.out
  have hww : w.heap.size < w0.heap.size := HA.out.lt
  refine (markDisk_any base a n ca X a' n' ca' Y k w0 HS0.out.now HS0.out.sure HS0.out.apart (by omega) (by omega) hk).mono ?_
  rintro _ x1 ⟨rfl, ho1, ho2, h2⟩
  have HT : Hid (Two w0 x1 (a.map (·.block)) (a'.map (·.block))) := h2
  have hU1 : UpRow x1 base (.slice ua un uc) l := by
    obtain ⟨y, g1, g2⟩ := h2
    have hy := HS0.out.ups.keptS HS0.out.now g1
    have hy2 : OwnSt y base (.slice a' n' ca') n' Y := HS0.out.sure.kept g1 (fun q hq hq2 => by rw [blk_own] at hq2; exact HS0.out.apart q hq hq2)
    exact hy.keptS hy2 g2
  have HB1 : Hid (Within w x1 base hi) := by
    obtain ⟨y, g1, g2⟩ := h2
    exact ((within_below HB.out).trans (within_grown g1 (fun q hq => ⟨(HS0.out.now.lt q (by rw [blk_own]; exact hq)).1, HHi.out.1 q hq⟩))).trans (within_grown g2 (fun q hq => ⟨(HS0.out.sure.lt q (by rw [blk_own]; exact hq)).1, HHi.out.2.1 q hq⟩))
  have hA1 : BoxN x1 w.heap.size 32 [.slice a n ca, .slice a' n' ca', .int .i64 ep, .int .i64 nx, .slice ua un uc] := by
    obtain ⟨y, g1, g2⟩ := h2
    refine (HA.out.grown g1 (fun e => ?_)).grown g2 (fun e => ?_)
    · have h9 := HS.out.now.lt w.heap.size (by rw [blk_own]; exact e); omega
    · have h9 := HS.out.sure.lt w.heap.size (by rw [blk_own]; exact e); omega
  have c4 := hA1.cell 4 rfl
  have HD1 : Hid (OwnSt x1 base (.slice a n ca) n (marksS k n) ∧ OwnSt x1 base (.slice a' n' ca') n' (marksS (k + n) n') ∧ UpRow x1 base (.slice ua un uc) l) := ⟨ho1, ho2, hU1⟩
  obtain ⟨K, hK⟩ : ∃ K, k + n + n' = K := ⟨_, rfl⟩
  have HKe : Hid (k + n + n' = K) := hK
  rw [hK] at HK ⊢
  have hKb : (K : Int) ≤ 2199023255552 := by have := HKe.out; omega
  clear hK ho1 ho2 h2 hU1 hA1
  go_wp2_with fail
  refine (markUpS_any base ua un uc K l x1 HD1.out.2.2 HS.out.len.symm HK.out hul hi HHi.out.2.2).mono ?_
  rintro _ x2 ⟨rfl, hu2, hb2, hk2⟩
  have HR : Hid (StoMkd x2 base k a n ca a' n' ca' ua un uc l ∧ Within w x2 base hi) := by
    refine ⟨⟨HD1.out.1.keptT hk2, HD1.out.2.1.keptT hk2, HS.out.apart, ?_, ?_⟩, HB1.out.trans hb2⟩
    · rw [HKe.out]; exact hu2
    · rw [mkUp_len]; exact HS.out.len
  obtain ⟨E, hE⟩ : ∃ E, mkUEnd K l = E := ⟨_, rfl⟩
  have HEe : Hid (mkUEnd K l = E) := hE
  rw [hE]
  clear hE hu2 hb2 hk2
  go_wp2_with fail
  go_ret
  exact ⟨ret_i64 (by rw [HKe.out, HEe.out]), HR.out.1, HR.out.2⟩

section
variable {W W' : World} {lo b : Nat} {a : Option Addr} {n ca : Nat} {X : List ByteArray} {a' : Option Addr} {n' ca' : Nat} {Y : List ByteArray} {ep nx : Int} {ua : Option Addr} {un uc : Nat} {l : List UE}

/-- The marks are in it. -/
theorem SAt.marked {k : Nat} (h : SAt W lo b a n ca X a' n' ca' Y ep nx ua un uc l) (hm : StoMkd W' lo k a n ca a' n' ca' ua un uc l) (hw : Within W W' lo b) : BoxN W' b 32 [.slice a n ca, .slice a' n' ca', .int .i64 ep, .int .i64 nx, .slice ua un uc] ∧ StoMkd W' lo k a n ca a' n' ca' ua un uc l :=
  ⟨(hw.block b h.box.lt (.inr (Nat.le_refl _))).trans h.box, hm⟩
end

end Go.Proofs.YtammmecddnafaaaGreatDoor

namespace Go.Proofs.YtammmecddnafaaaGreatDoor
open Go.RowKit
set_option linter.unusedVariables false

theorem held_intU (base : Nat) (a : Option Addr) (n cap k : Nat) (kk : Int) (w : World) (h : Owns w base a n cap (marks k n)) (hn : n ≤ 2199023255552) (hk : k ≤ 2199023255552) (hkk : kk = (k : Int)) :
    Calls Tryz.prog 77 #[.slice a n cap, .int .i64 kk] w fun e w' => e = .returned (.int .i64 ((k + n : Nat) : Int)) ∧ w' = w := by
  subst hkk
  exact held_any base a n cap k w h hn hk

set_option maxRecDepth 10000 in
set_option maxHeartbeats 3200000 in
theorem heldUpS_any (base : Nat) (a : Option Addr) (n cap k : Nat) (l : List UE) (w : World) (h : UpRow w base (.slice a n cap) (mkUp k l)) (hn : l.length = n) (hk : mkUEnd k l ≤ 2199023255552) (hnb : n ≤ 1099511627776) :
    Calls Tryz.prog 42 #[.slice a n cap, .int .i64 (k : Int)] w fun e w' => e = .returned (.int .i64 (mkUEnd k l : Int)) ∧ Below w.heap.size w w' := by
  have HO : Hid (UpRow w base (.slice a n cap) (mkUp k l)) := h
  have HN : Hid (l.length = n) := hn
  have HK : Hid (mkUEnd k l ≤ 2199023255552) := hk
  clear h hn hk
  go_enter Tryz.func42, Tryz.ntmps42
  go_wp2
  go_loopw [1, 5] (fun v i wr => ∃ j : Nat, j ≤ n ∧ i = .int .i64 j ∧ v = .int .i64 (mkUEnd k (l.take j) : Int) ∧ Hid (Below w.heap.size w wr)) (fun _ i _ => n - (intOf i).toNat)
  case atStart => exact ⟨0, Nat.zero_le _, rfl, rfl, Below.refl _ _⟩
  case round =>
    obtain ⟨j, hj, rfl, rfl, HW⟩ := hrel
    by_cases hlt : j < n
    · have hjl : j < l.length := by have := HN.out; omega
      have ht : l.take (j + 1) = l.take j ++ [l[j]] := List.take_succ_eq_append_getElem hjl
      have hml : (mkUp k (l.take j)).length = j := by rw [mkUp_len, List.length_take]; omega
      have HEnd : Hid (mkUEnd k (l.take (j + 1)) = mkUEnd k (l.take j) + 3 + (l[j]).n) := by show _ = _; rw [ht, mkUEnd_append]; rfl
      have hKb : mkUEnd k (l.take j) + 3 + (l[j]).n ≤ 2199023255552 := by
        have h1 := HK.out
        rw [← List.take_append_drop (j + 1) l, mkUEnd_append] at h1
        have h2 := mkUEnd_ge (mkUEnd k (l.take (j + 1))) (l.drop (j + 1))
        have h3 := HEnd.out
        omega
      have hFr : mkUp k l = mkUp k (l.take j) ++ mkU1 (mkUEnd k (l.take j)) (l[j]) :: mkUp (mkUEnd k (l.take j) + 3 + (l[j]).n) (l.drop (j + 1)) := by
        have hd : l = l.take j ++ l[j] :: l.drop (j + 1) := by rw [← List.drop_eq_getElem_cons hjl]; exact (List.take_append_drop j l).symm
        rw [show mkUp k l = mkUp k (l.take j ++ l[j] :: l.drop (j + 1)) from congrArg (mkUp k) hd, mkUp_append]
        rfl
      have hlen : (mkUp k l).length = n := by rw [mkUp_len]; exact HN.out
      have hge : (mkUp k l)[j]'(by omega) = mkU1 (mkUEnd k (l.take j)) (l[j]) := by
        have h1 : (mkUp k l)[j]? = some (mkU1 (mkUEnd k (l.take j)) (l[j])) := by
          rw [hFr, List.getElem?_append_right (by omega), hml, Nat.sub_self]
          rfl
        rw [List.getElem?_eq_getElem (by omega)] at h1
        exact Option.some.inj h1
      have HAt : Hid (∀ W, Below w.heap.size w W → ∃ g, a = some ⟨g, 0, none⟩ ∧ W.cell? ⟨g, j * 4, none⟩ = some (.string (mt (mkUEnd k (l.take j)))) ∧ W.cell? ⟨g, j * 4 + 1, none⟩ = some (.int .i64 ((mkUEnd k (l.take j) : Int) + 1)) ∧ W.cell? ⟨g, j * 4 + 2, none⟩ = some (.slice (l[j]).a (l[j]).n (l[j]).c) ∧ W.cell? ⟨g, j * 4 + 3, none⟩ = some (.bool (mbU (mkUEnd k (l.take j) + 2 + (l[j]).n))) ∧ Owns W base (l[j]).a (l[j]).n (l[j]).c (marks (mkUEnd k (l.take j) + 2) (l[j]).n)) := fun W hb => by
        have hO := HO.out.stays hb
        have hat := hO.at hlen.symm (i := j) (by omega)
        have hin := hO.2.1 ((mkUp k l)[j]'(by omega)) (List.getElem_mem _)
        rw [hge] at hat hin
        obtain ⟨g, h1, h2, h3, h4, h5, _⟩ := hat
        exact ⟨g, h1, h2, h3, h4, h5, hin⟩
      clear hge hFr ht hml hlen
      generalize mkUEnd k (l.take j) = K at *
      generalize l[j] = e at *
      obtain ⟨r, ea, en, ec⟩ := e
      dsimp only at *
      obtain ⟨g, rfl, _⟩ := HAt.out _ HW.out
      have hKi : (K : Int) ≤ 2199023255552 := by omega
      have hji : (j : Int) < (n : Int) := by omega
      have hj0 : (0 : Int) ≤ (j : Int) := by omega
      have hC : ∀ P : Past wr, P.world.cell? ⟨g, j * 4, none⟩ = some (.string (mt K)) := fun P => by
        obtain ⟨g', hg, h1, _⟩ := HAt.out _ (HW.out.trans (P.below.mono HW.out.size))
        injection hg with hg
        injection hg with hg
        subst hg
        exact h1
      have HTx : Hid (∀ P : Past wr, Calls Tryz.prog 75 #[.int .i64 (K : Int)] P.world fun e w' => e = .returned (.string (mt K)) ∧ Below P.world.heap.size P.world w') := fun P => markText_any K P.world (by omega)
      have hnp := past_some wr
      generalize mt K = T3 at *
      have n3 : (T3.toList != T3.toList) = false := by simp
      go_wp2_with fail
      refine wp_region_past (by kernel_rfl) (by kernel_rfl) ?_
      repeat (quiet_step ((first | (go_at_call 75; with_reducible exact calls_past (HTx.out _)) | fail)))
      refine wpQuiet_nil ?_
      rintro _ ⟨z, rfl⟩
      have HB2 : Hid (Below w.heap.size w z.world) := HW.out.trans (z.below.mono HW.out.size)
      obtain ⟨x1, hx1⟩ : ∃ x1, z.world = x1 := ⟨_, rfl⟩
      rw [hx1] at HB2 ⊢
      clear hx1 z hnp hC HTx HW
      obtain ⟨g', hg, _, c1, c2, c3, ho⟩ := HAt.out _ HB2.out
      injection hg with hg
      injection hg with hg
      subst hg
      have HE : Hid (Owns x1 base ea en ec (marks (K + 2) en)) := ho
      have n1 : ((K : Int) + 1 != (K : Int) + 1) = false := by simp
      clear ho HAt
      go_wp2_with fail
      refine (held_intU base ea en ec (K + 2) _ _ HE.out (by omega) (by omega) (by omega)).mono ?_
      rintro _ x1 ⟨rfl, rfl⟩
      obtain ⟨K4, hK4⟩ : ∃ K4, K + 2 + en = K4 := ⟨_, rfl⟩
      have HK4 : Hid (K + 2 + en = K4) := hK4
      rw [hK4] at c3 ⊢
      have hmb := mbU_is K4
      have hK4i : (K4 : Int) ≤ 2199023255552 := by omega
      have hK4p : ¬ (K4 : Int) < 0 := by omega
      have n4 : (mbU K4 != mbU K4) = false := by simp
      clear hK4
      go_wp2
      go_roundw
      case rel =>
        refine ⟨j + 1, by omega, by go_num, ?_, HB2⟩
        rw [HEnd.out]
        have := HK4.out
        go_num
      case measure => simp [intOf]; omega
    · have hjn : j = n := by omega
      subst hjn
      have hl := HN.out
      have HE : Hid (mkUEnd k (l.take j) = mkUEnd k l) := by show _ = _; rw [List.take_of_length_le (by omega)]
      generalize mkUEnd k (l.take j) = K at *
      go_wp2
      go_ret
      exact ⟨ret_int (by rw [HE.out]), HW.out⟩

end Go.Proofs.YtammmecddnafaaaGreatDoor

namespace Go.Proofs.YtammmecddnafaaaGreatDoor
open Go.RowKit
set_option linter.unusedVariables false

set_option maxRecDepth 10000 in
set_option maxHeartbeats 1600000 in
theorem heldStrS_any (a : Option Addr) (n cap k : Nat) (w : World) (h : Strs w a n (marksS k n)) (hn : n ≤ 1099511627776) (hk : k ≤ 1099511627776) :
    Calls Tryz.prog 76 #[.slice a n cap, .int .i64 (k : Int)] w fun e w' => e = .returned (.int .i64 ((k + n : Nat) : Int)) ∧ Below w.heap.size w w' := by
  have HX : Hid (Strs w a n (marksS k n)) := h
  clear h
  go_enter Tryz.func76, Tryz.ntmps76
  go_wp2_with fail
  go_loopw [1, 5] (fun q i wr => ∃ j : Nat, j ≤ n ∧ i = .int .i64 j ∧ q = .int .i64 ((k + j : Nat) : Int) ∧ Hid (Below w.heap.size w wr)) (fun _ i _ => n - (intOf i).toNat)
  case atStart => exact ⟨0, Nat.zero_le _, rfl, rfl, Below.refl _ _⟩
  case round =>
    obtain ⟨j, hj, rfl, rfl, HB⟩ := hrel
    by_cases hlt : j < n
    · obtain ⟨b, off, x, rfl, hb, hfx, hc0⟩ := (HX.out.below HB.out).at hlt
      obtain rfl : x = mt (k + j) := by
        rw [marksS_at k n j hlt] at hfx
        simp at hfx
        exact hfx.symm
      have hji : (j : Int) < (n : Int) := by omega
      have HM1 : Hid (∀ W, Calls Tryz.prog 75 #[.int .i64 ((k + j : Nat) : Int)] W fun e w' => e = .returned (.string (mt (k + j))) ∧ Below W.heap.size W w') := fun W => markText_any _ W (by omega)
      generalize mt (k + j) = m1 at *
      obtain ⟨K1, hK1⟩ : ∃ K1, k + (j + 1) = K1 := ⟨_, rfl⟩
      obtain ⟨K0, hK0⟩ : ∃ K0, k + j = K0 := ⟨_, rfl⟩
      have hq1 : (K0 : Int) + 1 = (K1 : Int) := by omega
      rw [hK0] at HM1 ⊢
      have HK1 : Hid (k + (j + 1) = K1) := hK1
      have hK0b : (K0 : Int) ≤ 4398046511104 := by omega
      clear hK0 hK1 hfx
      have hne1 : (m1.toList != m1.toList) = false := by simp
      have HC : Hid (∀ W, Below wr.heap.size wr W → W.cell? ⟨b, off + j, none⟩ = some (.string m1) ∧ Below w.heap.size w W) := fun W hW => ⟨(hW.cell (p := ⟨b, _, none⟩) hb).trans hc0, HB.out.trans (hW.mono HB.out.size)⟩
      go_wp2_with fail
      go_region_with (first
        | (go_at_call 75; refine (HM1.out _).mono ?_; rintro e x1 ⟨rfl, hb1⟩; have hb1' : Below wr.heap.size wr x1 := (Below.refl wr.heap.size wr).drew.trans (hb1.mono (Nat.le_refl _)); obtain ⟨k0, k2⟩ := HC.out x1 hb1'))
      all_goals
        have HB3 : Hid (Below w.heap.size w x1) := k2
        clear hb1 hb1' k0 k2 hc0
        go_wp2_with fail
        go_roundw
        case rel => exact ⟨j + 1, by omega, by go_num, by rw [HK1.out], HB3⟩
        case measure => simp [intOf]; omega
    · have hjn : j = n := by omega
      subst hjn
      go_wp2_with fail
      go_ret
      exact ⟨rfl, HB.out⟩

end Go.Proofs.YtammmecddnafaaaGreatDoor

namespace Go.Proofs.YtammmecddnafaaaGreatDoor
open Go.RowKit
set_option linter.unusedVariables false

set_option maxHeartbeats 800000 in
theorem heldDisk_any (a : Option Addr) (n ca : Nat) (a' : Option Addr) (n' ca' : Nat) (k : Nat) (w : World) (h1 : Strs w a n (marksS k n)) (h2 : Strs w a' n' (marksS (k + n) n')) (hn : n ≤ 1073741824) (hn' : n' ≤ 1073741824) (hk : k ≤ 1073741824) :
    Calls Tryz.prog 41 #[.agg #[.slice a n ca, .slice a' n' ca'], .int .i64 (k : Int)] w fun r w' => r = .returned (.int .i64 ((k + n + n' : Nat) : Int)) ∧ Below w.heap.size w w' := by
  have HX : Hid (∀ W, Below w.heap.size w W → Strs W a n (marksS k n) ∧ Strs W a' n' (marksS (k + n) n')) := fun W h => ⟨h1.below h, h2.below h⟩
  clear h1 h2
  have HA : Hid (Box2R (w.alloc (Obj.cells #[Value.slice a n ca, Value.slice a' n' ca'] 29)) w.heap.size 29 (.slice a n ca) (.slice a' n' ca')) := Box2R.new _ _ _ _
  have HB : Hid (Below w.heap.size w (w.alloc (Obj.cells #[Value.slice a n ca, Value.slice a' n' ca'] 29))) := (Below.refl _ _).alloc (Nat.le_refl _) _
  go_enter Tryz.func41, Tryz.ntmps41
  go_wp2_with fail
  refine (heldStrS_any a n ca k _ (HX.out _ HB.out).1 (by omega) (by omega)).mono ?_
  rintro r x1 ⟨rfl, hb1⟩
  have HB1 : Hid (Below w.heap.size w x1) := HB.out.trans (hb1.mono HB.out.size)
  obtain ⟨c0, c1⟩ := (HA.out.stays hb1).cells
  clear hb1 HA HB
  have HM : Hid (Calls Tryz.prog 76 #[.slice a' n' ca', .int .i64 ((k + n : Nat) : Int)] x1 fun e w' => e = .returned (.int .i64 ((k + n + n' : Nat) : Int)) ∧ Below x1.heap.size x1 w') := heldStrS_any a' n' ca' (k + n) _ (HX.out _ HB1.out).2 (by omega) (by omega)
  clear HX
  obtain ⟨K, hK⟩ : ∃ K, k + n = K := ⟨_, rfl⟩
  rw [hK] at HM ⊢
  have hp1 : ¬ (K : Int) < 0 := by omega
  have hp1d : decide ((K : Int) < 0) = false := by simp
  have HK : Hid (k + n = K) := hK
  clear hK
  go_wp2_with fail
  refine HM.out.mono ?_
  rintro r x2 ⟨rfl, hb2⟩
  have HB2 : Hid (Below w.heap.size w x2) := HB1.out.trans (hb2.mono HB1.out.size)
  clear hb2 HM HB1 c0 c1
  obtain ⟨K2, hK2⟩ : ∃ K2, K + n' = K2 := ⟨_, rfl⟩
  have HK2 : Hid (K + n' = K2) := hK2
  rw [hK2]
  have hp2 : ¬ (K2 : Int) < 0 := by omega
  have hp2d : decide ((K2 : Int) < 0) = false := by simp
  clear hK2
  go_wp2_with fail
  go_ret
  exact ⟨ret_i64 (by rw [HK.out, HK2.out]), HB2.out⟩

end Go.Proofs.YtammmecddnafaaaGreatDoor

namespace Go.Proofs.YtammmecddnafaaaGreatDoor
open Go.RowKit
set_option linter.unusedVariables false

set_option maxRecDepth 10000 in
set_option maxHeartbeats 1600000 in
theorem heldStore_any (base : Nat) (a : Option Addr) (n ca : Nat) (a' : Option Addr) (n' ca' : Nat) (ep nx : Int) (ua : Option Addr) (un uc : Nat) (l : List UE) (k : Nat) (w : World) (h : StoMkd w base k a n ca a' n' ca' ua un uc l) (hn : n ≤ 2097152) (hn' : n' ≤ 2097152) (hk : k ≤ 1073741824) (hul : un ≤ 1099511627776) (hkE : mkUEnd (k + n + n') l ≤ 2199023255552) :
    Calls Tryz.prog 13 #[.agg #[.slice a n ca, .slice a' n' ca', .int .i64 ep, .int .i64 nx, .slice ua un uc], .int .i64 (k : Int)] w fun r w' => r = .returned (.int .i64 (mkUEnd (k + n + n') l : Int)) ∧ Below w.heap.size w w' := by
  have HS : Hid (∀ W, Below w.heap.size w W → StoMkd W base k a n ca a' n' ca' ua un uc l) := fun W hb => StoAt.stays h hb
  have HK : Hid (mkUEnd (k + n + n') l ≤ 2199023255552) := hkE
  clear h hkE
  have HA : Hid (BoxN (w.alloc (.cells #[.slice a n ca, .slice a' n' ca', .int .i64 ep, .int .i64 nx, .slice ua un uc] 32)) w.heap.size 32 [.slice a n ca, .slice a' n' ca', .int .i64 ep, .int .i64 nx, .slice ua un uc]) := BoxN.new _ _ _
  have HB : Hid (Below w.heap.size w (w.alloc (.cells #[.slice a n ca, .slice a' n' ca', .int .i64 ep, .int .i64 nx, .slice ua un uc] 32))) := (Below.refl _ _).alloc (Nat.le_refl _) _
  go_enter Tryz.func13, Tryz.ntmps13
  go_wp2_with fail
  obtain ⟨w0, hw0⟩ : ∃ w0, w.alloc (.cells #[.slice a n ca, .slice a' n' ca', .int .i64 ep, .int .i64 nx, .slice ua un uc] 32) = w0 := ⟨_, rfl⟩
  rw [hw0] at HA HB ⊢
  clear hw0
  refine (heldDisk_any a n ca a' n' ca' k w0 (HS.out _ HB.out).now.strs (HS.out _ HB.out).sure.strs (by omega) (by omega) hk).mono ?_
  rintro _ x1 ⟨rfl, hb1⟩
  have HB1 : Hid (Below w.heap.size w x1) := HB.out.trans (hb1.mono HB.out.size)
  have c4 := (HA.out.stays hb1).cell 4 rfl
  clear hb1
  obtain ⟨K, hK⟩ : ∃ K, k + n + n' = K := ⟨_, rfl⟩
  have HKe : Hid (k + n + n' = K) := hK
  rw [hK] at HK ⊢
  have hKb : (K : Int) ≤ 2199023255552 := by have := HKe.out; omega
  have hp1 : ¬ (K : Int) < 0 := by omega
  have hp1d : decide ((K : Int) < 0) = false := by simp
  have HU1 : Hid (UpRow x1 base (.slice ua un uc) (mkUp K l) ∧ l.length = un) := by
    have h1 := (HS.out _ HB1.out).ups
    have h2 := (HS.out _ HB1.out).len
    rw [hK] at h1
    rw [mkUp_len] at h2
    exact ⟨h1, h2.symm⟩
  clear hK
  go_wp2_with fail
  refine (heldUpS_any base ua un uc K l x1 HU1.out.1 HU1.out.2 HK.out hul).mono ?_
  rintro _ x2 ⟨rfl, hb2⟩
  have HB2 : Hid (Below w.heap.size w x2) := HB1.out.trans (hb2.mono HB1.out.size)
  obtain ⟨E, hE⟩ : ∃ E, mkUEnd K l = E := ⟨_, rfl⟩
  have HEe : Hid (mkUEnd K l = E) := hE
  rw [hE]
  have hp2 : ¬ (E : Int) < 0 := by omega
  have hp2d : decide ((E : Int) < 0) = false := by simp
  clear hE hb2
  go_wp2_with fail
  go_ret
  exact ⟨ret_i64 (by rw [HKe.out, HEe.out]), HB2.out⟩

end Go.Proofs.YtammmecddnafaaaGreatDoor

namespace Go.Proofs.YtammmecddnafaaaGreatDoor
open Go.RowKit
set_option linter.unusedVariables false

set_option maxRecDepth 10000 in
set_option maxHeartbeats 6400000 in
theorem makeWalk (a0 : Option Addr) (n0 ca0 : Nat) (xs : List ByteArray) (a1 : Option Addr) (n1 ca1 : Nat) (ys : List ByteArray) (ep nx : Int) (ua : Option Addr) (un uc : Nat) (l : List UE) (s0 : ByteArray) (i1 : Int) (w : World) (hl0 : n0 ≤ maxLen) (hl1 : n1 ≤ maxLen) (hlu : un ≤ maxLen) (h1 : Strs w a0 n0 xs) (h2 : Strs w a1 n1 ys) (hu : UpsI w ua un l) (hs0 : s0.size ≤ maxLen) (RX RY : List ByteArray) (rep rnx : Int) (rus : List U) (rc : Int) (hRX : SzS n0 xs n1 ys un l → RX.length ≤ 1048576 ∧ RY.length ≤ 1048576 ∧ rus.length ≤ 1048576 ∧ ∀ u ∈ rus, u.zs.length ≤ 1048576)
    (HSp : ∀ (g g' gu lo : Nat) (l' : List UE) (W : World), Below w.heap.size w W → SzS n0 xs n1 ys un l → StoAt W lo (some ⟨g, 0, none⟩) n0 n0 xs (some ⟨g', 0, none⟩) n1 n1 ys (some ⟨gu, 0, none⟩) un un l' → l'.map UE.u = l.map UE.u → (∀ e ∈ l', e.n ≤ 1048576) → Calls Tryz.prog 8 #[.agg #[.slice (some ⟨g, 0, none⟩) n0 n0, .slice (some ⟨g', 0, none⟩) n1 n1, .int .i64 ep, .int .i64 nx, .slice (some ⟨gu, 0, none⟩) un un], .string s0, .int .i64 i1] W fun e w' => (∃ v, e = .returned (.tuple #[v, .int .i64 rc]) ∧ AnsS W.heap.size RX RY rep rnx rus v w') ∧ Below W.heap.size W w')
    (HIm : ∀ (g g' gu lo : Nat) (l' : List UE) (W : World), Below w.heap.size w W → SzS n0 xs n1 ys un l → StoAt W lo (some ⟨g, 0, none⟩) n0 n0 xs (some ⟨g', 0, none⟩) n1 n1 ys (some ⟨gu, 0, none⟩) un un l' → l'.map UE.u = l.map UE.u → (∀ e ∈ l', e.n ≤ 1048576) → Calls Tryz.prog 10 #[.agg #[.slice (some ⟨g, 0, none⟩) n0 n0, .slice (some ⟨g', 0, none⟩) n1 n1, .int .i64 ep, .int .i64 nx, .slice (some ⟨gu, 0, none⟩) un un], .string s0, .int .i64 i1] W fun e w' => (∃ v, e = .returned (.tuple #[v, .int .i64 rc]) ∧ AnsS W.heap.size RX RY rep rnx rus v w') ∧ Below W.heap.size W w') :
    Calls Tryz.prog 3 #[.agg #[.slice a0 n0 ca0, .slice a1 n1 ca1, .int .i64 ep, .int .i64 nx, .slice ua un uc], .string s0, .int .i64 i1] w fun e w' => e = .returned (.bool true) ∧ Below w.heap.size w w' := by
  have hmm : maxLen < 9223372036854775808 := by decide
  obtain ⟨w0, hw0⟩ : ∃ w0, w.alloc (.cells #[.slice a0 n0 ca0, .slice a1 n1 ca1, .int .i64 ep, .int .i64 nx, .slice ua un uc] 27) = w0 := ⟨_, rfl⟩
  have HE : Hid (w.alloc (.cells #[.slice a0 n0 ca0, .slice a1 n1 ca1, .int .i64 ep, .int .i64 nx, .slice ua un uc] 27) = w0) := hw0
  have hB0 : Below w.heap.size w w0 := by rw [← hw0]; exact (Below.refl _ _).alloc (Nat.le_refl _) _
  have hQ0 : BoxN w0 w.heap.size 27 [.slice a0 n0 ca0, .slice a1 n1 ca1, .int .i64 ep, .int .i64 nx, .slice ua un uc] := by rw [← hw0]; exact BoxN.new _ _ _
  have HX : Hid (∀ W, Below w0.heap.size w0 W → BoxN W w.heap.size 27 [.slice a0 n0 ca0, .slice a1 n1 ca1, .int .i64 ep, .int .i64 nx, .slice ua un uc] ∧ Strs W a0 n0 xs ∧ Strs W a1 n1 ys ∧ UpsI W ua un l ∧ Below w.heap.size w W) := fun W hb => ⟨hQ0.stays hb, (h1.below hB0).below hb, (h2.below hB0).below hb, (hu.below hB0).below hb, hB0.trans (hb.mono hB0.size)⟩
  have hww : w.heap.size < w0.heap.size := hQ0.lt
  have HP : Hid (∀ (g g' gu lo : Nat) (l' : List UE) (W : World), Below w.heap.size w W → SzS n0 xs n1 ys un l → StoAt W lo (some ⟨g, 0, none⟩) n0 n0 xs (some ⟨g', 0, none⟩) n1 n1 ys (some ⟨gu, 0, none⟩) un un l' → l'.map UE.u = l.map UE.u → (∀ e ∈ l', e.n ≤ 1048576) → Calls Tryz.prog 8 #[.agg #[.slice (some ⟨g, 0, none⟩) n0 n0, .slice (some ⟨g', 0, none⟩) n1 n1, .int .i64 ep, .int .i64 nx, .slice (some ⟨gu, 0, none⟩) un un], .string s0, .int .i64 i1] W fun e w' => (∃ v, e = .returned (.tuple #[v, .int .i64 rc]) ∧ AnsS W.heap.size RX RY rep rnx rus v w') ∧ Below W.heap.size W w') := HSp
  have HI : Hid (∀ (g g' gu lo : Nat) (l' : List UE) (W : World), Below w.heap.size w W → SzS n0 xs n1 ys un l → StoAt W lo (some ⟨g, 0, none⟩) n0 n0 xs (some ⟨g', 0, none⟩) n1 n1 ys (some ⟨gu, 0, none⟩) un un l' → l'.map UE.u = l.map UE.u → (∀ e ∈ l', e.n ≤ 1048576) → Calls Tryz.prog 10 #[.agg #[.slice (some ⟨g, 0, none⟩) n0 n0, .slice (some ⟨g', 0, none⟩) n1 n1, .int .i64 ep, .int .i64 nx, .slice (some ⟨gu, 0, none⟩) un un], .string s0, .int .i64 i1] W fun e w' => (∃ v, e = .returned (.tuple #[v, .int .i64 rc]) ∧ AnsS W.heap.size RX RY rep rnx rus v w') ∧ Below W.heap.size W w') := HIm
  have HA0 : Hid (Below w0.heap.size w0 w0) := Below.refl _ _
  clear hw0 h1 h2 hu HSp HIm hQ0 hB0
  by_cases hid0 : 1048576 < (s0.size : Int)
  · have HBw : Hid (Below w.heap.size w w0) := (HX.out _ HA0.out).2.2.2.2
    go_enter Tryz.func3, Tryz.ntmps3
    go_upto_region 1 with fail
    rw [HE.out]
    clear HE
    go_wp2_with fail
    go_ret
    exact ⟨rfl, HBw.out⟩
  have hidd0 : decide (1048576 < (s0.size : Int)) = false := by simpa using hid0
  obtain ⟨c0, c1, c2, c3, c4⟩ := (show _ ∧ _ ∧ _ ∧ _ ∧ _ from ⟨(HX.out _ HA0.out).1.cell 0 rfl, (HX.out _ HA0.out).1.cell 1 rfl, (HX.out _ HA0.out).1.cell 2 rfl, (HX.out _ HA0.out).1.cell 3 rfl, (HX.out _ HA0.out).1.cell 4 rfl⟩)
  go_enter Tryz.func3, Tryz.ntmps3
  go_upto_region 1 with fail
  rw [HE.out]
  clear HE
  go_wp2_with fail
  refine (szStore_any a0 n0 ca0 xs a1 n1 ca1 ys ep nx ua un uc l w0 (HX.out _ HA0.out).2.1 (HX.out _ HA0.out).2.2.1 (HX.out _ HA0.out).2.2.2.1 hl0 hl1 hlu).mono ?_
  rintro e x0 ⟨⟨L, rfl, hL⟩, hb0⟩
  have HB0 : Hid (Below w0.heap.size w0 x0) := hb0
  clear hb0 c0 c1 c2 c3 c4
  by_cases hneg : L < 0
  · have HBw : Hid (Below w.heap.size w x0) := (HX.out _ HB0.out).2.2.2.2
    clear hL
    go_wp2_with fail
    go_ret
    exact ⟨rfl, HBw.out⟩
  have HSz : Hid (SzS n0 xs n1 ys un l) := by
    rcases hL with h | h
    · exact absurd h hneg
    · exact h.1
  have hun1 : un ≤ 1048576 := HSz.out.2.2.2.2.1
  have hn01 : n0 ≤ 1048576 := HSz.out.1
  have hn11 : n1 ≤ 1048576 := HSz.out.2.1
  clear hL
  have HTs : Hid (∀ W, Below w0.heap.size w0 W → Calls Tryz.prog 9 #[.agg #[.slice a0 n0 ca0, .slice a1 n1 ca1, .int .i64 ep, .int .i64 nx, .slice ua un uc]] W fun r w' => (∃ g g' gu l', r = .returned (.agg #[.slice (some ⟨g, 0, none⟩) n0 n0, .slice (some ⟨g', 0, none⟩) n1 n1, .int .i64 ep, .int .i64 nx, .slice (some ⟨gu, 0, none⟩) un un]) ∧ StoAt w' W.heap.size (some ⟨g, 0, none⟩) n0 n0 xs (some ⟨g', 0, none⟩) n1 n1 ys (some ⟨gu, 0, none⟩) un un l' ∧ l'.map UE.u = l.map UE.u ∧ ∀ e ∈ l', e.n ≤ 1048576) ∧ Below W.heap.size W w') := fun W hb => toStore_any a0 n0 ca0 xs a1 n1 ca1 ys ep nx ua un uc l W (HX.out _ hb).2.1 (HX.out _ hb).2.2.1 (HX.out _ hb).2.2.2.1 HSz.out
  obtain ⟨N, hN⟩ : ∃ N, RX.length = N := ⟨_, rfl⟩
  obtain ⟨N', hN'⟩ : ∃ N', RY.length = N' := ⟨_, rfl⟩
  obtain ⟨K, hK⟩ : ∃ K, rus.length = K := ⟨_, rfl⟩
  have hRb := hRX HSz.out
  rw [hN, hN', hK] at hRb
  have hNb : N ≤ 1048576 := hRb.1
  have hNb' : N' ≤ 1048576 := hRb.2.1
  have hKb : K ≤ 1048576 := hRb.2.2.1
  have HAn : Hid (∀ base v W, AnsS base RX RY rep rnx rus v W → ∃ a c a' c' u uc lx, v = .agg #[.slice a N c, .slice a' N' c', .int .i64 rep, .int .i64 rnx, .slice u K uc] ∧ StoAt W base a N c RX a' N' c' RY u K uc lx ∧ lx.map UE.u = rus ∧ (∀ e ∈ lx, e.n ≤ 1048576) ∧ mkUEnd (1 + N + N') lx ≤ 2199023255552) := fun base v W h => by
    obtain ⟨a, c, a', c', u, uc, lx, h1, h2, h3⟩ := h.get
    rw [hN, hN', hK] at h1 h2
    have hz : ∀ e ∈ lx, e.n ≤ 1048576 := fun e he => by
      have h4 := (h2.ups.2.1 e he).seg.1
      have h5 := hRb.2.2.2 e.u (by rw [← h3]; exact List.mem_map_of_mem he)
      omega
    refine ⟨a, c, a', c', u, uc, lx, h1, h2, h3, hz, ?_⟩
    have h6 := mkUEnd_le (1 + N + N') 1048576 lx hz
    have h7 := h2.len
    have h8 : (3 + 1048576) * lx.length ≤ (3 + 1048576) * 1048576 := Nat.mul_le_mul_left _ (by omega)
    omega
  clear hN hN' hK hRb hRX
  obtain ⟨c0, c1, c2, c3, c4⟩ := (show _ ∧ _ ∧ _ ∧ _ ∧ _ from ⟨(HX.out _ HB0.out).1.cell 0 rfl, (HX.out _ HB0.out).1.cell 1 rfl, (HX.out _ HB0.out).1.cell 2 rfl, (HX.out _ HB0.out).1.cell 3 rfl, (HX.out _ HB0.out).1.cell 4 rfl⟩)
  go_wp2_with fail
  refine (HTs.out _ HB0.out).mono ?_
  rintro e x1 ⟨⟨g1, g1', gu1, l1, rfl, hs1, hm1, hz1⟩, hb1⟩
  have HB1 : Hid (Below w0.heap.size w0 x1) := HB0.out.trans (hb1.mono HB0.out.size)
  have HS1 : Hid (StoAt x1 x0.heap.size (some ⟨g1, 0, none⟩) n0 n0 xs (some ⟨g1', 0, none⟩) n1 n1 ys (some ⟨gu1, 0, none⟩) un un l1 ∧ l1.map UE.u = l.map UE.u ∧ ∀ e ∈ l1, e.n ≤ 1048576) := ⟨hs1, hm1, hz1⟩
  clear hs1 hm1 hz1 hb1 c0 c1 c2 c3 c4
  go_wp2_with fail
  refine (HP.out _ _ _ _ l1 x1 (HX.out _ HB1.out).2.2.2.2 HSz.out HS1.out.1 HS1.out.2.1 HS1.out.2.2).mono ?_
  rintro e x2 ⟨⟨vx2, rfl, hvx2⟩, hb2⟩
  obtain ⟨wa, wc, wa', wc', wu, wuc, lw, rfl, hsx2, hmx2, hzx2, hEx2⟩ := HAn.out _ _ _ hvx2
  have HAw : Hid (SAt (x2.alloc (.cells #[.slice wa N wc, .slice wa' N' wc', .int .i64 rep, .int .i64 rnx, .slice wu K wuc] 32)) x1.heap.size x2.heap.size wa N wc RX wa' N' wc' RY rep rnx wu K wuc lw) := SAt.new hsx2 hb2.size
  have HB2 : Hid (Below w0.heap.size w0 (x2.alloc (.cells #[.slice wa N wc, .slice wa' N' wc', .int .i64 rep, .int .i64 rnx, .slice wu K wuc] 32))) := (HB1.out.trans (hb2.mono HB1.out.size)).alloc (HB1.out.trans (hb2.mono HB1.out.size)).size _
  have HZ2 : Hid ((x2.alloc (.cells #[.slice wa N wc, .slice wa' N' wc', .int .i64 rep, .int .i64 rnx, .slice wu K wuc] 32)).heap.size = x2.heap.size + 1) := by show _ = _; simp
  have HMw : Hid (lw.map UE.u = rus ∧ ∀ e ∈ lw, e.n ≤ 1048576) := ⟨hmx2, hzx2⟩
  have hz12 : x1.heap.size ≤ x2.heap.size := hb2.size
  have hz01 : w0.heap.size ≤ x1.heap.size := HB1.out.size
  have hrn : (rc != rc) = false := by simp
  clear hvx2 hsx2 hmx2 hzx2 hEx2 hb2 HS1 HP
  obtain ⟨c0, c1, c2, c3, c4⟩ := (show _ ∧ _ ∧ _ ∧ _ ∧ _ from ⟨(HX.out _ HB2.out).1.cell 0 rfl, (HX.out _ HB2.out).1.cell 1 rfl, (HX.out _ HB2.out).1.cell 2 rfl, (HX.out _ HB2.out).1.cell 3 rfl, (HX.out _ HB2.out).1.cell 4 rfl⟩)
  go_wp2_with fail
  obtain ⟨w2, hw2⟩ : ∃ w2, x2.alloc (.cells #[.slice wa N wc, .slice wa' N' wc', .int .i64 rep, .int .i64 rnx, .slice wu K wuc] 32) = w2 := ⟨_, rfl⟩
  rw [hw2] at HAw HB2 HZ2 ⊢
  clear hw2
  generalize x2.heap.size = bw at *
  refine (HTs.out _ HB2.out).mono ?_
  rintro e x3 ⟨⟨g3, g3', gu3, l3, rfl, hs3, hm3, hz3⟩, hb3⟩
  have HAx : Hid (SAt (x3.alloc (.cells #[.slice (some ⟨g3, 0, none⟩) n0 n0, .slice (some ⟨g3', 0, none⟩) n1 n1, .int .i64 ep, .int .i64 nx, .slice (some ⟨gu3, 0, none⟩) un un] 32)) w2.heap.size x3.heap.size (some ⟨g3, 0, none⟩) n0 n0 xs (some ⟨g3', 0, none⟩) n1 n1 ys ep nx (some ⟨gu3, 0, none⟩) un un l3) := SAt.new hs3 hb3.size
  have HM3 : Hid (l3.map UE.u = l.map UE.u ∧ (∀ e ∈ l3, e.n ≤ 1048576)) := ⟨hm3, hz3⟩
  have HBa : Hid (Below w2.heap.size w2 (x3.alloc (.cells #[.slice (some ⟨g3, 0, none⟩) n0 n0, .slice (some ⟨g3', 0, none⟩) n1 n1, .int .i64 ep, .int .i64 nx, .slice (some ⟨gu3, 0, none⟩) un un] 32))) := hb3.alloc hb3.size _
  have HZ4 : Hid ((x3.alloc (.cells #[.slice (some ⟨g3, 0, none⟩) n0 n0, .slice (some ⟨g3', 0, none⟩) n1 n1, .int .i64 ep, .int .i64 nx, .slice (some ⟨gu3, 0, none⟩) un un] 32)).heap.size = x3.heap.size + 1) := by show _ = _; simp
  have hz23 : w2.heap.size ≤ x3.heap.size := hb3.size
  clear hs3 hm3 hz3 hb3 c0 c1 c2 c3 c4
  obtain ⟨d0, d1, d2, d3, d4⟩ := (show _ ∧ _ ∧ _ ∧ _ ∧ _ from ⟨HAx.out.box.cell 0 rfl, HAx.out.box.cell 1 rfl, HAx.out.box.cell 2 rfl, HAx.out.box.cell 3 rfl, HAx.out.box.cell 4 rfl⟩)
  go_wp2_with fail
  obtain ⟨w3, hw3⟩ : ∃ w3, x3.alloc (.cells #[.slice (some ⟨g3, 0, none⟩) n0 n0, .slice (some ⟨g3', 0, none⟩) n1 n1, .int .i64 ep, .int .i64 nx, .slice (some ⟨gu3, 0, none⟩) un un] 32) = w3 := ⟨_, rfl⟩
  rw [hw3] at HAx HBa HZ4 ⊢
  clear hw3 d0 d1 d2 d3 d4
  have HB3 : Hid (Below w0.heap.size w0 w3) := HB2.out.trans (HBa.out.mono HB2.out.size)
  have HAw3 : Hid (SAt w3 x1.heap.size bw wa N wc RX wa' N' wc' RY rep rnx wu K wuc lw) := HAw.out.stays HBa.out
  clear HAw
  clear HBa HB2
  generalize x3.heap.size = bx at *
  refine (HI.out _ _ _ _ l3 w3 (HX.out _ HB3.out).2.2.2.2 HSz.out HAx.out.sto HM3.out.1 HM3.out.2).mono ?_
  rintro e x4 ⟨⟨vx4, rfl, hvx4⟩, hb4⟩
  obtain ⟨ga, gc, ga', gc', gu, guc, lg, rfl, hsx4, hmx4, hzx4, hEx4⟩ := HAn.out _ _ _ hvx4
  have HAg : Hid (SAt (x4.alloc (.cells #[.slice ga N gc, .slice ga' N' gc', .int .i64 rep, .int .i64 rnx, .slice gu K guc] 32)) w3.heap.size x4.heap.size ga N gc RX ga' N' gc' RY rep rnx gu K guc lg) := SAt.new hsx4 hb4.size
  have HBb : Hid (Below w3.heap.size w3 (x4.alloc (.cells #[.slice ga N gc, .slice ga' N' gc', .int .i64 rep, .int .i64 rnx, .slice gu K guc] 32))) := hb4.alloc hb4.size _
  have HMg : Hid (lg.map UE.u = rus ∧ (∀ e ∈ lg, e.n ≤ 1048576) ∧ mkUEnd (1 + N + N') lg ≤ 2199023255552) := ⟨hmx4, hzx4, hEx4⟩
  have hz34 : w3.heap.size ≤ x4.heap.size := hb4.size
  clear hvx4 hsx4 hmx4 hzx4 hEx4 hb4
  have HAw4 : Hid (SAt (x4.alloc (.cells #[.slice ga N gc, .slice ga' N' gc', .int .i64 rep, .int .i64 rnx, .slice gu K guc] 32)) x1.heap.size bw wa N wc RX wa' N' wc' RY rep rnx wu K wuc lw) := HAw3.out.stays HBb.out
  have HAx4 : Hid (SAt (x4.alloc (.cells #[.slice ga N gc, .slice ga' N' gc', .int .i64 rep, .int .i64 rnx, .slice gu K guc] 32)) w2.heap.size bx (some ⟨g3, 0, none⟩) n0 n0 xs (some ⟨g3', 0, none⟩) n1 n1 ys ep nx (some ⟨gu3, 0, none⟩) un un l3) := HAx.out.stays HBb.out
  have HB4 : Hid (Below w0.heap.size w0 (x4.alloc (.cells #[.slice ga N gc, .slice ga' N' gc', .int .i64 rep, .int .i64 rnx, .slice gu K guc] 32))) := HB3.out.trans (HBb.out.mono HB3.out.size)
  clear HAw3 HAx HBb HB3
  obtain ⟨p0, p1, p2, p3, p4⟩ := (show _ ∧ _ ∧ _ ∧ _ ∧ _ from ⟨HAw4.out.box.cell 0 rfl, HAw4.out.box.cell 1 rfl, HAw4.out.box.cell 2 rfl, HAw4.out.box.cell 3 rfl, HAw4.out.box.cell 4 rfl⟩)
  obtain ⟨q0, q1, q2, q3, q4⟩ := (show _ ∧ _ ∧ _ ∧ _ ∧ _ from ⟨HAg.out.box.cell 0 rfl, HAg.out.box.cell 1 rfl, HAg.out.box.cell 2 rfl, HAg.out.box.cell 3 rfl, HAg.out.box.cell 4 rfl⟩)
  go_wp2_with fail
  obtain ⟨w4, hw4⟩ : ∃ w4, x4.alloc (.cells #[.slice ga N gc, .slice ga' N' gc', .int .i64 rep, .int .i64 rnx, .slice gu K guc] 32) = w4 := ⟨_, rfl⟩
  rw [hw4] at HAw4 HAx4 HAg HB4 ⊢
  clear hw4 p0 p1 p2 p3 p4 q0 q1 q2 q3 q4
  generalize x4.heap.size = bg at *
  refine (eqStore_same ga wa N gc wc RX ga' wa' N' gc' wc' RY rep rnx gu K guc w3.heap.size lg wu K wuc x1.heap.size lw w4 HAg.out.sto.now.strs HAw4.out.sto.now.strs HAg.out.sto.sure.strs HAw4.out.sto.sure.strs HAg.out.sto.ups HAw4.out.sto.ups HAg.out.sto.len HAw4.out.sto.len (by rw [HMg.out.1, HMw.out.1]) (by omega) (by omega) (by omega) (fun e he => by have := HMg.out.2.1 e he; omega)).mono ?_
  rintro e x5 ⟨rfl, hb5⟩
  have HAw5 : Hid (SAt x5 x1.heap.size bw wa N wc RX wa' N' wc' RY rep rnx wu K wuc lw) := HAw4.out.stays hb5
  have HAx5 : Hid (SAt x5 w2.heap.size bx (some ⟨g3, 0, none⟩) n0 n0 xs (some ⟨g3', 0, none⟩) n1 n1 ys ep nx (some ⟨gu3, 0, none⟩) un un l3) := HAx4.out.stays hb5
  have HAg5 : Hid (SAt x5 w3.heap.size bg ga N gc RX ga' N' gc' RY rep rnx gu K guc lg) := HAg.out.stays hb5
  have HB5 : Hid (Below w0.heap.size w0 x5) := HB4.out.trans (hb5.mono HB4.out.size)
  clear hb5 HAw4 HAx4 HAg HB4
  obtain ⟨c0, c1, c2, c3, c4⟩ := (show _ ∧ _ ∧ _ ∧ _ ∧ _ from ⟨(HX.out _ HB5.out).1.cell 0 rfl, (HX.out _ HB5.out).1.cell 1 rfl, (HX.out _ HB5.out).1.cell 2 rfl, (HX.out _ HB5.out).1.cell 3 rfl, (HX.out _ HB5.out).1.cell 4 rfl⟩)
  obtain ⟨d0, d1, d2, d3, d4⟩ := (show _ ∧ _ ∧ _ ∧ _ ∧ _ from ⟨HAx5.out.box.cell 0 rfl, HAx5.out.box.cell 1 rfl, HAx5.out.box.cell 2 rfl, HAx5.out.box.cell 3 rfl, HAx5.out.box.cell 4 rfl⟩)
  go_upto_region 12 with fail
  go_region_held3 (fun W => (W.cell? ⟨bx, 0, none⟩ = some (.slice (some ⟨g3, 0, none⟩) n0 n0) ∧ W.cell? ⟨bx, 1, none⟩ = some (.slice (some ⟨g3', 0, none⟩) n1 n1) ∧ W.cell? ⟨bx, 2, none⟩ = some (.int .i64 ep) ∧ W.cell? ⟨bx, 3, none⟩ = some (.int .i64 nx) ∧ W.cell? ⟨bx, 4, none⟩ = some (.slice (some ⟨gu3, 0, none⟩) un un)) ∧ W.cell? ⟨w.heap.size, 0, none⟩ = some (.slice a0 n0 ca0) ∧ W.cell? ⟨w.heap.size, 1, none⟩ = some (.slice a1 n1 ca1) ∧ W.cell? ⟨w.heap.size, 2, none⟩ = some (.int .i64 ep) ∧ W.cell? ⟨w.heap.size, 3, none⟩ = some (.int .i64 nx) ∧ W.cell? ⟨w.heap.size, 4, none⟩ = some (.slice ua un uc)) (first | with_reducible exact ⟨⟨i0, i1, i2, i3, i4⟩, e0, e1, e2, e3, e4⟩ | with_reducible exact ⟨⟨d0, d1, d2, d3, d4⟩, c0, c1, c2, c3, c4⟩ | exact ⟨⟨d0, d1, d2, d3, d4⟩, c0, c1, c2, c3, c4⟩) (first
    | (go_at_call 9; refine (HTs.out _ (HB5.out.drew)).mono ?_; rintro _ x6 ⟨⟨g6, g6', gu6, l6, rfl, hs6, hm6, hz6⟩, hb6⟩
       have hb6' : Below x5.heap.size x5 x6 := (Below.refl x5.heap.size x5).drew.trans (hb6.mono (Nat.le_refl _))
       have hB6 : Below w0.heap.size w0 x6 := HB5.out.trans (hb6'.mono HB5.out.size)
       have e0 := (HX.out _ hB6).1.cell 0 rfl
       have e1 := (HX.out _ hB6).1.cell 1 rfl
       have e2 := (HX.out _ hB6).1.cell 2 rfl
       have e3 := (HX.out _ hB6).1.cell 3 rfl
       have e4 := (HX.out _ hB6).1.cell 4 rfl
       have i0 := (HAx5.out.stays hb6').box.cell 0 rfl
       have i1 := (HAx5.out.stays hb6').box.cell 1 rfl
       have i2 := (HAx5.out.stays hb6').box.cell 2 rfl
       have i3 := (HAx5.out.stays hb6').box.cell 3 rfl
       have i4 := (HAx5.out.stays hb6').box.cell 4 rfl)
    | (go_at_call 11; refine (eqStore_same (some ⟨g3, 0, none⟩) (some ⟨g6, 0, none⟩) n0 n0 n0 xs (some ⟨g3', 0, none⟩) (some ⟨g6', 0, none⟩) n1 n1 n1 ys ep nx (some ⟨gu3, 0, none⟩) un un w2.heap.size l3 (some ⟨gu6, 0, none⟩) un un x5.heap.size l6 x6 (HAx5.out.stays hb6').sto.now.strs hs6.now.strs (HAx5.out.stays hb6').sto.sure.strs hs6.sure.strs (HAx5.out.stays hb6').sto.ups hs6.ups HAx5.out.sto.len hs6.len (by rw [HM3.out.1, hm6]) (by omega) (by omega) (by omega) (fun e he => by have := HM3.out.2 e he; omega)).mono ?_; rintro _ x7 ⟨rfl, hb7⟩
       have hb7' : Below x5.heap.size x5 x7 := hb6'.trans (hb7.mono hb6'.size)
       have hB7 : Below w0.heap.size w0 x7 := HB5.out.trans (hb7'.mono HB5.out.size)
       have e0 := (HX.out _ hB7).1.cell 0 rfl
       have e1 := (HX.out _ hB7).1.cell 1 rfl
       have e2 := (HX.out _ hB7).1.cell 2 rfl
       have e3 := (HX.out _ hB7).1.cell 3 rfl
       have e4 := (HX.out _ hB7).1.cell 4 rfl
       have i0 := (HAx5.out.stays hb7').box.cell 0 rfl
       have i1 := (HAx5.out.stays hb7').box.cell 1 rfl
       have i2 := (HAx5.out.stays hb7').box.cell 2 rfl
       have i3 := (HAx5.out.stays hb7').box.cell 3 rfl
       have i4 := (HAx5.out.stays hb7').box.cell 4 rfl)
    | fail)
  have HAw7 : Hid (SAt x7 x1.heap.size bw wa N wc RX wa' N' wc' RY rep rnx wu K wuc lw) := HAw5.out.stays hb7'
  have HAx7 : Hid (SAt x7 w2.heap.size bx (some ⟨g3, 0, none⟩) n0 n0 xs (some ⟨g3', 0, none⟩) n1 n1 ys ep nx (some ⟨gu3, 0, none⟩) un un l3) := HAx5.out.stays hb7'
  have HAg7 : Hid (SAt x7 w3.heap.size bg ga N gc RX ga' N' gc' RY rep rnx gu K guc lg) := HAg5.out.stays hb7'
  have HB7 : Hid (Below w0.heap.size w0 x7) := hB7
  clear hs6 hm6 hz6 hb6 hb6' hB6 hb7 hb7' hB7 e0 e1 e2 e3 e4 i0 i1 i2 i3 i4 c0 c1 c2 c3 c4 d0 d1 d2 d3 d4 HAw5 HAx5 HAg5 HB5
  obtain ⟨d0, d1, d2, d3, d4⟩ := (show _ ∧ _ ∧ _ ∧ _ ∧ _ from ⟨HAx7.out.box.cell 0 rfl, HAx7.out.box.cell 1 rfl, HAx7.out.box.cell 2 rfl, HAx7.out.box.cell 3 rfl, HAx7.out.box.cell 4 rfl⟩)
  have HEnd : Hid (mkUEnd (1 + n0 + n1) l3 ≤ 2199023255552) := by
    have h1 := mkUEnd_le (1 + n0 + n1) 1048576 l3 HM3.out.2
    have h2 := HAx7.out.sto.len
    have h3 : (3 + 1048576) * l3.length ≤ (3 + 1048576) * 1048576 := Nat.mul_le_mul_left _ (by omega)
    show _ ≤ _
    omega
  go_wp2_with fail
  refine (markStore_any w2.heap.size (some ⟨g3, 0, none⟩) n0 n0 xs (some ⟨g3', 0, none⟩) n1 n1 ys ep nx (some ⟨gu3, 0, none⟩) un un l3 1 x7 HAx7.out.sto (by omega) (by omega) (by omega) (by omega) HEnd.out bx HAx7.out.inn).mono ?_
  rintro e x8 ⟨rfl, _, hw8⟩
  have hz2 := HZ2.out
  have hz4 := HZ4.out
  have hl3 : w2.heap.size ≤ bx := HAx7.out.lob
  have hl1x : x1.heap.size ≤ bw := HAw7.out.lob
  have HAw8 : Hid (SAt x8 x1.heap.size bw wa N wc RX wa' N' wc' RY rep rnx wu K wuc lw) := HAw7.out.kept hw8 (.inl (by omega))
  have HAg8 : Hid (SAt x8 w3.heap.size bg ga N gc RX ga' N' gc' RY rep rnx gu K guc lg) := HAg7.out.kept hw8 (.inr (by omega))
  have HB8 : Hid (Below w0.heap.size w0 x8) := HB7.out.trans ((hw8.below (by have := HAw7.out.box.lt; have := HAx7.out.box.lt; omega)).mono (by omega))
  obtain ⟨kk, hkk⟩ : ∃ kk, mkUEnd (1 + n0 + n1) l3 = kk := ⟨_, rfl⟩
  rw [hkk]
  have hkp : ¬ (kk : Int) < 0 := by omega
  have hkd : decide ((kk : Int) < 0) = false := by simp
  clear hkk hw8 d0 d1 d2 d3 d4 HAw7 HAx7 HAg7 HB7
  obtain ⟨p0, p1, p2, p3, p4⟩ := (show _ ∧ _ ∧ _ ∧ _ ∧ _ from ⟨HAw8.out.box.cell 0 rfl, HAw8.out.box.cell 1 rfl, HAw8.out.box.cell 2 rfl, HAw8.out.box.cell 3 rfl, HAw8.out.box.cell 4 rfl⟩)
  obtain ⟨q0, q1, q2, q3, q4⟩ := (show _ ∧ _ ∧ _ ∧ _ ∧ _ from ⟨HAg8.out.box.cell 0 rfl, HAg8.out.box.cell 1 rfl, HAg8.out.box.cell 2 rfl, HAg8.out.box.cell 3 rfl, HAg8.out.box.cell 4 rfl⟩)
  go_wp2_with fail
  refine (eqStore_same ga wa N gc wc RX ga' wa' N' gc' wc' RY rep rnx gu K guc w3.heap.size lg wu K wuc x1.heap.size lw x8 HAg8.out.sto.now.strs HAw8.out.sto.now.strs HAg8.out.sto.sure.strs HAw8.out.sto.sure.strs HAg8.out.sto.ups HAw8.out.sto.ups HAg8.out.sto.len HAw8.out.sto.len (by rw [HMg.out.1, HMw.out.1]) (by omega) (by omega) (by omega) (fun e he => by have := HMg.out.2.1 e he; omega)).mono ?_
  rintro e x9 ⟨rfl, hb9⟩
  have HAw9 : Hid (SAt x9 x1.heap.size bw wa N wc RX wa' N' wc' RY rep rnx wu K wuc lw) := HAw8.out.stays hb9
  have HAg9 : Hid (SAt x9 w3.heap.size bg ga N gc RX ga' N' gc' RY rep rnx gu K guc lg) := HAg8.out.stays hb9
  have HB9 : Hid (Below w0.heap.size w0 x9) := HB8.out.trans (hb9.mono HB8.out.size)
  clear hb9 p0 p1 p2 p3 p4 q0 q1 q2 q3 q4 HAw8 HAg8 HB8
  obtain ⟨q0, q1, q2, q3, q4⟩ := (show _ ∧ _ ∧ _ ∧ _ ∧ _ from ⟨HAg9.out.box.cell 0 rfl, HAg9.out.box.cell 1 rfl, HAg9.out.box.cell 2 rfl, HAg9.out.box.cell 3 rfl, HAg9.out.box.cell 4 rfl⟩)
  go_wp2_with fail
  refine (markStore_any w3.heap.size ga N gc RX ga' N' gc' RY rep rnx gu K guc lg 1 x9 HAg9.out.sto (by omega) (by omega) (by omega) (by omega) HMg.out.2.2 bg HAg9.out.inn).mono ?_
  rintro e x10 ⟨rfl, hm10, hw10⟩
  have hl9 : w3.heap.size ≤ bg := HAg9.out.lob
  have HAw10 : Hid (SAt x10 x1.heap.size bw wa N wc RX wa' N' wc' RY rep rnx wu K wuc lw) := HAw9.out.kept hw10 (.inl (by omega))
  obtain ⟨hx10, hk10⟩ := HAg9.out.marked hm10 hw10
  have HBx : Hid (BoxN x10 bg 32 [.slice ga N gc, .slice ga' N' gc', .int .i64 rep, .int .i64 rnx, .slice gu K guc]) := hx10
  have HMk : Hid (StoMkd x10 w3.heap.size 1 ga N gc ga' N' gc' gu K guc lg) := hk10
  have HB10 : Hid (Below w0.heap.size w0 x10) := HB9.out.trans ((hw10.below (by have := HAg9.out.box.lt; omega)).mono (by omega))
  clear hm10 hw10 hx10 hk10 q0 q1 q2 q3 q4 HAw9 HAg9 HB9
  have HHG : Hid (∀ W : World, StoMkd W w3.heap.size 1 ga N gc ga' N' gc' gu K guc lg → Calls Tryz.prog 13 #[.agg #[.slice ga N gc, .slice ga' N' gc', .int .i64 rep, .int .i64 rnx, .slice gu K guc], .int .i64 1] W fun e w' => e = .returned (.int .i64 (mkUEnd (1 + N + N') lg : Int)) ∧ Below W.heap.size W w') := fun W h => heldStore_any w3.heap.size ga N gc ga' N' gc' rep rnx gu K guc lg 1 W h (by omega) (by omega) (by omega) (by omega) HMg.out.2.2
  generalize hq10 : ((mkUEnd (1 + N + N') lg : Nat) : Int) = q10 at *
  have hq10p : ¬ q10 < 0 := by omega
  have hq10d : decide (q10 < 0) = false := by simp; omega
  have hq10e : (q10 != q10) = false := by simp
  clear hq10
  obtain ⟨q0, q1, q2, q3, q4⟩ := (show _ ∧ _ ∧ _ ∧ _ ∧ _ from ⟨HBx.out.cell 0 rfl, HBx.out.cell 1 rfl, HBx.out.cell 2 rfl, HBx.out.cell 3 rfl, HBx.out.cell 4 rfl⟩)
  go_wp2_with fail
  refine (HHG.out _ HMk.out).mono ?_
  rintro e x11 ⟨rfl, hb11⟩
  have HAw11 : Hid (SAt x11 x1.heap.size bw wa N wc RX wa' N' wc' RY rep rnx wu K wuc lw) := HAw10.out.stays hb11
  have HBx11 : Hid (BoxN x11 bg 32 [.slice ga N gc, .slice ga' N' gc', .int .i64 rep, .int .i64 rnx, .slice gu K guc]) := HBx.out.stays hb11
  have HMk11 : Hid (StoMkd x11 w3.heap.size 1 ga N gc ga' N' gc' gu K guc lg) := StoAt.stays HMk.out hb11
  have HB11 : Hid (Below w0.heap.size w0 x11) := HB10.out.trans (hb11.mono HB10.out.size)
  clear hb11 q0 q1 q2 q3 q4 HAw10 HBx HMk HB10
  obtain ⟨c0, c1, c2, c3, c4⟩ := (show _ ∧ _ ∧ _ ∧ _ ∧ _ from ⟨(HX.out _ HB11.out).1.cell 0 rfl, (HX.out _ HB11.out).1.cell 1 rfl, (HX.out _ HB11.out).1.cell 2 rfl, (HX.out _ HB11.out).1.cell 3 rfl, (HX.out _ HB11.out).1.cell 4 rfl⟩)
  go_wp2_with fail
  refine (HTs.out _ HB11.out).mono ?_
  rintro e x12 ⟨⟨g12, g12', gu12, l12, rfl, hs12, hm12, hz12⟩, hb12⟩
  have HS12 : Hid (StoAt x12 x11.heap.size (some ⟨g12, 0, none⟩) n0 n0 xs (some ⟨g12', 0, none⟩) n1 n1 ys (some ⟨gu12, 0, none⟩) un un l12 ∧ l12.map UE.u = l.map UE.u ∧ ∀ e ∈ l12, e.n ≤ 1048576) := ⟨hs12, hm12, hz12⟩
  have HC12 : Hid (Below x11.heap.size x11 x12) := hb12
  have HD12 : Hid (Below w.heap.size w x12) := (HX.out _ (HB11.out.trans (hb12.mono HB11.out.size))).2.2.2.2
  clear hs12 hm12 hz12 hb12 c0 c1 c2 c3 c4
  go_wp2_with fail
  refine (HI.out _ _ _ _ l12 x12 HD12.out HSz.out HS12.out.1 HS12.out.2.1 HS12.out.2.2).mono ?_
  rintro e x13 ⟨⟨vx13, rfl, hvx13⟩, hb13⟩
  obtain ⟨ha, hc, ha', hc', hu, huc, lh, rfl, hsx13, hmx13, hzx13, hEx13⟩ := HAn.out _ _ _ hvx13
  have HAh : Hid (SAt (x13.alloc (.cells #[.slice ha N hc, .slice ha' N' hc', .int .i64 rep, .int .i64 rnx, .slice hu K huc] 32)) x12.heap.size x13.heap.size ha N hc RX ha' N' hc' RY rep rnx hu K huc lh) := SAt.new hsx13 hb13.size
  have HC13 : Hid (Below x11.heap.size x11 (x13.alloc (.cells #[.slice ha N hc, .slice ha' N' hc', .int .i64 rep, .int .i64 rnx, .slice hu K huc] 32))) := (HC12.out.trans (hb13.mono HC12.out.size)).alloc (HC12.out.trans (hb13.mono HC12.out.size)).size _
  have HMh : Hid (lh.map UE.u = rus ∧ ∀ e ∈ lh, e.n ≤ 1048576) := ⟨hmx13, hzx13⟩
  clear hvx13 hsx13 hmx13 hzx13 hEx13 hb13 HC12 HS12 HD12
  have HAw13 : Hid (SAt (x13.alloc (.cells #[.slice ha N hc, .slice ha' N' hc', .int .i64 rep, .int .i64 rnx, .slice hu K huc] 32)) x1.heap.size bw wa N wc RX wa' N' wc' RY rep rnx wu K wuc lw) := HAw11.out.stays HC13.out
  obtain ⟨p0, p1, p2, p3, p4⟩ := (show _ ∧ _ ∧ _ ∧ _ ∧ _ from ⟨HAw13.out.box.cell 0 rfl, HAw13.out.box.cell 1 rfl, HAw13.out.box.cell 2 rfl, HAw13.out.box.cell 3 rfl, HAw13.out.box.cell 4 rfl⟩)
  obtain ⟨q0, q1, q2, q3, q4⟩ := (show _ ∧ _ ∧ _ ∧ _ ∧ _ from ⟨HAh.out.box.cell 0 rfl, HAh.out.box.cell 1 rfl, HAh.out.box.cell 2 rfl, HAh.out.box.cell 3 rfl, HAh.out.box.cell 4 rfl⟩)
  go_wp2_with fail
  obtain ⟨w13, hw13⟩ : ∃ w13, x13.alloc (.cells #[.slice ha N hc, .slice ha' N' hc', .int .i64 rep, .int .i64 rnx, .slice hu K huc] 32) = w13 := ⟨_, rfl⟩
  rw [hw13] at HAh HC13 HAw13 ⊢
  clear hw13 p0 p1 p2 p3 p4 q0 q1 q2 q3 q4
  refine (eqStore_same ha wa N hc wc RX ha' wa' N' hc' wc' RY rep rnx hu K huc x12.heap.size lh wu K wuc x1.heap.size lw w13 HAh.out.sto.now.strs HAw13.out.sto.now.strs HAh.out.sto.sure.strs HAw13.out.sto.sure.strs HAh.out.sto.ups HAw13.out.sto.ups HAh.out.sto.len HAw13.out.sto.len (by rw [HMh.out.1, HMw.out.1]) (by omega) (by omega) (by omega) (fun e he => by have := HMh.out.2 e he; omega)).mono ?_
  rintro e x14 ⟨rfl, hb14⟩
  have HC14 : Hid (Below x11.heap.size x11 x14) := HC13.out.trans (hb14.mono HC13.out.size)
  clear hb14 HC13 HAh HAw13
  have HBx14 : Hid (BoxN x14 bg 32 [.slice ga N gc, .slice ga' N' gc', .int .i64 rep, .int .i64 rnx, .slice gu K guc]) := HBx11.out.stays HC14.out
  have HMk14 : Hid (StoMkd x14 w3.heap.size 1 ga N gc ga' N' gc' gu K guc lg) := StoAt.stays HMk11.out HC14.out
  obtain ⟨q0, q1, q2, q3, q4⟩ := (show _ ∧ _ ∧ _ ∧ _ ∧ _ from ⟨HBx14.out.cell 0 rfl, HBx14.out.cell 1 rfl, HBx14.out.cell 2 rfl, HBx14.out.cell 3 rfl, HBx14.out.cell 4 rfl⟩)
  go_wp2_with fail
  refine (HHG.out _ HMk14.out).mono ?_
  rintro e x15 ⟨rfl, hb15⟩
  have HEn : Hid (Below w.heap.size w x15) := by
    have h1 : Below w0.heap.size w0 x14 := HB11.out.trans (HC14.out.mono HB11.out.size)
    exact (HX.out _ (h1.trans (hb15.mono h1.size))).2.2.2.2
  clear hb15 q0 q1 q2 q3 q4
  go_wp2_with fail
  go_ret
  exact ⟨rfl, HEn.out⟩

end Go.Proofs.YtammmecddnafaaaGreatDoor

namespace Go.Proofs.YtammmecddnafaaaGreatDoor
open Go.RowKit Go.ChangeShapes Go.WideShapes
set_option linter.unusedVariables false

theorem Strs.opened {H : Type} {enc : TypeId × Value → H} {w : World} {fuel : Nat} {v : Value} {x : DataW H × List MemPlace} (h : DataW.trod enc Tryz.prog w 0 (fun _ => true) true fuel 22 [v] = some x) :
    ∃ a len cap xs, v = .slice a len cap ∧ len ≤ maxLen ∧ Strs w a len xs := by
  rcases Go.Deep.open_slice1 Tryz.underlying22 (by kernel_rfl) h with ⟨hcs, _⟩ | ⟨a, len, cap, m, n, V, D, Pl, hcs, _, hl, hm, hmm, _, hc⟩
  · simp at hcs
    exact ⟨none, 0, 0, [], hcs, Nat.zero_le _, rfl, by simp, .inl rfl⟩
  · simp at hcs hmm
    subst hmm
    have hs : ∀ i, i < m → ∃ f : ByteArray, V i = .string f ∧ f.size ≤ maxLen := by
      intro i hi
      obtain ⟨_, h0⟩ := hc i hi
      obtain ⟨s, e0, _, z0⟩ := DataW.trod_string Tryz.underlying9 h0
      exact ⟨s, by simpa using e0, z0⟩
    refine ⟨some a, len, m, (List.range len).map fun i => if hi : i < m then Classical.choose (hs i hi) else ⟨#[]⟩, hcs, by omega, by simp, ?_, ?_⟩
    · intro f hf
      obtain ⟨i, hi, rfl⟩ := List.mem_map.1 hf
      have him : i < m := by have := List.mem_range.1 hi; omega
      rw [dif_pos him]
      exact (Classical.choose_spec (hs i him)).2
    · by_cases h0 : len = 0
      · exact .inl h0
      · right
        obtain ⟨b, off, spot⟩ := a
        have hspot : spot = none := by simpa [Addr.add] using World.cell?_spot (hc 0 (by omega)).1
        subst hspot
        have key : ∀ i (hi : i < m), w.cell? ⟨b, off + i, none⟩ = some (.string (Classical.choose (hs i hi))) := by
          intro i hi
          have hq := Classical.choose_spec (hs i hi)
          have hcc := (hc i hi).1
          rw [← hq.1]
          by_cases hi0 : i = 0
          · subst hi0
            simpa [Addr.add] using hcc
          · simpa [Addr.add, hi0] using hcc
        refine ⟨b, off, rfl, lt_of_cell (key 0 (by omega)), fun i hi => ?_⟩
        have hil : i < len := by simpa using hi
        have := key i (by omega)
        simpa [show i < m by omega] using this

set_option maxRecDepth 100000 in
theorem disk_opened {H : Type} {enc : TypeId × Value → H} {w : World} {r : Reach} {b0 : Nat} {v : Value} {d : DataW H} {p : List MemPlace} (hv : Value.okWide Tryz.prog w r b0 24 v) (h : DataW.Trod enc Tryz.prog w 0 (fun _ => true) true 24 v d p) :
    ∃ (a : Option Addr) (n ca : Nat) (xs : List ByteArray) (a' : Option Addr) (n' ca' : Nat) (ys : List ByteArray), v = .agg #[.slice a n ca, .slice a' n' ca'] ∧ n ≤ maxLen ∧ n' ≤ maxLen ∧ Strs w a n xs ∧ Strs w a' n' ys := by
  obtain ⟨v0, v1, y0, y1, m, rfl, _, _, h0, h1⟩ := Go.Joins.open_agg2 Tryz.underlying24 (by kernel_rfl) (by kernel_rfl) hv h
  obtain ⟨a, n, ca, xs, rfl, hl, hx⟩ := Strs.opened h0
  obtain ⟨a', n', ca', ys, rfl, hl', hy⟩ := Strs.opened h1
  exact ⟨a, n, ca, xs, a', n', ca', ys, rfl, hl, hl', hx, hy⟩

end Go.Proofs.YtammmecddnafaaaGreatDoor
