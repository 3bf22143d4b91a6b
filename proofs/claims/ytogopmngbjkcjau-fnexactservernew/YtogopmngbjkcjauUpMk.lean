/- The marks laid into a row of uploads. -/
import Derived.Test.YtogopmngbjkcjauUpRow
import Derived.Test.YtogopmngbjkcjauKeptT
import Derived.Test.YtogopmngbjkcjauWithin
import Derived.Test.YtogopmngbjkcjauMarkTx
import Derived.Test.YtogopmngbjkcjauMarkBn
import Derived.Deep.CutBlock
namespace Go.Proofs.Ytogopmngbjkcjau
open Go.RowKit
set_option linter.unusedVariables false

def mbU (k : Nat) : Bool := decide (k % 3 = 0)

theorem mbU_is (k : Nat) : ((k : Int) % 3 == 0) = mbU k := by
  rw [Bool.eq_iff_iff, beq_iff_eq, mbU, decide_eq_true_eq]
  omega

/-- The marks of one upload, from k on. -/
def mkU1 (k : Nat) (e : UE) : UE := { e with u := ⟨mt k, (k : Int) + 1, marks (k + 2) e.n, mbU (k + 2 + e.n)⟩ }

/-- The marks of uploads, from k on. -/
def mkUp : Nat → List UE → List UE
  | _, [] => []
  | k, e :: l => mkU1 k e :: mkUp (k + 3 + e.n) l

/-- The number behind the marks. -/
def mkUEnd : Nat → List UE → Nat
  | k, [] => k
  | k, e :: l => mkUEnd (k + 3 + e.n) l

theorem mkUp_len (k : Nat) (l : List UE) : (mkUp k l).length = l.length := by
  induction l generalizing k with
  | nil => rfl
  | cons e l ih => simp [mkUp, ih]

theorem mkUp_append (k : Nat) (l m : List UE) : mkUp k (l ++ m) = mkUp k l ++ mkUp (mkUEnd k l) m := by
  induction l generalizing k with
  | nil => rfl
  | cons e l ih => simp [mkUp, mkUEnd, ih]

theorem mkUEnd_append (k : Nat) (l m : List UE) : mkUEnd k (l ++ m) = mkUEnd (mkUEnd k l) m := by
  induction l generalizing k with
  | nil => rfl
  | cons e l ih => simp [mkUEnd, ih]

theorem mkUEnd_ge (k : Nat) (l : List UE) : k ≤ mkUEnd k l := by
  induction l generalizing k with
  | nil => exact Nat.le_refl _
  | cons e l ih => have := ih (k + 3 + e.n); simp only [mkUEnd]; omega

theorem mkUEnd_le (k B : Nat) (l : List UE) (h : ∀ e ∈ l, e.n ≤ B) : mkUEnd k l ≤ k + (3 + B) * l.length := by
  induction l generalizing k with
  | nil => simp [mkUEnd]
  | cons e l ih =>
    have h1 := ih (k + 3 + e.n) (fun x hx => h x (List.mem_cons_of_mem _ hx))
    have h2 := h e (List.mem_cons_self ..)
    simp only [mkUEnd, List.length_cons, Nat.mul_add, Nat.mul_one]
    omega

theorem mark_intU (base : Nat) (a : Option Addr) (n cap k : Nat) (kk : Int) (zs : List Int) (w : World) (h : Owns w base a n cap zs) (hn : n ≤ 2199023255552) (hk : k ≤ 2199023255552) (hkk : kk = (k : Int)) :
    Calls Try.prog 31 #[.slice a n cap, .int .i64 kk] w fun e w' => e = .returned (.int .i64 ((k + n : Nat) : Int)) ∧ Owns w' base a n cap (marks k n) ∧ Only w w' a := by
  subst hkk
  exact mark_any base a n cap k zs w h hn hk

set_option maxRecDepth 10000 in
set_option maxHeartbeats 3200000 in
theorem markUpS_any (base : Nat) (a : Option Addr) (n cap k : Nat) (l : List UE) (w : World) (h : UpRow w base (.slice a n cap) l) (hn : l.length = n) (hk : mkUEnd k l ≤ 2199023255552) (hnb : n ≤ 1099511627776) (hi : Nat) (hwi : (∀ q, a.map (·.block) = some q → q < hi) ∧ ∀ e ∈ l, ∀ q, e.a.map (·.block) = some q → q < hi) :
    Calls Try.prog 30 #[.slice a n cap, .int .i64 (k : Int)] w fun e w' => e = .returned (.int .i64 (mkUEnd k l : Int)) ∧ UpRow w' base (.slice a n cap) (mkUp k l) ∧ Within w w' base hi ∧ KeptT w w' := by
  have HO : Hid (UpRow w base (.slice a n cap) l) := h
  have HN : Hid (l.length = n) := hn
  have HK : Hid (mkUEnd k l ≤ 2199023255552) := hk
  have HHi : Hid ((∀ q, a.map (·.block) = some q → q < hi) ∧ ∀ e ∈ l, ∀ q, e.a.map (·.block) = some q → q < hi) := hwi
  clear h hn hk hwi
  go_enter Try.func30, Try.ntmps30
  go_wp2
  go_loopw [1, 5] (fun v i wr => ∃ j : Nat, j ≤ n ∧ i = .int .i64 j ∧ v = .int .i64 (mkUEnd k (l.take j) : Int) ∧ Hid (UpRow wr base (.slice a n cap) (mkUp k (l.take j) ++ l.drop j)) ∧ Hid (Within w wr base hi) ∧ Hid (KeptT w wr)) (fun _ i _ => n - (intOf i).toNat)
  case atStart => exact ⟨0, Nat.zero_le _, rfl, rfl, HO, Within.refl _ _ _, KeptT.refl _⟩
  case round =>
    clear HO
    obtain ⟨j, hj, rfl, rfl, HO, HB, HKt⟩ := hrel
    by_cases hlt : j < n
    · have hjl : j < l.length := by have := HN.out; omega
      have hd : l.drop j = l[j] :: l.drop (j + 1) := List.drop_eq_getElem_cons hjl
      have ht : l.take (j + 1) = l.take j ++ [l[j]] := List.take_succ_eq_append_getElem hjl
      have hml : (mkUp k (l.take j)).length = j := by rw [mkUp_len, List.length_take]; omega
      have HEnd : Hid (mkUEnd k (l.take (j + 1)) = mkUEnd k (l.take j) + 3 + (l[j]).n) := by show _ = _; rw [ht, mkUEnd_append]; rfl
      have HFr : Hid (mkUp k (l.take (j + 1)) = mkUp k (l.take j) ++ [mkU1 (mkUEnd k (l.take j)) (l[j])]) := by show _ = _; rw [ht, mkUp_append]; rfl
      have hKb : mkUEnd k (l.take j) + 3 + (l[j]).n ≤ 2199023255552 := by
        have h1 := HK.out
        rw [← List.take_append_drop (j + 1) l, mkUEnd_append] at h1
        have h2 := mkUEnd_ge (mkUEnd k (l.take (j + 1))) (l.drop (j + 1))
        have h3 := HEnd.out
        omega
      have hO := HO.out
      rw [hd] at hO
      have hlen : (mkUp k (l.take j) ++ l[j] :: l.drop (j + 1)).length = n := by rw [List.length_append, hml, List.length_cons, List.length_drop]; have := HN.out; omega
      have hat := hO.at hlen.symm (i := j) (by omega)
      rw [show (mkUp k (l.take j) ++ l[j] :: l.drop (j + 1))[j]'(by omega) = l[j] by rw [List.getElem_append_right (by omega)]; simp [hml]] at hat
      obtain ⟨g, rfl, c0, c1, c2, c3, _⟩ := hat
      have hge := hO.1.lt g rfl
      have hgh : g < hi := HHi.out.1 g rfl
      have HEh : Hid (∀ q, (l[j]).a.map (·.block) = some q → q < hi) := HHi.out.2 _ (List.getElem_mem hjl)
      clear hd ht c0 c1 c2 c3
      generalize mkUp k (l.take j) = M at *
      generalize mkUEnd k (l.take j) = K at *
      obtain ⟨D, hD⟩ : ∃ D, l.drop (j + 1) = D := ⟨_, rfl⟩
      have HD : Hid (l.drop (j + 1) = D) := hD
      rw [hD] at hO hlen
      clear hD
      have HO1 : Hid (UpRow wr base (.slice (some ⟨g, 0, none⟩) n cap) (M ++ l[j] :: D)) := hO
      clear hO HO
      generalize l[j] = e at *
      obtain ⟨⟨eid, ew, ez, ed⟩, ea, en, ec⟩ := e
      dsimp only at *
      have HFr : Hid (mkUp k (l.take (j + 1)) = M ++ [⟨⟨mt K, (K : Int) + 1, marks (K + 2) en, mbU (K + 2 + en)⟩, ea, en, ec⟩]) := HFr.out
      have hKi : (K : Int) ≤ 2199023255552 := by omega
      have hji : (j : Int) < (n : Int) := by omega
      have hlx : ∀ x : UE, (M ++ x :: D).length = n := fun x => by rw [← hlen]; simp
      go_wp2_with fail
      refine (markText_any K _ (by omega)).mono ?_
      rintro _ x1 ⟨rfl, hb1⟩
      have hR1 := HO1.out.stays hb1
      have hG1 : wr.grownBy x1 (some g) := ⟨hb1.os, hb1.tape, hb1.output, hb1.size, fun i hi _ => hb1.block i hi⟩
      have hnm := hR1.numbers (hlx _) (mt K) ((K : Int) + 1)
      have hKt2 : KeptT w ((x1.setCell ⟨g, M.length * 4, none⟩ (.string (mt K))).setCell ⟨g, M.length * 4 + 1, none⟩ (.int .i64 ((K : Int) + 1))) := (HKt.out.trans (keptT_below hb1)).trans (keptT_grown (v := .slice (some ⟨g, 0, none⟩) n cap) hnm.2 hR1.1 (by decide))
      rw [hml] at hKt2
      have HKt2 : Hid (KeptT w ((x1.setCell ⟨g, j * 4, none⟩ (.string (mt K))).setCell ⟨g, j * 4 + 1, none⟩ (.int .i64 ((K : Int) + 1)))) := hKt2
      clear hKt2 HKt
      rw [hml] at hnm
      dsimp only at hnm
      have hat := hR1.at (hlx _).symm (i := j) (by have := hlx ⟨⟨eid, ew, ez, ed⟩, ea, en, ec⟩; omega)
      rw [show (M ++ (⟨⟨eid, ew, ez, ed⟩, ea, en, ec⟩ : UE) :: D)[j]'(by have := hlx ⟨⟨eid, ew, ez, ed⟩, ea, en, ec⟩; omega) = ⟨⟨eid, ew, ez, ed⟩, ea, en, ec⟩ by rw [List.getElem_append_right (by omega)]; simp [hml]] at hat
      obtain ⟨g', hgg, d0, d1, d2, d3, hfr⟩ := hat
      obtain rfl : g = g' := by simpa using hgg
      have h0 := hfr (j * 4)
      have h1 := hfr (j * 4 + 1)
      dsimp only at d0 d1 d2 d3
      have HR2 : Hid (UpRow ((x1.setCell ⟨g, j * 4, none⟩ (.string (mt K))).setCell ⟨g, j * 4 + 1, none⟩ (.int .i64 ((K : Int) + 1))) base (.slice (some ⟨g, 0, none⟩) n cap) (M ++ ⟨⟨mt K, (K : Int) + 1, ez, ed⟩, ea, en, ec⟩ :: D)) := hnm.1
      have HG2 : Hid (wr.grownBy ((x1.setCell ⟨g, j * 4, none⟩ (.string (mt K))).setCell ⟨g, j * 4 + 1, none⟩ (.int .i64 ((K : Int) + 1))) (some g)) := grow_transU hG1 hnm.2
      have HE : Hid (Owns ((x1.setCell ⟨g, j * 4, none⟩ (.string (mt K))).setCell ⟨g, j * 4 + 1, none⟩ (.int .i64 ((K : Int) + 1))) base ea en ec ez) := hnm.1.2.1 ⟨⟨mt K, (K : Int) + 1, ez, ed⟩, ea, en, ec⟩ (List.mem_append_right _ (List.mem_cons_self ..))
      clear hnm hR1 hG1 hb1 hfr hgg HO1
      generalize mt K = T3 at *
      go_wp2_with fail
      refine (mark_intU base ea en ec (K + 2) _ ez _ HE.out (by omega) (by omega) (by omega)).mono ?_
      rintro _ x4 ⟨rfl, hm, hon⟩
      have hO4 : UpRow x4 base (.slice (some ⟨g, 0, none⟩) n cap) (M ++ ⟨⟨T3, (K : Int) + 1, marks (K + 2) en, ed⟩, ea, en, ec⟩ :: D) := HR2.out.bodied (marks (K + 2) en) hm hon
      have hdn := hO4.doned (hlx _) (mbU (K + 2 + en))
      have hKt4 : KeptT w x4 := HKt2.out.trans (keptT_grown (v := .slice ea en ec) (by rw [ownBlock_sU]; exact hon) HE.out.1 (by decide))
      have hKt5 : KeptT w (x4.setCell ⟨g, M.length * 4 + 3, none⟩ (.bool (mbU (K + 2 + en)))) := hKt4.trans (keptT_grown (v := .slice (some ⟨g, 0, none⟩) n cap) hdn.2 hO4.1 (by decide))
      rw [hml] at hKt5
      have HKt5 : Hid (KeptT w (x4.setCell ⟨g, j * 4 + 3, none⟩ (.bool (mbU (K + 2 + en))))) := hKt5
      clear hKt4 hKt5 HKt2
      rw [hml] at hdn
      dsimp only at hdn
      have HB4 : Hid (Within w x4 base hi) := by
        have h1 := HB.out.trans (within_grown HG2.out (fun q e => by injection e with e; omega))
        exact h1.trans (within_grown hon (fun q e => ⟨(HE.out.lt q e).1, HEh.out q e⟩))
      have hat := hO4.at (hlx _).symm (i := j) (by have := hlx ⟨⟨T3, (K : Int) + 1, marks (K + 2) en, ed⟩, ea, en, ec⟩; omega)
      obtain ⟨g', hgg, _, _, _, q3, hfr⟩ := hat
      obtain rfl : g = g' := by simpa using hgg
      have z3 := hfr (j * 4 + 3)
      have HO5 : Hid (UpRow (x4.setCell ⟨g, j * 4 + 3, none⟩ (.bool (mbU (K + 2 + en)))) base (.slice (some ⟨g, 0, none⟩) n cap) (M ++ ⟨⟨T3, (K : Int) + 1, marks (K + 2) en, mbU (K + 2 + en)⟩, ea, en, ec⟩ :: D)) := hdn.1
      have HB5 : Hid (Within w (x4.setCell ⟨g, j * 4 + 3, none⟩ (.bool (mbU (K + 2 + en)))) base hi) := HB4.out.trans (within_grown hdn.2 (fun q e => by injection e with e; omega))
      clear hm hon HE HR2 HG2 HB HB4 d0 d1 d2 d3 h0 h1 hO4 hdn hfr hgg
      obtain ⟨K4, hK4⟩ : ∃ K4, K + 2 + en = K4 := ⟨_, rfl⟩
      have HK4 : Hid (K + 2 + en = K4) := hK4
      rw [hK4] at HO5 HB5 HKt5 ⊢
      have HFr2 : Hid (mkUp k (l.take (j + 1)) = M ++ [⟨⟨T3, (K : Int) + 1, marks (K + 2) en, mbU K4⟩, ea, en, ec⟩]) := by show _ = _; rw [HFr.out, hK4]
      have hmb := mbU_is K4
      have hK4i : (K4 : Int) ≤ 2199023255552 := by omega
      clear hK4 HFr
      go_wp2
      go_roundw
      case rel =>
        refine ⟨j + 1, by omega, by go_num, ?_, ?_, HB5, HKt5⟩
        · rw [HEnd.out]
          have := HK4.out
          go_num
        · show UpRow _ _ _ _
          rw [HFr2.out, List.append_assoc, HD.out]
          exact HO5.out
      case measure => simp [intOf]; omega
    · have hjn : j = n := by omega
      subst hjn
      have hl := HN.out
      have HO2 : Hid (UpRow wr base (.slice a j cap) (mkUp k l)) := by
        have h := HO.out
        rw [List.take_of_length_le (by omega), List.drop_of_length_le (by omega), List.append_nil] at h
        exact h
      have HE : Hid (mkUEnd k (l.take j) = mkUEnd k l) := by show _ = _; rw [List.take_of_length_le (by omega)]
      generalize mkUEnd k (l.take j) = K at *
      go_wp2
      go_ret
      exact ⟨ret_int (by rw [HE.out]), HO2.out, HB.out, HKt.out⟩

end Go.Proofs.Ytogopmngbjkcjau
