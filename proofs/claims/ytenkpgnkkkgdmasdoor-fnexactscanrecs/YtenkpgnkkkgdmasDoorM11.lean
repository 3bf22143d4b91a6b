/- The marks of a row of records, asked for. -/
import Derived.Test.YtenkpgnkkkgdmasDoorM08
import Derived.Deep.RegionHeld3
namespace Go.Proofs.YtenkpgnkkkgdmasDoor
open Go.RowKit
set_option linter.unusedVariables false

theorem held_intR (base : Nat) (a : Option Addr) (n cap k : Nat) (kk : Int) (w : World) (h : Owns w base a n cap (marks k n)) (hn : n ≤ 2199023255552) (hk : k ≤ 2199023255552) (hkk : kk = (k : Int)) :
    Calls Tryd.prog 41 #[.slice a n cap, .int .i64 kk] w fun e w' => e = .returned (.int .i64 ((k + n : Nat) : Int)) ∧ w' = w := by
  subst hkk
  exact held_any base a n cap k w h hn hk

theorem text_intH (k : Nat) (kk : Int) (w : World) (hk : k ≤ 4398046511104) (hkk : kk = (k : Int)) : Calls Tryd.prog 46 #[.int .i64 kk] w fun e w' => e = .returned (.string (mt k)) ∧ Below w.heap.size w w' := by
  subst hkk
  exact markText_any k w hk

set_option maxRecDepth 10000 in
set_option maxHeartbeats 3200000 in
theorem heldRcS_any (base : Nat) (a : Option Addr) (n cap k : Nat) (l : List RE) (w : World) (h : RcRow w base (.slice a n cap) (mkRc k l)) (hn : l.length = n) (hk : mkREnd k l ≤ 2199023255552) (hnb : n ≤ 1099511627776) :
    Calls Tryd.prog 26 #[.slice a n cap, .int .i64 (k : Int)] w fun e w' => e = .returned (.int .i64 (mkREnd k l : Int)) ∧ Below w.heap.size w w' := by
  have HO : Hid (RcRow w base (.slice a n cap) (mkRc k l)) := h
  have HN : Hid (l.length = n) := hn
  have HK : Hid (mkREnd k l ≤ 2199023255552) := hk
  clear h hn hk
  go_enter Tryd.func26, Tryd.ntmps26
  go_wp2
  go_loopw [1, 5] (fun v i wr => ∃ j : Nat, j ≤ n ∧ i = .int .i64 j ∧ v = .int .i64 (mkREnd k (l.take j) : Int) ∧ Hid (Below w.heap.size w wr)) (fun _ i _ => n - (intOf i).toNat)
  case atStart => exact ⟨0, Nat.zero_le _, rfl, rfl, Below.refl _ _⟩
  case round =>
    obtain ⟨j, hj, rfl, rfl, HW⟩ := hrel
    by_cases hlt : j < n
    · have hjl : j < l.length := by have := HN.out; omega
      have ht : l.take (j + 1) = l.take j ++ [l[j]] := List.take_succ_eq_append_getElem hjl
      have hml : (mkRc k (l.take j)).length = j := by rw [mkRc_len, List.length_take]; omega
      have HEnd : Hid (mkREnd k (l.take (j + 1)) = mkREnd k (l.take j) + 5 + (l[j]).n) := by show _ = _; rw [ht, mkREnd_append]; rfl
      have hKb : mkREnd k (l.take j) + 5 + (l[j]).n ≤ 2199023255552 := by
        have h1 := HK.out
        rw [← List.take_append_drop (j + 1) l, mkREnd_append] at h1
        have h2 := mkREnd_ge (mkREnd k (l.take (j + 1))) (l.drop (j + 1))
        have h3 := HEnd.out
        omega
      have hFr : mkRc k l = mkRc k (l.take j) ++ mkR1 (mkREnd k (l.take j)) (l[j]) :: mkRc (mkREnd k (l.take j) + 5 + (l[j]).n) (l.drop (j + 1)) := by
        have hd : l = l.take j ++ l[j] :: l.drop (j + 1) := by rw [← List.drop_eq_getElem_cons hjl]; exact (List.take_append_drop j l).symm
        rw [show mkRc k l = mkRc k (l.take j ++ l[j] :: l.drop (j + 1)) from congrArg (mkRc k) hd, mkRc_append]
        rfl
      have hO := HO.out.stays HW.out
      have hlen : (mkRc k l).length = n := by rw [mkRc_len]; exact HN.out
      have hat := hO.at hlen.symm (i := j) (by omega)
      have hin := hO.2.1 ((mkRc k l)[j]'(by omega)) (List.getElem_mem _)
      have hge : (mkRc k l)[j]'(by omega) = mkR1 (mkREnd k (l.take j)) (l[j]) := by
        have h1 : (mkRc k l)[j]? = some (mkR1 (mkREnd k (l.take j)) (l[j])) := by
          rw [hFr, List.getElem?_append_right (by omega), hml, Nat.sub_self]
          rfl
        rw [List.getElem?_eq_getElem (by omega)] at h1
        exact Option.some.inj h1
      rw [hge] at hat hin
      clear hO hge hFr ht hml hlen
      generalize mkREnd k (l.take j) = K at *
      generalize l[j] = e at *
      obtain ⟨r, ea, en, ec⟩ := e
      simp only [mkR1] at *
      obtain ⟨g, rfl, c0, c1, c2, c3, c4, c5, _⟩ := hat
      have HE : Hid (Owns wr base ea en ec (marks (K + 5) en)) := hin
      clear hin
      have hKi : (K : Int) ≤ 2199023255552 := by omega
      have hji : (j : Int) < (n : Int) := by omega
      have n0 : ((K : Int) != (K : Int)) = false := by simp
      have n1 : ((K : Int) + 1 != (K : Int) + 1) = false := by simp
      have n2 : ((K : Int) + 1 + 1 != (K : Int) + 1 + 1) = false := by simp
      have n4 : ((K : Int) + 1 + 1 + 1 + 1 != (K : Int) + 1 + 1 + 1 + 1) = false := by simp
      have HTx : Hid (∀ W : World, Calls Tryd.prog 46 #[.int .i64 ((K : Int) + 1 + 1 + 1)] W fun e w' => e = .returned (.string (mt (K + 3))) ∧ Below W.heap.size W w') := fun W => text_intH (K + 3) _ W (by omega) (by omega)
      generalize mt (K + 3) = T3 at *
      have n3 : (T3.toList != T3.toList) = false := by simp
      go_wp2_with fail
      go_region_held3 (fun W => W.cell? ⟨g, j * 6 + 3, none⟩ = some (.string T3)) (first | assumption | go_keep) (first
        | (go_at_call 46; refine (HTx.out _).mono ?_; rintro _ x1 ⟨rfl, hb1⟩
           have hb1' : Below wr.heap.size wr x1 := (Below.refl wr.heap.size wr).drew.trans (hb1.mono (Nat.le_refl _))
           have p3 := (hb1'.cell (p := ⟨g, j * 6 + 3, none⟩) (lt_of_cell c0)).trans c3)
        | fail)
      all_goals
        have p4 := (hb1'.cell (p := ⟨g, j * 6 + 4, none⟩) (lt_of_cell c0)).trans c4
        have p5 := (hb1'.cell (p := ⟨g, j * 6 + 5, none⟩) (lt_of_cell c0)).trans c5
        have HE1 : Hid (Owns x1 base ea en ec (marks (K + 5) en)) := HE.out.below hb1'
        have HW1 : Hid (Below w.heap.size w x1) := HW.out.trans (hb1'.mono HW.out.size)
        clear hb1 hb1' HE HW c0 c1 c2 c3 c4 c5
        go_wp2_with fail
        refine (held_intR base ea en ec (K + 5) _ _ HE1.out (by omega) (by omega) (by omega)).mono ?_
        rintro _ x4 ⟨rfl, rfl⟩
        obtain ⟨K4, hK4⟩ : ∃ K4, K + 5 + en = K4 := ⟨_, rfl⟩
        have HK4 : Hid (K + 5 + en = K4) := hK4
        rw [hK4]
        have hK4p : ¬ (K4 : Int) < 0 := by omega
        clear hK4
        go_wp2
        go_roundw
        case rel => exact ⟨j + 1, by omega, by go_num, by rw [HEnd.out, HK4.out], HW1⟩
        case measure => simp [intOf]; omega
    · have hjn : j = n := by omega
      subst hjn
      have hl := HN.out
      have HE : Hid (mkREnd k (l.take j) = mkREnd k l) := by show _ = _; rw [List.take_of_length_le (by omega)]
      generalize mkREnd k (l.take j) = K at *
      go_wp2
      go_ret
      exact ⟨ret_int (by rw [HE.out]), HW.out⟩

end Go.Proofs.YtenkpgnkkkgdmasDoor
