/- What the specification's l14SameUps answers. -/
import Derived.Test.YtlkgopoicpnacaaGreatDoorM08
import Derived.Test.YtlkgopoicpnacaaGreatDoorM10
import Derived.BigQuiet
import Derived.Deep.CutBlock
namespace Go.Proofs.YtlkgopoicpnacaaGreatDoor
open Go.RowKit
set_option linter.unusedVariables false

set_option maxRecDepth 10000 in
set_option maxHeartbeats 1600000 in
theorem specSameU_any (a : Option Addr) (n c lo : Nat) (l : List UE) (a' : Option Addr) (n' c' lo' : Nat) (l' : List UE) (w : World) (h : UpRow w lo (.slice a n c) l) (hn : n = l.length) (h' : UpRow w lo' (.slice a' n' c') l') (hn' : n' = l'.length) (hl : n ≤ 1099511627776) (hl' : n' ≤ 1099511627776) :
    Calls Tryz.prog 102 #[.slice a n c, .slice a' n' c'] w fun e w' => (∃ b : Bool, e = .returned (.bool b) ∧ (b = true ↔ l.map UE.u = l'.map UE.u)) ∧ Below w.heap.size w w' := by
  have HX : Hid (∀ W, Below w.heap.size w W → UpRow W lo (.slice a n c) l ∧ UpRow W lo' (.slice a' n' c') l') := fun W hb => ⟨h.stays hb, h'.stays hb⟩
  have HN : Hid (n = l.length) := hn
  have HN' : Hid (n' = l'.length) := hn'
  clear h h' hn hn'
  by_cases hnn : n = n'
  case neg =>
    have hnb : ((n : Int) != (n' : Int)) = true := by simp; omega
    have HF : Hid (¬ (l.map UE.u = l'.map UE.u)) := fun h => by
      have h1 := congrArg List.length h
      rw [List.length_map, List.length_map, ← HN.out, ← HN'.out] at h1
      exact hnn h1
    go_enter Tryz.func102, Tryz.ntmps102
    go_wp2_with fail
    go_ret
    exact ⟨⟨false, rfl, ⟨fun h => (by cases h), fun h => absurd h HF.out⟩⟩, Below.refl _ _⟩
  subst hnn
  go_enter Tryz.func102, Tryz.ntmps102
  go_wp2_with fail
  go_loopw [5] (fun v wr => ∃ k : Nat, k ≤ n ∧ v = .int .i64 (k : Int) ∧ Hid ((l.map UE.u).take k = (l'.map UE.u).take k) ∧ Hid (Below w.heap.size w wr)) (fun v _ => n - (intOf v).toNat)
  case atStart => exact ⟨0, Nat.zero_le _, rfl, rfl, Below.refl _ _⟩
  case round =>
    obtain ⟨k, hk, rfl, HT, HW⟩ := hrel
    by_cases hlt : k < n
    · have hkl : k < l.length := by rw [← HN.out]; exact hlt
      have hkl' : k < l'.length := by rw [← HN'.out]; exact hlt
      have hki : (k : Int) < (n : Int) := by omega
      have hk0 : (0 : Int) ≤ (k : Int) := by omega
      obtain ⟨g, rfl, g0, g1, g2, g3, _⟩ := (HX.out _ HW.out).1.at HN.out hkl
      obtain ⟨q, rfl, q0, q1, q2, q3, _⟩ := (HX.out _ HW.out).2.at HN'.out hkl'
      have HA : Hid (∀ W, Below w.heap.size w W → Seg W (l[k]).a (l[k]).n (l[k]).u.zs ∧ Seg W (l'[k]).a (l'[k]).n (l'[k]).u.zs) := fun W hb => ⟨((HX.out W hb).1.2.1 _ (List.getElem_mem hkl)).seg, ((HX.out W hb).2.2.1 _ (List.getElem_mem hkl')).seg⟩
      have hc1 : ∀ m, (convert 22 9 (.slice (l[k]).a (l[k]).n (l[k]).c)).run Tryz.prog (wr.drewN m) = .ok (.string (txU (l[k]).u.zs)) (wr.drewN m) := fun m => conv_bytes (HA.out _ (below_drewN HW.out m)).1
      have hc2 : ∀ m, (convert 22 9 (.slice (l'[k]).a (l'[k]).n (l'[k]).c)).run Tryz.prog (wr.drewN m) = .ok (.string (txU (l'[k]).u.zs)) (wr.drewN m) := fun m => conv_bytes (HA.out _ (below_drewN HW.out m)).2
      have HZs : Hid (txU (l[k]).u.zs = txU (l'[k]).u.zs ↔ (l[k]).u.zs = (l'[k]).u.zs) := txU_same (HA.out _ HW.out).1.2.1 (HA.out _ HW.out).2.2.1
      have he0 := ids_eq (l[k]).u.id (l'[k]).u.id
      have he3 := ids_eq (txU (l[k]).u.zs) (txU (l'[k]).u.zs)
      by_cases d0 : (l[k]).u.id = (l'[k]).u.id
      case neg =>
        have HF : Hid (¬ (l.map UE.u = l'.map UE.u)) := fun h => by
          have h1 := congrArg (fun x => x[k]?) h
          simp only [List.getElem?_map, List.getElem?_eq_getElem hkl, List.getElem?_eq_getElem hkl', Option.map_some, Option.some.injEq] at h1
          exact d0 (by rw [h1])
        rw [decide_eq_false d0] at he0
        go_wp2_with fail
        go_quiet (fail)
        have HBq : Hid (Below w.heap.size w (wr.drewN nq)) := below_drewN HW.out nq
        go_wp2_with fail
        go_ret
        exact ⟨⟨false, rfl, ⟨fun h => (by cases h), fun h => absurd h HF.out⟩⟩, HBq.out⟩
      rw [decide_eq_true d0] at he0
      have HD0 : Hid ((l[k]).u.id = (l'[k]).u.id) := d0
      rw [d0] at g0 he0
      clear d0
      by_cases d1 : (l[k]).u.want = (l'[k]).u.want
      case neg =>
        have HF : Hid (¬ (l.map UE.u = l'.map UE.u)) := fun h => by
          have h1 := congrArg (fun x => x[k]?) h
          simp only [List.getElem?_map, List.getElem?_eq_getElem hkl, List.getElem?_eq_getElem hkl', Option.map_some, Option.some.injEq] at h1
          exact d1 (by rw [h1])
        have hw1 : ((l[k]).u.want != (l'[k]).u.want) = true := by simpa using d1
        go_wp2_with fail
        go_quiet (fail)
        have HBq : Hid (Below w.heap.size w (wr.drewN nq)) := below_drewN HW.out nq
        go_wp2_with fail
        go_ret
        exact ⟨⟨false, rfl, ⟨fun h => (by cases h), fun h => absurd h HF.out⟩⟩, HBq.out⟩
      rw [d1] at g1
      by_cases d2 : (l[k]).u.done = (l'[k]).u.done
      case neg =>
        have HF : Hid (¬ (l.map UE.u = l'.map UE.u)) := fun h => by
          have h1 := congrArg (fun x => x[k]?) h
          simp only [List.getElem?_map, List.getElem?_eq_getElem hkl, List.getElem?_eq_getElem hkl', Option.map_some, Option.some.injEq] at h1
          exact d2 (by rw [h1])
        have hw2 : ((l[k]).u.done != (l'[k]).u.done) = true := by simpa using d2
        clear d1
        go_wp2_with fail
        go_quiet (fail)
        have HBq : Hid (Below w.heap.size w (wr.drewN nq)) := below_drewN HW.out nq
        go_wp2_with fail
        go_ret
        exact ⟨⟨false, rfl, ⟨fun h => (by cases h), fun h => absurd h HF.out⟩⟩, HBq.out⟩
      rw [d2] at g3
      have hbs : ((l'[k]).u.done != (l'[k]).u.done) = false := by simp
      by_cases d3 : txU (l[k]).u.zs = txU (l'[k]).u.zs
      case neg =>
        have HF : Hid (¬ (l.map UE.u = l'.map UE.u)) := fun h => by
          have h1 := congrArg (fun x => x[k]?) h
          simp only [List.getElem?_map, List.getElem?_eq_getElem hkl, List.getElem?_eq_getElem hkl', Option.map_some, Option.some.injEq] at h1
          exact d3 (by rw [h1])
        rw [decide_eq_false d3] at he3
        clear d1 d2
        go_wp2_with fail
        go_quiet (fail)
        have HBq : Hid (Below w.heap.size w (wr.drewN nq)) := below_drewN HW.out nq
        go_wp2_with fail
        go_ret
        exact ⟨⟨false, rfl, ⟨fun h => (by cases h), fun h => absurd h HF.out⟩⟩, HBq.out⟩
      rw [decide_eq_true d3] at he3
      have HT2 : Hid ((l.map UE.u).take (k + 1) = (l'.map UE.u).take (k + 1)) := by
        show _ = _
        rw [List.take_add_one, List.take_add_one, HT.out, List.getElem?_map, List.getElem?_map, List.getElem?_eq_getElem hkl, List.getElem?_eq_getElem hkl']
        have h5 := HZs.out.1 d3
        have h6 : (l[k]).u = (l'[k]).u := by
          cases h7 : (l[k]).u
          cases h8 : (l'[k]).u
          have d0 := HD0.out
          rw [h7, h8] at d0 d1 d2 h5
          dsimp only at d0 d1 d2 h5
          rw [d0, d1, d2, h5]
        simp only [Option.map_some, h6]
      clear d1 d2 d3 HT
      go_wp2_with fail
      go_quiet (fail)
      have HBq : Hid (Below w.heap.size w (wr.drewN nq)) := below_drewN HW.out nq
      go_wp2_with fail
      go_roundw
      case rel => exact ⟨k + 1, by omega, by go_num, HT2, HBq⟩
      case measure => simp [intOf]; omega
    · obtain rfl : k = n := by omega
      have HF : Hid (l.map UE.u = l'.map UE.u) := by
        show _ = _
        have h1 := HT.out
        rw [List.take_of_length_le (by rw [List.length_map, HN.out]; exact Nat.le_refl _), List.take_of_length_le (by rw [List.length_map, HN'.out]; exact Nat.le_refl _)] at h1
        exact h1
      go_wp2_with fail
      go_ret
      exact ⟨⟨true, rfl, ⟨fun _ => HF.out, fun _ => rfl⟩⟩, HW.out⟩

end Go.Proofs.YtlkgopoicpnacaaGreatDoor
