/- What the program's nameWrong answers: whether a request may not have a field of that name. -/
import Derived.Test.YthojijhafhnclaqDoorReqForm
import Derived.Test.YthojijhafhnclaqDoorReqHeadI
import Derived.Deep.CutBlock
import Derived.Lib.ConvBytes
import Derived.Lib.AtoiErrMem
namespace Go.Proofs.YthojijhafhnclaqDoor
open Go.RowKit
set_option linter.unusedVariables false

theorem byte_at (s : ByteArray) (k : Nat) (h : k < s.size) : s.data.toList.getD k 0 = s[k] := by
  have h2 : k < s.data.toList.length := by rw [Array.length_toList]; exact h
  rw [List.getD, List.getElem?_eq_getElem h2, Option.getD_some, Array.getElem_toList]
  rfl

theorem colB_empty {x : ByteArray} (h : colB x.toList = false) : wrongN x.toList = (x.toList.any upC || x.toList.isEmpty) := by
  rw [wrongN, h, if_neg (by simp)]

set_option maxRecDepth 10000 in
set_option maxHeartbeats 1600000 in
theorem implWrong_any (x y : ByteArray) (w : World) (hm : x.size ≤ 9223372036854775807) :
    Calls Tryd.prog 43 #[.agg #[.string x, .string y]] w fun e w' => e = .returned (.bool (wrongN x.toList)) ∧ Below w.heap.size w w' := by
  have HB0 : Hid (Below w.heap.size w (w.alloc (.cells #[.string x, .string y] 48))) := (Below.refl _ _).alloc (Nat.le_refl _) _
  have HX0 : Hid ((w.alloc (.cells #[.string x, .string y] 48)).heap[w.heap.size]? = some (.cells #[.string x, .string y] 48 (0, 0))) := heap_alloc_new w _
  go_enter Tryd.func43, Tryd.ntmps43
  obtain ⟨w1, hw1⟩ : ∃ w1, w.alloc (.cells #[.string x, .string y] 48) = w1 := ⟨_, rfl⟩
  have HE : Hid (w.alloc (.cells #[.string x, .string y] 48) = w1) := hw1
  rw [hw1] at HB0 HX0
  clear hw1
  have d0 : w1.cell? ⟨w.heap.size, 0, none⟩ = some (.string x) := by rw [cell_of_row _ _ _ _ _ _ HX0.out]; rfl
  have d1 : w1.cell? ⟨w.heap.size, 1, none⟩ = some (.string y) := by rw [cell_of_row _ _ _ _ _ _ HX0.out]; rfl
  have hcv := Lib.run_convert_string_bytes (P := Tryd.prog) w1 9 63 5 x (u := .string) Tryd.underlying9 Tryd.underlying63 Tryd.underlying5
  have HC : Hid (∀ j (hj : j < x.size), (Lib.bytesWorld w1 5 x).cell? ⟨w1.heap.size, j, none⟩ = some (.int .u8 (x[j].toNat : Int))) := fun j hj => by rw [Lib.bytesWorld_cell w1 5 x j hj, byte_at x j hj]
  have HB1 : Hid (Below w1.heap.size w1 (Lib.bytesWorld w1 5 x)) := Lib.bytesWorld_below w1 5 x
  obtain ⟨W2, hW2⟩ : ∃ W2, Lib.bytesWorld w1 5 x = W2 := ⟨_, rfl⟩
  rw [hW2] at hcv HC HB1
  clear hW2
  have HB2 : Hid (Below w.heap.size w W2) := HB0.out.trans (HB1.out.mono HB0.out.size)
  have hlt1 : w.heap.size < w1.heap.size := (Array.getElem?_eq_some_iff.1 HX0.out).1
  have HX2 : Hid (W2.heap[w.heap.size]? = some (.cells #[.string x, .string y] 48 (0, 0))) := (HB1.out.block _ hlt1).trans HX0.out
  go_upto_region 1 with fail
  rw [HE.out]
  clear HE HB0 HX0 HB1 hlt1
  generalize w1.heap.size = g at *
  go_wp2_with fail
  have e0 : W2.cell? ⟨w.heap.size, 0, none⟩ = some (.string x) := by rw [cell_of_row _ _ _ _ _ _ HX2.out]; rfl
  have e1 : W2.cell? ⟨w.heap.size, 1, none⟩ = some (.string y) := by rw [cell_of_row _ _ _ _ _ _ HX2.out]; rfl
  go_loop [9] (fun v => ∃ k : Nat, k ≤ x.size ∧ v = .int .i64 k ∧ Hid (∀ j (hj : j < x.size), j < k → upC x[j] = false)) (fun v => x.size - (intOf v).toNat)
  case atStart => exact ⟨0, Nat.zero_le _, rfl, fun j _ hj => absurd hj (Nat.not_lt_zero _)⟩
  case round =>
    obtain ⟨k, hk, rfl, HN⟩ := hrel
    by_cases hlt : k < x.size
    · have hki : (k : Int) < (x.size : Int) := by omega
      have hc := HC.out k hlt
      have hc0 : (0 : Int) ≤ (x[k].toNat : Int) := by omega
      have hc1 : (x[k].toNat : Int) ≤ 255 := by have := x[k].toNat_lt; omega
      by_cases hu : 65 ≤ x[k].toNat ∧ x[k].toNat ≤ 90
      · have HF : Hid (wrongN x.toList = true) := by
          show _ = _
          have : x.toList.any upC = true := by
            rw [List.any_eq_true]
            exact ⟨x[k], mem_list hlt, by simp [upC, hu.1, hu.2]⟩
          rw [wrongN, this, Bool.true_or]
        have q1 : (65 : Int) ≤ (x[k].toNat : Int) := by omega
        have q2 : (x[k].toNat : Int) ≤ 90 := by omega
        clear hu HN HC
        generalize (x[k].toNat : Int) = c at *
        go_wp2_with fail
        go_ret
        exact ⟨ret_b HF.out.symm, HB2.out⟩
      · have HN2 : Hid (∀ j (hj : j < x.size), j < k + 1 → upC x[j] = false) := fun j hj hjk => by
          by_cases e : j = k
          · subst e
            rw [upC, Bool.and_eq_false_iff]
            simp only [decide_eq_false_iff_not]
            omega
          · exact HN.out j hj (by omega)
        have hq : ¬ (65 : Int) ≤ (x[k].toNat : Int) ∨ (65 : Int) ≤ (x[k].toNat : Int) ∧ ¬ (x[k].toNat : Int) ≤ 90 := by omega
        clear hu HN HC
        generalize (x[k].toNat : Int) = c at *
        rcases hq with q1 | ⟨q1, q2⟩
        all_goals
          go_wp2_with fail
          go_round
          case rel => exact ⟨k + 1, by omega, by go_num, HN2⟩
          case measure => simp [intOf]; omega
    · have hkl : k = x.size := by omega
      subst hkl
      have HA : Hid (x.toList.any upC = false) := by
        show _ = _
        rw [List.any_eq_false]
        intro c hc
        obtain ⟨j, hj, rfl⟩ := list_mem hc
        rw [HN.out j hj hj]
        simp
      clear HN HC hcv d0 d1
      have HO : Hid (∀ W : World, Calls Tryd.prog 50 #[.agg #[.string x, .string y]] W fun e w' => e = .returned (.bool (colB x.toList)) ∧ Below W.heap.size W w') := fun W => implOfHead_any x y W (by omega)
      go_wp2_with fail
      refine (HO.out _).mono ?_
      rintro e w3 ⟨rfl, hb3⟩
      have hlt2 : w.heap.size < W2.heap.size := (Array.getElem?_eq_some_iff.1 HX2.out).1
      have HX3 : Hid (w3.heap[w.heap.size]? = some (.cells #[.string x, .string y] 48 (0, 0))) := (hb3.block _ hlt2).trans HX2.out
      have HB3 : Hid (Below w.heap.size w w3) := HB2.out.trans (hb3.mono HB2.out.size)
      have f0 : w3.cell? ⟨w.heap.size, 0, none⟩ = some (.string x) := by rw [cell_of_row _ _ _ _ _ _ HX3.out]; rfl
      have f1 : w3.cell? ⟨w.heap.size, 1, none⟩ = some (.string y) := by rw [cell_of_row _ _ _ _ _ _ HX3.out]; rfl
      clear hb3 hlt2 HX2 HB2 e0 e1 HO
      cases hcl : colB x.toList
      · have HF : Hid (wrongN x.toList = x.toList.isEmpty) := by show _ = _; rw [colB_empty hcl, HA.out, Bool.false_or]
        clear hcl
        go_wp2_with fail
        go_ret
        exact ⟨ret_b HF.out.symm, HB3.out⟩
      · have HF : Hid (wrongN x.toList = !fourB x.toList) := by show _ = _; rw [wrongN, HA.out, Bool.false_or, if_pos hcl]
        have HFo : Hid (fourB x.toList = ((x.toList == bM) || (x.toList == bS) || (x.toList == bP) || (x.toList == bA))) := rfl
        clear hcl HA
        by_cases hbM : (x.toList == [58, 109, 101, 116, 104, 111, 100]) = true
        · have HT : Hid (wrongN x.toList = false) := by show _ = _; rw [HF.out, HFo.out, show (x.toList == bM) = true from hbM]; rfl
          go_wp2_with fail
          go_ret
          exact ⟨ret_b HT.out.symm, HB3.out⟩
        have ebM : (x.toList == [58, 109, 101, 116, 104, 111, 100]) = false := by simpa using hbM
        clear hbM
        by_cases hbS : (x.toList == [58, 115, 99, 104, 101, 109, 101]) = true
        · have HT : Hid (wrongN x.toList = false) := by show _ = _; rw [HF.out, HFo.out, show (x.toList == bS) = true from hbS]; simp
          go_wp2_with fail
          go_ret
          exact ⟨ret_b HT.out.symm, HB3.out⟩
        have ebS : (x.toList == [58, 115, 99, 104, 101, 109, 101]) = false := by simpa using hbS
        clear hbS
        by_cases hbP : (x.toList == [58, 112, 97, 116, 104]) = true
        · have HT : Hid (wrongN x.toList = false) := by show _ = _; rw [HF.out, HFo.out, show (x.toList == bP) = true from hbP]; simp
          go_wp2_with fail
          go_ret
          exact ⟨ret_b HT.out.symm, HB3.out⟩
        have ebP : (x.toList == [58, 112, 97, 116, 104]) = false := by simpa using hbP
        clear hbP
        by_cases hbA : (x.toList == [58, 97, 117, 116, 104, 111, 114, 105, 116, 121]) = true
        · have HT : Hid (wrongN x.toList = false) := by show _ = _; rw [HF.out, HFo.out, show (x.toList == bA) = true from hbA]; simp
          go_wp2_with fail
          go_ret
          exact ⟨ret_b HT.out.symm, HB3.out⟩
        have ebA : (x.toList == [58, 97, 117, 116, 104, 111, 114, 105, 116, 121]) = false := by simpa using hbA
        clear hbA
        have HT : Hid (wrongN x.toList = true) := by show _ = _; rw [HF.out, HFo.out]; unfold bM bS bP bA; rw [ebM, ebS, ebP, ebA]; rfl
        go_wp2_with fail
        go_ret
        exact ⟨ret_b HT.out.symm, HB3.out⟩

end Go.Proofs.YthojijhafhnclaqDoor
