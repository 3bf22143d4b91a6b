/- What the library's IndexFunc and ContainsFunc answer of fields. -/
import Derived.Test.YthojijhafhnclaeDoorFormNs
import Derived.WalkKit
import Derived.Deep.CutBlock
import Derived.Lib.ConvBytes
import Derived.Lib.AtoiErrMem
namespace Go.Proofs.YthojijhafhnclaeDoor
open Go.RowKit
set_option linter.unusedVariables false

theorem ret_b {a b : Bool} (h : a = b) : Ending.returned (.bool a) = .returned (.bool b) := by rw [h]

theorem first_byte {x : ByteArray} (h : 0 < x.size) : (x.extract 0 1).toList = [x[0]'h] := by
  rw [Lib.extract_toList, Nat.sub_zero, List.drop_zero, List.take_one]
  have := list_head h
  rw [bytes_list] at this
  rw [this]
  rfl

set_option maxRecDepth 10000 in
theorem implLitePre_any (x : ByteArray) (w : World) (hm : x.size ≤ 9223372036854775807) :
    Calls Tryd.prog 62 #[.string x, .string ⟨#[58]⟩] w fun e w' => e = .returned (.bool (colB x.toList)) ∧ w' = w := by
  by_cases h0 : x.size = 0
  · have HF : Hid (colB x.toList = false) := by show _ = _; rw [list_empty h0]; rfl
    have hi : ¬ (1 : Int) ≤ (x.size : Int) := by omega
    have hn : ¬ 1 ≤ x.size := by omega
    clear h0
    go_enter Tryd.func62, Tryd.ntmps62
    go_wp2_with fail
    go_ret
    exact ⟨ret_b HF.out.symm, rfl⟩
  · have hx0 : 0 < x.size := by omega
    have hi : (1 : Int) ≤ (x.size : Int) := by omega
    have hn : 1 ≤ x.size := by omega
    have HF : Hid (colB x.toList = ((x.extract 0 1).toList == [58])) := by
      show _ = _
      rw [first_byte hx0, colB, list_head hx0, Bool.eq_iff_iff, beq_iff_eq, beq_iff_eq]
      simp
    clear h0
    go_enter Tryd.func62, Tryd.ntmps62
    go_wp2_with fail
    go_ret
    exact ⟨ret_b HF.out.symm, rfl⟩

theorem implHasPre_any (x : ByteArray) (w : World) (hm : x.size ≤ 9223372036854775807) :
    Calls Tryd.prog 61 #[.string x, .string ⟨#[58]⟩] w fun e w' => e = .returned (.bool (colB x.toList)) ∧ w' = w := by
  go_enter Tryd.func61, Tryd.ntmps61
  go_wp2_with fail
  refine (implLitePre_any x _ hm).mono ?_
  rintro e w1 ⟨rfl, hw1⟩
  subst hw1
  go_wp2_with fail
  go_ret
  exact ⟨rfl, rfl⟩

set_option maxRecDepth 10000 in
theorem implOfHead_any (x y : ByteArray) (w : World) (hm : x.size ≤ 9223372036854775807) :
    Calls Tryd.prog 54 #[.agg #[.string x, .string y]] w fun e w' => e = .returned (.bool (colB x.toList)) ∧ Below w.heap.size w w' := by
  have HB0 : Hid (Below w.heap.size w (w.alloc (.cells #[.string x, .string y] 38))) := (Below.refl _ _).alloc (Nat.le_refl _) _
  go_enter Tryd.func54, Tryd.ntmps54
  go_wp2_with fail
  refine (implHasPre_any x _ hm).mono ?_
  rintro e w1 ⟨rfl, hw1⟩
  subst hw1
  go_wp2_with fail
  go_ret
  exact ⟨rfl, HB0.out⟩

end Go.Proofs.YthojijhafhnclaeDoor

namespace Go.Proofs.YthojijhafhnclaeDoor
open Go.RowKit
set_option linter.unusedVariables false

theorem byte_at (s : ByteArray) (k : Nat) (h : k < s.size) : s.data.toList.getD k 0 = s[k] := by
  have h2 : k < s.data.toList.length := by rw [Array.length_toList]; exact h
  rw [List.getD, List.getElem?_eq_getElem h2, Option.getD_some, Array.getElem_toList]
  rfl

theorem colB_empty {x : ByteArray} (h : colB x.toList = false) : wrongN x.toList = (x.toList.any upC || x.toList.isEmpty) := by
  rw [wrongN, h, if_neg (by simp)]

set_option maxRecDepth 10000 in
set_option maxHeartbeats 1600000 in
theorem implWrong_any (x y : ByteArray) (w : World) (hm : x.size ≤ 9223372036854775807) :
    Calls Tryd.prog 43 #[.agg #[.string x, .string y]] w fun e w' => e = .returned (.bool (wrongN x.toList)) ∧ Below w.heap.size w w' := by
  have HB0 : Hid (Below w.heap.size w (w.alloc (.cells #[.string x, .string y] 38))) := (Below.refl _ _).alloc (Nat.le_refl _) _
  have HX0 : Hid ((w.alloc (.cells #[.string x, .string y] 38)).heap[w.heap.size]? = some (.cells #[.string x, .string y] 38 (0, 0))) := heap_alloc_new w _
  go_enter Tryd.func43, Tryd.ntmps43
  obtain ⟨w1, hw1⟩ : ∃ w1, w.alloc (.cells #[.string x, .string y] 38) = w1 := ⟨_, rfl⟩
  have HE : Hid (w.alloc (.cells #[.string x, .string y] 38) = w1) := hw1
  rw [hw1] at HB0 HX0
  clear hw1
  have d0 : w1.cell? ⟨w.heap.size, 0, none⟩ = some (.string x) := by rw [cell_of_row _ _ _ _ _ _ HX0.out]; rfl
  have d1 : w1.cell? ⟨w.heap.size, 1, none⟩ = some (.string y) := by rw [cell_of_row _ _ _ _ _ _ HX0.out]; rfl
  have hcv := Lib.run_convert_string_bytes (P := Tryd.prog) w1 9 22 5 x (u := .string) Tryd.underlying9 Tryd.underlying22 Tryd.underlying5
  have HC : Hid (∀ j (hj : j < x.size), (Lib.bytesWorld w1 5 x).cell? ⟨w1.heap.size, j, none⟩ = some (.int .u8 (x[j].toNat : Int))) := fun j hj => by rw [Lib.bytesWorld_cell w1 5 x j hj, byte_at x j hj]
  have HB1 : Hid (Below w1.heap.size w1 (Lib.bytesWorld w1 5 x)) := Lib.bytesWorld_below w1 5 x
  obtain ⟨W2, hW2⟩ : ∃ W2, Lib.bytesWorld w1 5 x = W2 := ⟨_, rfl⟩
  rw [hW2] at hcv HC HB1
  clear hW2
  have HB2 : Hid (Below w.heap.size w W2) := HB0.out.trans (HB1.out.mono HB0.out.size)
  have hlt1 : w.heap.size < w1.heap.size := (Array.getElem?_eq_some_iff.1 HX0.out).1
  have HX2 : Hid (W2.heap[w.heap.size]? = some (.cells #[.string x, .string y] 38 (0, 0))) := (HB1.out.block _ hlt1).trans HX0.out
  go_upto_region 1 with fail
  rw [HE.out]
  clear HE HB0 HX0 HB1 hlt1
  generalize w1.heap.size = g at *
  go_wp2_with fail
  have e0 : W2.cell? ⟨w.heap.size, 0, none⟩ = some (.string x) := by rw [cell_of_row _ _ _ _ _ _ HX2.out]; rfl
  have e1 : W2.cell? ⟨w.heap.size, 1, none⟩ = some (.string y) := by rw [cell_of_row _ _ _ _ _ _ HX2.out]; rfl
  go_loop [9] (fun v => ∃ k : Nat, k ≤ x.size ∧ v = .int .i64 k ∧ Hid (∀ j (hj : j < x.size), j < k → upC x[j] = false)) (fun v => x.size - (intOf v).toNat)
  case atStart => exact ⟨0, Nat.zero_le _, rfl, fun j _ hj => absurd hj (Nat.not_lt_zero _)⟩
  case round =>
    obtain ⟨k, hk, rfl, HN⟩ := hrel
    by_cases hlt : k < x.size
    · have hki : (k : Int) < (x.size : Int) := by omega
      have hc := HC.out k hlt
      have hc0 : (0 : Int) ≤ (x[k].toNat : Int) := by omega
      have hc1 : (x[k].toNat : Int) ≤ 255 := by have := x[k].toNat_lt; omega
      by_cases hu : 65 ≤ x[k].toNat ∧ x[k].toNat ≤ 90
      · have HF : Hid (wrongN x.toList = true) := by
          show _ = _
          have : x.toList.any upC = true := by
            rw [List.any_eq_true]
            exact ⟨x[k], mem_list hlt, by simp [upC, hu.1, hu.2]⟩
          rw [wrongN, this, Bool.true_or]
        have q1 : (65 : Int) ≤ (x[k].toNat : Int) := by omega
        have q2 : (x[k].toNat : Int) ≤ 90 := by omega
        clear hu HN HC
        generalize (x[k].toNat : Int) = c at *
        go_wp2_with fail
        go_ret
        exact ⟨ret_b HF.out.symm, HB2.out⟩
      · have HN2 : Hid (∀ j (hj : j < x.size), j < k + 1 → upC x[j] = false) := fun j hj hjk => by
          by_cases e : j = k
          · subst e
            rw [upC, Bool.and_eq_false_iff]
            simp only [decide_eq_false_iff_not]
            omega
          · exact HN.out j hj (by omega)
        have hq : ¬ (65 : Int) ≤ (x[k].toNat : Int) ∨ (65 : Int) ≤ (x[k].toNat : Int) ∧ ¬ (x[k].toNat : Int) ≤ 90 := by omega
        clear hu HN HC
        generalize (x[k].toNat : Int) = c at *
        rcases hq with q1 | ⟨q1, q2⟩
        all_goals
          go_wp2_with fail
          go_round
          case rel => exact ⟨k + 1, by omega, by go_num, HN2⟩
          case measure => simp [intOf]; omega
    · have hkl : k = x.size := by omega
      subst hkl
      have HA : Hid (x.toList.any upC = false) := by
        show _ = _
        rw [List.any_eq_false]
        intro c hc
        obtain ⟨j, hj, rfl⟩ := list_mem hc
        rw [HN.out j hj hj]
        simp
      clear HN HC hcv d0 d1
      have HO : Hid (∀ W : World, Calls Tryd.prog 54 #[.agg #[.string x, .string y]] W fun e w' => e = .returned (.bool (colB x.toList)) ∧ Below W.heap.size W w') := fun W => implOfHead_any x y W (by omega)
      go_wp2_with fail
      refine (HO.out _).mono ?_
      rintro e w3 ⟨rfl, hb3⟩
      have hlt2 : w.heap.size < W2.heap.size := (Array.getElem?_eq_some_iff.1 HX2.out).1
      have HX3 : Hid (w3.heap[w.heap.size]? = some (.cells #[.string x, .string y] 38 (0, 0))) := (hb3.block _ hlt2).trans HX2.out
      have HB3 : Hid (Below w.heap.size w w3) := HB2.out.trans (hb3.mono HB2.out.size)
      have f0 : w3.cell? ⟨w.heap.size, 0, none⟩ = some (.string x) := by rw [cell_of_row _ _ _ _ _ _ HX3.out]; rfl
      have f1 : w3.cell? ⟨w.heap.size, 1, none⟩ = some (.string y) := by rw [cell_of_row _ _ _ _ _ _ HX3.out]; rfl
      clear hb3 hlt2 HX2 HB2 e0 e1 HO
      cases hcl : colB x.toList
      · have HF : Hid (wrongN x.toList = x.toList.isEmpty) := by show _ = _; rw [colB_empty hcl, HA.out, Bool.false_or]
        clear hcl
        go_wp2_with fail
        go_ret
        exact ⟨ret_b HF.out.symm, HB3.out⟩
      · have HF : Hid (wrongN x.toList = !fourB x.toList) := by show _ = _; rw [wrongN, HA.out, Bool.false_or, if_pos hcl]
        have HFo : Hid (fourB x.toList = ((x.toList == bM) || (x.toList == bS) || (x.toList == bP) || (x.toList == bA))) := rfl
        clear hcl HA
        by_cases hbM : (x.toList == [58, 109, 101, 116, 104, 111, 100]) = true
        · have HT : Hid (wrongN x.toList = false) := by show _ = _; rw [HF.out, HFo.out, show (x.toList == bM) = true from hbM]; rfl
          go_wp2_with fail
          go_ret
          exact ⟨ret_b HT.out.symm, HB3.out⟩
        have ebM : (x.toList == [58, 109, 101, 116, 104, 111, 100]) = false := by simpa using hbM
        clear hbM
        by_cases hbS : (x.toList == [58, 115, 99, 104, 101, 109, 101]) = true
        · have HT : Hid (wrongN x.toList = false) := by show _ = _; rw [HF.out, HFo.out, show (x.toList == bS) = true from hbS]; simp
          go_wp2_with fail
          go_ret
          exact ⟨ret_b HT.out.symm, HB3.out⟩
        have ebS : (x.toList == [58, 115, 99, 104, 101, 109, 101]) = false := by simpa using hbS
        clear hbS
        by_cases hbP : (x.toList == [58, 112, 97, 116, 104]) = true
        · have HT : Hid (wrongN x.toList = false) := by show _ = _; rw [HF.out, HFo.out, show (x.toList == bP) = true from hbP]; simp
          go_wp2_with fail
          go_ret
          exact ⟨ret_b HT.out.symm, HB3.out⟩
        have ebP : (x.toList == [58, 112, 97, 116, 104]) = false := by simpa using hbP
        clear hbP
        by_cases hbA : (x.toList == [58, 97, 117, 116, 104, 111, 114, 105, 116, 121]) = true
        · have HT : Hid (wrongN x.toList = false) := by show _ = _; rw [HF.out, HFo.out, show (x.toList == bA) = true from hbA]; simp
          go_wp2_with fail
          go_ret
          exact ⟨ret_b HT.out.symm, HB3.out⟩
        have ebA : (x.toList == [58, 97, 117, 116, 104, 111, 114, 105, 116, 121]) = false := by simpa using hbA
        clear hbA
        have HT : Hid (wrongN x.toList = true) := by show _ = _; rw [HF.out, HFo.out]; unfold bM bS bP bA; rw [ebM, ebS, ebP, ebA]; rfl
        go_wp2_with fail
        go_ret
        exact ⟨ret_b HT.out.symm, HB3.out⟩

end Go.Proofs.YthojijhafhnclaeDoor

namespace Go.Proofs.YthojijhafhnclaeDoor
open Go.RowKit
set_option linter.unusedVariables false

theorem ret_i {a b : Int} (h : a = b) : Ending.returned (.int .i64 a) = .returned (.int .i64 b) := by rw [h]

/-- Whether one of the names is wrong. -/
def anyW (xs : List Fld) : Bool := xs.any fun f => wrongN f.1.toList

theorem anyW_false {xs : List Fld} (h : ∀ (k : Nat) (x y : ByteArray), xs[k]? = some (x, y) → wrongN x.toList = false) : anyW xs = false := by
  rw [anyW, List.any_eq_false]
  intro f hf
  obtain ⟨k, hk, rfl⟩ := List.mem_iff_getElem.1 hf
  have e := h k xs[k].1 xs[k].2 (List.getElem?_eq_getElem hk)
  simp [e]

theorem anyW_true {xs : List Fld} {k : Nat} {x y : ByteArray} (h : xs[k]? = some (x, y)) (hw : wrongN x.toList = true) : anyW xs = true := by
  rw [anyW, List.any_eq_true]
  exact ⟨(x, y), List.mem_of_getElem? h, hw⟩

theorem anyW_none {xs : List Fld} (h : anyW xs = false) : ∀ (k : Nat) (x y : ByteArray), xs[k]? = some (x, y) → wrongN x.toList = false := fun k x y hk => by
  cases hw : wrongN x.toList
  · rfl
  · rw [anyW_true hk hw] at h; cases h

set_option maxRecDepth 10000 in
set_option maxHeartbeats 800000 in
theorem implIdxW_any (a : Option Addr) (len cap : Nat) (xs : List Fld) (w : World) (hx : Flds w a len xs) (hl : len ≤ 1099511627776) :
    Calls Tryd.prog 53 #[.slice a len cap, .func (.func 43) #[] #[]] w fun e w' => (∃ k : Int, e = .returned (.int .i64 k) ∧ decide (0 ≤ k) = anyW xs) ∧ Below w.heap.size w w' := by
  have HX : Hid (Flds w a len xs) := hx
  have HL : Hid (xs.length = len) := hx.1
  clear hx
  go_enter Tryd.func53, Tryd.ntmps53
  go_wp2_with fail
  go_loopw [8] (fun v wr => ∃ k : Nat, k ≤ len ∧ v = .int .i64 k ∧ Hid (Below w.heap.size w wr) ∧ Hid (∀ (j : Nat) (x y : ByteArray), j < k → xs[j]? = some (x, y) → wrongN x.toList = false)) (fun v _ => len - (intOf v).toNat)
  case atStart => exact ⟨0, Nat.zero_le _, rfl, Below.refl _ _, fun j _ _ hj => absurd hj (Nat.not_lt_zero _)⟩
  case round =>
    obtain ⟨k, hk, rfl, HB, HN⟩ := hrel
    by_cases hlt : k < len
    · have hki : (k : Int) < (len : Int) := by omega
      obtain ⟨b, off, x, y, rfl, hb, hkx, hp, hq⟩ := (HX.out.below HB.out).at hlt
      have hxm := (HX.out.2.1 (x, y) (List.mem_of_getElem? hkx)).1
      unfold maxLen at hxm
      dsimp only at hxm
      have HK : Hid (xs[k]? = some (x, y)) := hkx
      have HO : Hid (∀ W : World, Calls Tryd.prog 43 #[.agg #[.string x, .string y]] W fun e w' => e = .returned (.bool (wrongN x.toList)) ∧ Below W.heap.size W w') := fun W => implWrong_any x y W (by omega)
      clear hkx hxm
      go_wp2_with fail
      refine (HO.out _).mono ?_
      rintro e w1 ⟨rfl, hb1⟩
      have HB1 : Hid (Below w.heap.size w w1) := HB.out.trans (hb1.mono HB.out.size)
      clear hb1
      cases hpr : wrongN x.toList
      case true =>
        have HE : Hid (anyW xs = true) := anyW_true HK.out hpr
        clear hpr
        go_wp2_with fail
        go_ret
        exact ⟨⟨k, rfl, by rw [HE.out]; simp⟩, HB1.out⟩
      case false =>
        have HN2 : Hid (∀ (j : Nat) (x y : ByteArray), j < k + 1 → xs[j]? = some (x, y) → wrongN x.toList = false) := fun j u v hj hju => by
          by_cases e : j = k
          · subst e
            rw [HK.out] at hju
            injection hju with e1
            injection e1 with e1 _
            rw [← e1]
            exact hpr
          · exact HN.out j u v (by omega) hju
        clear hpr HN
        go_wp2_with fail
        go_roundw
        case rel => exact ⟨k + 1, by omega, by go_num, HB1, HN2⟩
        case measure => simp [intOf]; omega
    · have HE : Hid (anyW xs = false) := anyW_false fun j x y hjx => HN.out j x y (by have := (List.getElem?_eq_some_iff.1 hjx).1; have := HL.out; omega) hjx
      have hkl : len = k := by omega
      clear HN HX HL
      subst hkl
      go_wp2_with fail
      go_ret
      exact ⟨⟨-1, rfl, by rw [HE.out]; rfl⟩, HB.out⟩

set_option maxRecDepth 10000 in
theorem implAnyW_any (a : Option Addr) (len cap : Nat) (xs : List Fld) (w : World) (hx : Flds w a len xs) (hl : len ≤ 1099511627776) :
    Calls Tryd.prog 42 #[.slice a len cap, .func (.func 43) #[] #[]] w fun e w' => e = .returned (.bool (anyW xs)) ∧ Below w.heap.size w w' := by
  go_enter Tryd.func42, Tryd.ntmps42
  go_wp2_with fail
  refine (implIdxW_any a len cap xs w hx hl).mono ?_
  rintro e w1 ⟨⟨k, rfl, hk⟩, hb1⟩
  have HK : Hid (decide (0 ≤ k) = anyW xs) := hk
  have HB1 : Hid (Below w.heap.size w w1) := hb1
  clear hk hb1 hx
  go_wp2_with fail
  go_ret
  exact ⟨ret_b HK.out, HB1.out⟩

end Go.Proofs.YthojijhafhnclaeDoor
