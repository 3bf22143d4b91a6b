/- A request as the laws hand it on: its size, its copy, held against itself. One field: Fields against themselves. Fields against themselves. The copy of a table, its size. The marks of fields: what they are, how they are laid, how they are asked. Marks laid into fields of a row of the call's own, and asked for. -/
import Derived.Test.YtbaijmkghgnleaaGreatDoorM24
import Derived.Test.YtbaijmkghgnleaaGreatDoorM25
import Derived.WalkKit
import Derived.Test.YtbaijmkghgnleaaGreatDoorM05
import Derived.Test.YtbaijmkghgnleaaGreatDoorM09
import Derived.Deep.QuietTactic
import Derived.Test.YtbaijmkghgnleaaGreatDoorM10
import Derived.Test.YtbaijmkghgnleaaGreatDoorM30
import Derived.Laws.IdiomStrings
import Derived.Laws.BytesArg
import Derived.BigQuiet
import Derived.Test.YtbaijmkghgnleaaGreatDoorM31
namespace Go.Proofs.YtbaijmkghgnleaaGreatDoor
open Go.RowKit
set_option linter.unusedVariables false

set_option maxRecDepth 10000 in
theorem szReq_any (op : Int) (s : ByteArray) (n left : Int) (w : World) (h0 : 0 ≤ left) (h1 : left ≤ 1048576) (hm : s.size ≤ 9223372036854775807) :
    Calls Tryz.prog 5 #[.agg #[.int .i64 op, .string s, .int .i64 n], .int .i64 left] w fun e w' => e = .returned (.int .i64 (if left - (s.size : Int) < 0 then -1 else left - (s.size : Int))) ∧ Below w.heap.size w w' := by
  have HB0 : Hid (Below w.heap.size w (w.alloc (.cells #[.int .i64 op, .string s, .int .i64 n] 26))) := (Below.refl _ _).alloc (Nat.le_refl _) _
  have hw : IntKind.i64.wrap (left - (s.size : Int)) = left - (s.size : Int) := by rw [IntKind.wrap_i64]; omega
  by_cases hneg : left - (s.size : Int) < 0
  · rw [if_pos hneg]
    go_enter Tryz.func5, Tryz.ntmps5
    go_wp2_with fail
    go_ret
    exact ⟨rfl, HB0.out⟩
  · rw [if_neg hneg]
    go_enter Tryz.func5, Tryz.ntmps5
    go_wp2_with fail
    go_ret
    exact ⟨rfl, HB0.out⟩

set_option maxRecDepth 10000 in
set_option maxHeartbeats 800000 in
theorem toReq_any (op : Int) (s : ByteArray) (n : Int) (w : World) :
    Calls Tryz.prog 8 #[.agg #[.int .i64 op, .string s, .int .i64 n]] w fun e w' => e = .returned (.agg #[.int .i64 op, .string s, .int .i64 n]) ∧ Below w.heap.size w w' := by
  go_enter Tryz.func8, Tryz.ntmps8
  go_wp2
  refine bodyPost_ret (v := .agg #[.int .i64 op, .string s, .int .i64 n]) (by simp [results, Tryz.f8, go_sem]) rfl ?_
  exact ⟨rfl, (((Below.refl _ _).alloc (Nat.le_refl _) _).alloc (by simp) _).alloc (by simp; omega) _⟩

end Go.Proofs.YtbaijmkghgnleaaGreatDoor

namespace Go.Proofs.YtbaijmkghgnleaaGreatDoor
open Go.RowKit
set_option linter.unusedVariables false

set_option maxHeartbeats 400000 in
theorem eqField_same (x y : ByteArray) (w : World) : Calls Tryz.prog 63 #[.agg #[.string x, .string y], .agg #[.string x, .string y]] w fun e w' => e = .returned (.bool true) ∧ Below w.heap.size w w' := by
  go_enter Tryz.func63, Tryz.ntmps63
  go_wp2
  go_ret
  exact ⟨rfl, ((Below.refl _ _).alloc (Nat.le_refl _) _).alloc (by simp [World.size_alloc]) _⟩

end Go.Proofs.YtbaijmkghgnleaaGreatDoor

namespace Go.Proofs.YtbaijmkghgnleaaGreatDoor
open Go.RowKit
set_option linter.unusedVariables false

set_option maxHeartbeats 400000 in
theorem szField_any (x y : ByteArray) (n : Int) (w : World) (hx : x.size ≤ maxLen) (hy : y.size ≤ maxLen) (hn : 0 ≤ n) (hn2 : n ≤ 1048576) : Calls Tryz.prog 41 #[.agg #[.string x, .string y], .int .i64 n] w fun e w' => e = .returned (.int .i64 (if n - x.size - y.size < 0 then -1 else n - x.size - y.size)) ∧ Below w.heap.size w w' := by
  have hm : maxLen < 9223372036854775808 := by decide
  by_cases h1 : n - x.size < 0
  · rw [if_pos (by omega)]
    go_enter Tryz.func41, Tryz.ntmps41
    go_wp2
    go_ret
    exact ⟨rfl, (Below.refl _ _).alloc (Nat.le_refl _) _⟩
  · by_cases h2 : n - x.size - y.size < 0
    · rw [if_pos h2]
      go_enter Tryz.func41, Tryz.ntmps41
      go_wp2
      go_ret
      exact ⟨rfl, (Below.refl _ _).alloc (Nat.le_refl _) _⟩
    · rw [if_neg h2]
      go_enter Tryz.func41, Tryz.ntmps41
      go_wp2
      go_ret
      exact ⟨rfl, (Below.refl _ _).alloc (Nat.le_refl _) _⟩

set_option maxHeartbeats 400000 in
theorem eqFieldS_same (a b : Option Addr) (len ca cb : Nat) (xs : List Fld) (w : World) (hx : Flds w a len xs) (hy : Flds w b len xs) (hla : len ≤ 1099511627776) :
    Calls Tryz.prog 38 #[.slice a len ca, .slice b len cb] w fun e w' => e = .returned (.bool true) ∧ Below w.heap.size w w' := by
  have HX : Hid (Flds w a len xs) := hx
  have HY : Hid (Flds w b len xs) := hy
  clear hx hy
  have hne : ((len : Int) != (len : Int)) = false := by simp
  go_enter Tryz.func38, Tryz.ntmps38
  go_wp2
  go_loopw [5] (fun i wr => ∃ k : Nat, k ≤ len ∧ i = .int .i64 k ∧ Hid (Below w.heap.size w wr)) (fun i _ => len - (intOf i).toNat)
  case atStart => exact ⟨0, Nat.zero_le _, rfl, Below.refl _ _⟩
  case round =>
    obtain ⟨k, hk, rfl, HW⟩ := hrel
    by_cases hlt : k < len
    · obtain ⟨ba, oa, x, y, rfl, hba, hfa, ha0, ha1⟩ := HX.out.at hlt
      obtain ⟨bb, ob, x', y', rfl, hbb, hfb, hb0, hb1⟩ := HY.out.at hlt
      obtain ⟨rfl, rfl⟩ : x = x' ∧ y = y' := by rw [hfa] at hfb; simpa using hfb
      have ga0 : wr.cell? ⟨ba, oa + k * 2, none⟩ = some (.string x) := (HW.out.cell (p := ⟨ba, _, none⟩) hba).trans ha0
      have ga1 : wr.cell? ⟨ba, oa + k * 2 + 1, none⟩ = some (.string y) := (HW.out.cell (p := ⟨ba, _, none⟩) hba).trans ha1
      have gb0 : wr.cell? ⟨bb, ob + k * 2, none⟩ = some (.string x) := (HW.out.cell (p := ⟨bb, _, none⟩) hbb).trans hb0
      have gb1 : wr.cell? ⟨bb, ob + k * 2 + 1, none⟩ = some (.string y) := (HW.out.cell (p := ⟨bb, _, none⟩) hbb).trans hb1
      clear hfa hfb ha0 ha1 hb0 hb1
      have hki : (k : Int) < (len : Int) := by omega
      have hk0 : (0 : Int) ≤ (k : Int) := by omega
      go_wp2_with fail
      go_region_with (go_at_call 63; refine (eqField_same x y _).mono ?_; rintro e x3 ⟨rfl, hb3⟩)
      all_goals
        have HB3 : Hid (Below w.heap.size w x3) := HW.out.drew.trans (hb3.mono HW.out.size)
        clear hb3
        go_wp2
        go_roundw
        case rel => exact ⟨k + 1, by omega, by go_num, HB3⟩
        case measure => simp [intOf]; omega
    · go_wp2
      go_ret
      exact ⟨rfl, HW.out⟩

set_option maxHeartbeats 400000 in
theorem toField_any (x y : ByteArray) (w : World) : Calls Tryz.prog 51 #[.agg #[.string x, .string y]] w fun e w' => e = .returned (.agg #[.string x, .string y]) ∧ Below w.heap.size w w' := by
  go_enter Tryz.func51, Tryz.ntmps51
  go_wp2
  refine bodyPost_ret (v := .agg #[.string x, .string y]) (by simp [results, Tryz.f51, go_sem]) rfl ?_
  exact ⟨rfl, (((Below.refl _ _).alloc (Nat.le_refl _) _).alloc (by simp) _).alloc (by simp; omega) _⟩

set_option maxHeartbeats 400000 in
theorem eqTable_same (m : Int) (a b : Option Addr) (len ca cb : Nat) (xs : List Fld) (w : World) (hx : Flds w a len xs) (hy : Flds w b len xs) (hla : len ≤ 1099511627776) :
    Calls Tryz.prog 12 #[.agg #[.int .i64 m, .slice a len ca], .agg #[.int .i64 m, .slice b len cb]] w fun e w' => e = .returned (.bool true) ∧ Below w.heap.size w w' := by
  have HX : Hid (Flds w a len xs) := hx
  have HY : Hid (Flds w b len xs) := hy
  clear hx hy
  go_enter Tryz.func12, Tryz.ntmps12
  go_wp2_with fail
  have hba : Below w.heap.size w ((w.alloc (Obj.cells #[Value.int IntKind.i64 m, Value.slice a len ca] 32)).alloc (Obj.cells #[Value.int IntKind.i64 m, Value.slice b len cb] 32)) := ((Below.refl _ _).alloc (Nat.le_refl _) _).alloc (by simp) _
  refine (eqFieldS_same a b len ca cb xs _ (HX.out.below hba) (HY.out.below hba) hla).mono ?_
  rintro e x3 ⟨rfl, hb3⟩
  have HB3 : Hid (Below w.heap.size w x3) := hba.trans (hb3.mono hba.size)
  clear hb3 hba
  go_wp2
  go_ret
  exact ⟨rfl, HB3.out⟩

set_option maxHeartbeats 400000 in
theorem szFieldS_any (a : Option Addr) (len ca : Nat) (xs : List Fld) (n : Int) (w : World) (hx : Flds w a len xs) (hn : 0 ≤ n) (hn2 : n ≤ 1048576) (hl : len ≤ maxLen) :
    Calls Tryz.prog 17 #[.slice a len ca, .int .i64 n] w fun e w' => (∃ v : Int, e = .returned (.int .i64 v) ∧ v ≤ n ∧ (0 ≤ v → v + (len + fldBytes xs) ≤ n)) ∧ Below w.heap.size w w' := by
  have HX : Hid (Flds w a len xs) := hx
  clear hx
  have hm : maxLen < 9223372036854775808 := by decide
  by_cases h0 : n - len < 0
  · go_enter Tryz.func17, Tryz.ntmps17
    go_wp2
    go_ret
    exact ⟨⟨_, rfl, by omega, by omega⟩, Below.refl _ _⟩
  · go_enter Tryz.func17, Tryz.ntmps17
    go_wp2
    go_loopw [1, 5] (fun l i wr => ∃ (k : Nat) (u : Int), k ≤ len ∧ i = .int .i64 k ∧ l = .int .i64 u ∧ 0 ≤ u ∧ u = n - len - fldBytes (xs.take k) ∧ Hid (Below w.heap.size w wr)) (fun _ i _ => len - (intOf i).toNat)
    case atStart => exact ⟨0, n - len, Nat.zero_le _, rfl, rfl, h0, by simp [fldBytes], Below.refl _ _⟩
    case round =>
      obtain ⟨k, u, hk, rfl, rfl, hu, heq, HW⟩ := hrel
      have HU : Hid (u = n - len - fldBytes (xs.take k)) := heq
      clear heq
      by_cases hlt : k < len
      · obtain ⟨ba, oa, x, y, rfl, hba, hfa, ha0, ha1⟩ := HX.out.at hlt
        have ga0 : wr.cell? ⟨ba, oa + k * 2, none⟩ = some (.string x) := (HW.out.cell (p := ⟨ba, _, none⟩) hba).trans ha0
        have ga1 : wr.cell? ⟨ba, oa + k * 2 + 1, none⟩ = some (.string y) := (HW.out.cell (p := ⟨ba, _, none⟩) hba).trans ha1
        have hsz := HX.out.2.1 (x, y) (List.mem_of_getElem? hfa)
        have hst := fldBytes_step xs k x y hfa
        have HF : Hid (fldBytes (xs.take (k + 1)) = fldBytes (xs.take k) + (x.size + y.size)) := hst
        clear hfa ha0 ha1 hst
        have hki : (k : Int) < (len : Int) := by omega
        have hk0 : (0 : Int) ≤ (k : Int) := by omega
        have hu2 : u ≤ 1048576 := by have := HU.out; omega
        go_wp2_with fail
        refine (szField_any x y u _ hsz.1 hsz.2 hu hu2).mono ?_
        rintro e x3 ⟨rfl, hb3⟩
        have HB3 : Hid (Below w.heap.size w x3) := HW.out.trans (hb3.mono HW.out.size)
        clear hb3 hsz
        generalize hv : (if u - x.size - y.size < 0 then -1 else u - x.size - y.size : Int) = v
        have HV : Hid ((v = -1 ∧ u - x.size - y.size < 0) ∨ (0 ≤ v ∧ v = u - x.size - y.size)) := by
          show _ ∨ _
          split at hv <;> omega
        clear hv
        by_cases hneg : v < 0
        · go_wp2
          go_ret
          exact ⟨⟨_, rfl, by omega, by omega⟩, HB3.out⟩
        · go_wp2
          go_roundw
          case rel =>
            refine ⟨k + 1, v, by omega, by go_num, rfl, by omega, ?_, HB3⟩
            have h1 := HV.out
            have h2 := HF.out
            have h3 := HU.out
            omega
          case measure => simp [intOf]; omega
      · go_wp2
        go_ret
        have hkl : k = len := by omega
        have h3 := HU.out
        have h4 := HX.out.1
        rw [List.take_of_length_le (by omega)] at h3
        exact ⟨⟨_, rfl, by omega, by omega⟩, HW.out⟩

end Go.Proofs.YtbaijmkghgnleaaGreatDoor

namespace Go.Proofs.YtbaijmkghgnleaaGreatDoor
open Go.RowKit
set_option linter.unusedVariables false

set_option maxHeartbeats 400000 in
theorem szTable_any (m : Int) (a : Option Addr) (len ca : Nat) (xs : List Fld) (n : Int) (w : World) (hx : Flds w a len xs) (hn : 0 ≤ n) (hn2 : n ≤ 1048576) (hl : len ≤ maxLen) :
    Calls Tryz.prog 4 #[.agg #[.int .i64 m, .slice a len ca], .int .i64 n] w fun e w' => (∃ v : Int, e = .returned (.int .i64 v) ∧ v ≤ n ∧ (0 ≤ v → v + (len + fldBytes xs) ≤ n)) ∧ Below w.heap.size w w' := by
  have HX : Hid (Flds w a len xs) := hx
  clear hx
  go_enter Tryz.func4, Tryz.ntmps4
  go_wp2_with fail
  refine (szFieldS_any a len ca xs n _ (HX.out.below ((Below.refl _ _).alloc (Nat.le_refl _) _)) hn hn2 hl).mono ?_
  rintro e x3 ⟨⟨v, rfl, hv1, hv2⟩, hb3⟩
  have HB3 : Hid (Below w.heap.size w x3) := ((Below.refl _ _).alloc (Nat.le_refl _) _).trans (hb3.mono (by simp))
  have HV : Hid (0 ≤ v → v + (len + fldBytes xs) ≤ n) := hv2
  clear hb3 hv2
  by_cases h : v < 0
  · go_wp2
    go_ret
    exact ⟨⟨_, rfl, by omega, by omega⟩, HB3.out⟩
  · go_wp2
    go_ret
    exact ⟨⟨_, rfl, hv1, HV.out⟩, HB3.out⟩

set_option maxHeartbeats 400000 in
theorem toFieldS_own (a : Option Addr) (len ca : Nat) (xs : List Fld) (w : World) (hx : Flds w a len xs) (hl : len ≤ 1048576) :
    Calls Tryz.prog 27 #[.slice a len ca] w fun e w' => e = .returned (.slice (some ⟨w.heap.size, 0, none⟩) len len) ∧ w'.ownsRow w.heap.size 69 2 (.slice (some ⟨w.heap.size, 0, none⟩) len len) len (fieldCells xs) ∧ Flds w' (some ⟨w.heap.size, 0, none⟩) len xs ∧ Below w.heap.size w w' := by
  obtain ⟨i0, hi, hz0, hz1, hz2⟩ := info_parts info_field
  have HS : Hid (Flds w a len xs) := hx
  clear hx
  go_enter Tryz.func27, Tryz.ntmps27
  go_wp2_with (at_make; refine wpList_make_full _ rfl _ _ 30 rfl w.heap.size 69 i0 (.agg #[.string ⟨#[]⟩, .string ⟨#[]⟩]) 2 Tryz.underlying30 hi hz0 hz1 _ _ _ _ len rfl rfl rfl rfl (by rw [hz2]; omega) (by unfold maxLen; omega) (Nat.le_refl _) ?_; intro w1 hown hgrow)
  have hrow : w1.ownsRow w.heap.size 69 2 (.slice (some ⟨w.heap.size, 0, none⟩) len len) len (fieldCells (rowTo xs len 0)) := by
    have : (madeCells (Value.agg #[Value.string ⟨#[]⟩, Value.string ⟨#[]⟩]).cells (len * 2)).toList = fieldCells (rowTo xs len 0) := by
      rw [show (Value.agg #[Value.string ⟨#[]⟩, Value.string ⟨#[]⟩]).cells = #[Value.string ⟨#[]⟩, Value.string ⟨#[]⟩] from by kernel_rfl, made_two]
      simp only [rowTo, List.take_zero, List.nil_append, Nat.sub_zero]
      exact (fieldCells_nil len).symm
    rwa [this] at hown
  have hbel : Below w.heap.size w w1 := (Below.refl _ _).grown hgrow (Nat.le_refl _) (by simp)
  have HR := (show Hid _ from hrow)
  have HB := (show Hid _ from hbel)
  clear hown hgrow hrow hbel
  go_loopw [4] (fun i wr => ∃ k : Nat, k ≤ len ∧ i = .int .i64 k ∧ Hid (wr.ownsRow w.heap.size 69 2 (.slice (some ⟨w.heap.size, 0, none⟩) len len) len (fieldCells (rowTo xs len k))) ∧ Hid (Below w.heap.size w wr)) (fun i _ => len - (intOf i).toNat)
  case atStart => exact ⟨0, Nat.zero_le _, rfl, HR, HB⟩
  case round =>
    clear HR HB
    obtain ⟨k, hk, rfl, HO, HB⟩ := hrel
    by_cases hlt : k < len
    · obtain ⟨ba, oa, x, y, rfl, hba, hfa, ha0, ha1⟩ := HS.out.at hlt
      have ga0 : wr.cell? ⟨ba, oa + k * 2, none⟩ = some (.string x) := (HB.out.cell (p := ⟨ba, _, none⟩) hba).trans ha0
      have ga1 : wr.cell? ⟨ba, oa + k * 2 + 1, none⟩ = some (.string y) := (HB.out.cell (p := ⟨ba, _, none⟩) hba).trans ha1
      have HF : Hid (xs[k]? = some (x, y)) := hfa
      clear hfa ha0 ha1
      have hki : (k : Int) < (len : Int) := by omega
      have hk0 : (0 : Int) ≤ (k : Int) := by omega
      go_wp2_with fail
      refine (toField_any x y _).mono ?_
      rintro e x3 ⟨rfl, hb3⟩
      have HO3 : Hid (x3.ownsRow w.heap.size 69 2 (.slice (some ⟨w.heap.size, 0, none⟩) len len) len (fieldCells (rowTo xs len k))) := own_below HO.out hb3
      have HB3 : Hid (Below w.heap.size w x3) := HB.out.trans (hb3.mono HB.out.size)
      clear hb3
      have hln : (fieldCells (rowTo xs len k)).length = 2 * len := by rw [fieldCells_len, rowTo_len xs len k HS.out.1 hk]
      have f0 : x3.frozen? ⟨w.heap.size, k * 2, none⟩ = false := HO3.out.frozenAt _
      have f1 : x3.frozen? ⟨w.heap.size, k * 2 + 1, none⟩ = false := HO3.out.frozenAt _
      obtain ⟨u0, hu0⟩ : ∃ u, x3.cell? ⟨w.heap.size, k * 2, none⟩ = some u := by
        rw [HO3.out.cellAt _ (by omega)]
        exact ⟨_, List.getElem?_eq_getElem (by omega)⟩
      obtain ⟨u1, hu1⟩ : ∃ u, x3.cell? ⟨w.heap.size, k * 2 + 1, none⟩ = some u := by
        rw [HO3.out.cellAt _ (by omega)]
        exact ⟨_, List.getElem?_eq_getElem (by omega)⟩
      clear hln
      go_wp2
      go_roundw
      case rel =>
        refine ⟨k + 1, by omega, by go_num, ?_, ?_⟩
        · have h := ((HO3.out.stored (k * 2) (.string x)).1.stored (k * 2 + 1) (.string y)).1
          rw [fieldCells_set _ x y k (by rw [rowTo_len xs len k HS.out.1 hk]; exact hlt), rowTo_step xs len k x y HF.out hlt] at h
          exact h
        · exact (HB3.out.setCell (Nat.le_refl _) _).setCell (Nat.le_refl _) _
      case measure => simp [intOf]; omega
    · go_wp2
      go_ret
      have hkl : k = len := by omega
      subst hkl
      have hl1 := HS.out.1
      have h := HO.out
      rw [show rowTo xs k k = xs by simp [rowTo, List.take_of_length_le (Nat.le_of_eq hl1)]] at h
      refine ⟨rfl, h, ⟨hl1, HS.out.2.1, ?_⟩, HB.out⟩
      by_cases hz : k = 0
      · exact .inl hz
      · right
        have hc : ∀ i (hi : i < xs.length), wr.cell? ⟨w.heap.size, 0 + i * 2, none⟩ = some (.string (xs[i]).1) ∧ wr.cell? ⟨w.heap.size, 0 + i * 2 + 1, none⟩ = some (.string (xs[i]).2) := by
          intro i hi
          have := fieldCells_at xs i hi
          rw [Nat.mul_comm 2 i] at this
          rw [Nat.zero_add, h.cellAt _ (by omega), h.cellAt _ (by omega)]
          exact this
        exact ⟨_, _, rfl, lt_of_cell (hc 0 (by omega)).1, hc⟩

set_option maxHeartbeats 400000 in
theorem toTable_own (m : Int) (a : Option Addr) (len ca : Nat) (xs : List Fld) (w : World) (hx : Flds w a len xs) (hl : len ≤ 1048576) :
    Calls Tryz.prog 7 #[.agg #[.int .i64 m, .slice a len ca]] w fun e w' => ∃ g, e = .returned (.agg #[.int .i64 m, .slice (some ⟨g, 0, none⟩) len len]) ∧ w.heap.size ≤ g ∧ w'.ownsRow w.heap.size 69 2 (.slice (some ⟨g, 0, none⟩) len len) len (fieldCells xs) ∧ Flds w' (some ⟨g, 0, none⟩) len xs ∧ Below w.heap.size w w' := by
  have HX : Hid (Flds w a len xs) := hx
  clear hx
  go_enter Tryz.func7, Tryz.ntmps7
  go_wp2_with fail
  have hba : Below w.heap.size w (((w.alloc (Obj.cells #[Value.int IntKind.i64 m, Value.slice a len ca] 24)).alloc (Obj.cells #[Value.int IntKind.i64 0, Value.slice none 0 0] 32)).alloc (Obj.cells #[Value.int IntKind.i64 m, Value.slice none 0 0] 32)) := (((Below.refl _ _).alloc (Nat.le_refl _) _).alloc (by simp) _).alloc (by simp; omega) _
  refine (toFieldS_own a len ca xs _ (HX.out.below hba) hl).mono ?_
  rintro e x3 ⟨rfl, ho3, hf3, hb3⟩
  rw [show (((w.alloc (Obj.cells #[Value.int IntKind.i64 m, Value.slice a len ca] 24)).alloc (Obj.cells #[Value.int IntKind.i64 0, Value.slice none 0 0] 32)).alloc (Obj.cells #[Value.int IntKind.i64 m, Value.slice none 0 0] 32)).heap.size = w.heap.size + 1 + 1 + 1 by simp] at ho3 hf3 hb3 ⊢
  have HB3 : Hid (Below w.heap.size w x3) := hba.trans (hb3.mono (by omega))
  have HF3 : Hid (Flds x3 (some ⟨w.heap.size + 1 + 1 + 1, 0, none⟩) len xs) := hf3
  have HO3 : Hid (x3.ownsRow (w.heap.size + 1 + 1 + 1) 69 2 (.slice (some ⟨w.heap.size + 1 + 1 + 1, 0, none⟩) len len) len (fieldCells xs)) := ho3
  have a0 : x3.cell? ⟨w.heap.size + 1, 0, none⟩ = some (.int .i64 0) := (hb3.cell (p := ⟨_, _, none⟩) (by dsimp only; omega)).trans (by simp [go_sem])
  have a1 : x3.cell? ⟨w.heap.size + 1, 1, none⟩ = some (.slice none 0 0) := (hb3.cell (p := ⟨_, _, none⟩) (by dsimp only; omega)).trans (by simp [go_sem])
  have b0 : x3.cell? ⟨w.heap.size + 1 + 1, 0, none⟩ = some (.int .i64 m) := (hb3.cell (p := ⟨_, _, none⟩) (by dsimp only; omega)).trans (by simp [go_sem])
  have b1 : x3.cell? ⟨w.heap.size + 1 + 1, 1, none⟩ = some (.slice none 0 0) := (hb3.cell (p := ⟨_, _, none⟩) (by dsimp only; omega)).trans (by simp [go_sem])
  have f0 : x3.frozen? ⟨w.heap.size + 1, 0, none⟩ = false := (hb3.frozen (p := ⟨_, _, none⟩) (by dsimp only; omega)).trans (by simp [go_sem])
  have f1 : x3.frozen? ⟨w.heap.size + 1, 1, none⟩ = false := (hb3.frozen (p := ⟨_, _, none⟩) (by dsimp only; omega)).trans (by simp [go_sem])
  have f2 : x3.frozen? ⟨w.heap.size + 1 + 1, 1, none⟩ = false := (hb3.frozen (p := ⟨_, _, none⟩) (by dsimp only; omega)).trans (by simp [go_sem])
  clear hb3 hba hf3 ho3
  go_wp2
  refine bodyPost_ret (v := .agg #[.int .i64 m, .slice (some ⟨w.heap.size + 1 + 1 + 1, 0, none⟩) len len]) (by simp [results, Tryz.f7, go_sem, a0, a1]) rfl ?_
  refine ⟨_, rfl, by omega, ?_, ?_, ?_⟩
  · have h1 := ownsRow_setCell_below (ownsRow_setCell_below (ownsRow_setCell_below HO3.out (a := ⟨w.heap.size + 1 + 1, 1, none⟩) (by dsimp only; omega) (.slice (some ⟨w.heap.size + 1 + 1 + 1, 0, none⟩) len len)) (a := ⟨w.heap.size + 1, 0, none⟩) (by dsimp only; omega) (.int .i64 m)) (a := ⟨w.heap.size + 1, 1, none⟩) (by dsimp only; omega) (.slice (some ⟨w.heap.size + 1 + 1 + 1, 0, none⟩) len len)
    refine ⟨h1.1, ?_⟩
    rcases h1.2 with h0 | ⟨g, cap, cur, he, hg, r⟩
    · exact .inl h0
    · exact .inr ⟨g, cap, cur, he, by omega, r⟩
  · exact ((HF3.out.other (by dsimp only; omega) _).other (by dsimp only; omega) _).other (by dsimp only; omega) _
  · exact ((HB3.out.setCell (by dsimp only; omega) _).setCell (by dsimp only; omega) _).setCell (by dsimp only; omega) _

theorem toTable_any (m : Int) (a : Option Addr) (len ca : Nat) (xs : List Fld) (w : World) (hx : Flds w a len xs) (hl : len ≤ 1048576) :
    Calls Tryz.prog 7 #[.agg #[.int .i64 m, .slice a len ca]] w fun e w' => ∃ g, e = .returned (.agg #[.int .i64 m, .slice (some ⟨g, 0, none⟩) len len]) ∧ w.heap.size ≤ g ∧ Flds w' (some ⟨g, 0, none⟩) len xs ∧ Below w.heap.size w w' :=
  (toTable_own m a len ca xs w hx hl).mono fun e w' ⟨g, h1, h2, _, h3, h4⟩ => ⟨g, h1, h2, h3, h4⟩

end Go.Proofs.YtbaijmkghgnleaaGreatDoor

namespace Go.Proofs.YtbaijmkghgnleaaGreatDoor
open Go.RowKit
set_option linter.unusedVariables false

/-- 'string([]byte{c})'. -/
theorem convm_one (c : Nat) (hc : c < 256) (W : World) (g : Nat) (h : W.cell? ⟨g, 0, none⟩ = some (.int .u8 (c : Int))) :
    (convert 27 9 (.slice (some ⟨g, 0, none⟩) 1 1)).run Tryz.prog W = .ok (.string ⟨#[UInt8.ofNat c]⟩) W := by
  refine run_convert_bytes_back W 27 9 5 ⟨g, 0, none⟩ 1 [UInt8.ofNat c] Tryz.underlying27 Tryz.underlying5 Tryz.underlying9 (fun j hj => ?_)
  obtain rfl : j = 0 := by simpa using hj
  have e : (UInt8.ofNat c).toNat = c := by simp; omega
  simpa [Addr.add, Nat.mod_eq_of_lt hc] using h

/-- The digits of k ahead of a text. -/
def mtGo (k : Nat) (out : ByteArray) : ByteArray := if k = 0 then out else mtGo (k / 10) (⟨#[UInt8.ofNat (48 + k % 10)]⟩ ++ out)
termination_by k
decreasing_by omega

/-- The mark of the number k. -/
def mt (k : Nat) : ByteArray := if k = 0 then ⟨#[109, 48]⟩ else ⟨#[109]⟩ ++ mtGo k ⟨#[]⟩

set_option maxRecDepth 10000 in
set_option maxHeartbeats 800000 in
theorem markText_any (k : Nat) (w : World) (hk : k ≤ 4398046511104) : Calls Tryz.prog 64 #[.int .i64 (k : Int)] w fun e w' => e = .returned (.string (mt k)) ∧ Below w.heap.size w w' := by
  by_cases h0 : k = 0
  · subst h0
    go_enter Tryz.func64, Tryz.ntmps64
    go_wp2
    go_ret
    exact ⟨rfl, Below.refl _ _⟩
  · have e : mt k = ⟨#[109]⟩ ++ mtGo k ⟨#[]⟩ := by rw [mt, if_neg h0]
    rw [e]
    have hki : ¬ (k : Int) ≤ 0 := by omega
    have hkd : decide ((k : Int) ≤ 0) = false := by simp; omega
    generalize hT : mtGo k ⟨#[]⟩ = T
    have HT : Hid (mtGo k ⟨#[]⟩ = T) := hT
    clear hT e
    go_enter Tryz.func64, Tryz.ntmps64
    go_wp2_with fail
    go_loopw [0, 3] (fun n o wr => ∃ (j : Nat) (u : ByteArray), j + u.size ≤ k ∧ n = .int .i64 (j : Int) ∧ o = .string u ∧ Hid (mtGo j u = T) ∧ Hid (Below w.heap.size w wr)) (fun n _ _ => (intOf n).toNat)
    case atStart => exact ⟨k, ⟨#[]⟩, Nat.le_refl _, rfl, rfl, HT, Below.refl _ _⟩
    case round =>
      clear HT
      obtain ⟨j, u, hj, rfl, rfl, HT, HB⟩ := hrel
      by_cases hj0 : j = 0
      · subst hj0
        have hTu : u = T := by
          have := HT.out
          rw [mtGo, if_pos rfl] at this
          exact this
        subst hTu
        go_wp2_with fail
        go_ret
        exact ⟨rfl, HB.out⟩
      · have hj1 : (0 : Int) < (j : Int) := by omega
        have HT2 : Hid (mtGo (j / 10) (⟨#[UInt8.ofNat (48 + j % 10)]⟩ ++ u) = T) := by
          show _ = _
          have := HT.out
          rw [mtGo, if_neg hj0] at this
          exact this
        have hjb : (j : Int) ≤ 4398046511104 := by omega
        have hcv : ∀ (W : World) (g : Nat), W.cell? ⟨g, 0, none⟩ = some (.int .u8 (48 + (j : Int) % 10)) → (convert 27 9 (.slice (some ⟨g, 0, none⟩) 1 1)).run Tryz.prog W = .ok (.string ⟨#[UInt8.ofNat (48 + j % 10)]⟩) W := fun W g hW => convm_one (48 + j % 10) (by omega) W g (by rw [hW]; congr 2)
        have hsz : (⟨#[UInt8.ofNat (48 + j % 10)]⟩ ++ u : ByteArray).size = 1 + u.size := by rw [ByteArray.size_append]; rfl
        have hXs : (⟨#[UInt8.ofNat (48 + j % 10)]⟩ : ByteArray).size = 1 := rfl
        generalize hX : (⟨#[UInt8.ofNat (48 + j % 10)]⟩ : ByteArray) = X at *
        clear hX
        have hus : X.size + u.size ≤ 4398046511105 := by omega
        have HSz : Hid ((X ++ u).size = 1 + u.size) := hsz
        clear hsz
        go_wp2_with fail
        go_roundw
        case rel =>
          refine ⟨j / 10, X ++ u, by rw [HSz.out]; omega, by congr 1, rfl, HT2, ?_⟩
          exact HB.out.alloc HB.out.size _
        case measure => simp [intOf]; omega

end Go.Proofs.YtbaijmkghgnleaaGreatDoor

namespace Go.Proofs.YtbaijmkghgnleaaGreatDoor
open Go.RowKit
set_option linter.unusedVariables false

theorem mtGo_size (k : Nat) : ∀ u : ByteArray, (mtGo k u).size ≤ k + u.size := by
  induction k using Nat.strongRecOn with
  | _ k ih =>
    intro u
    rw [mtGo]
    split
    · omega
    · have := ih (k / 10) (by omega) (⟨#[UInt8.ofNat (48 + k % 10)]⟩ ++ u)
      rw [ByteArray.size_append] at this
      have e : (⟨#[UInt8.ofNat (48 + k % 10)]⟩ : ByteArray).size = 1 := rfl
      omega

theorem mt_size (k : Nat) : (mt k).size ≤ k + 2 := by
  unfold mt
  split
  · have e : (⟨#[109, 48]⟩ : ByteArray).size = 2 := rfl
    omega
  · have := mtGo_size k ⟨#[]⟩
    rw [ByteArray.size_append]
    have e : (⟨#[109]⟩ : ByteArray).size = 1 := rfl
    have e2 : (⟨#[]⟩ : ByteArray).size = 0 := rfl
    omega

/-- The marks of n fields, from the number k on. -/
def marksF (k n : Nat) : List Fld := (List.range n).map fun j => (mt (k + 2 * j), mt (k + 2 * j + 1))
theorem marksF_len (k n : Nat) : (marksF k n).length = n := by simp [marksF]

/-- Fields of which the first j are marked. -/
def markTo (k : Nat) (xs : List Fld) (j : Nat) : List Fld := marksF k j ++ xs.drop j

theorem markTo_len (k : Nat) (xs : List Fld) (j : Nat) (h : j ≤ xs.length) : (markTo k xs j).length = xs.length := by
  simp [markTo, marksF_len]
  omega

theorem markTo_step (k : Nat) (xs : List Fld) (j : Nat) (h : j < xs.length) : (markTo k xs j).set j (mt (k + 2 * j), mt (k + 2 * j + 1)) = markTo k xs (j + 1) := by
  rw [markTo, markTo, List.set_append_right j _ (by rw [marksF_len]; exact Nat.le_refl _), marksF_len, Nat.sub_self, List.drop_eq_getElem_cons h, List.set_cons_zero]
  simp [marksF, List.range_succ]

theorem grown_refl (w : World) (r : Option Nat) : w.grownBy w r := ⟨rfl, rfl, rfl, Nat.le_refl _, fun _ _ _ => rfl⟩
theorem grown_trans {a b c : World} {r : Option Nat} (h : a.grownBy b r) (g : b.grownBy c r) : a.grownBy c r :=
  ⟨g.os.trans h.os, g.tape.trans h.tape, g.output.trans h.output, Nat.le_trans h.size g.size, fun k hk hr => (g.block k (Nat.lt_of_lt_of_le hk h.size) hr).trans (h.block k hk hr)⟩
theorem grown_below {a b : World} {r : Option Nat} (h : Below a.heap.size a b) : a.grownBy b r := ⟨h.os, h.tape, h.output, h.size, fun k hk _ => h.block k hk⟩

set_option maxRecDepth 10000 in
set_option maxHeartbeats 1600000 in
theorem markFS_any (base : Nat) (a : Option Addr) (n cap k : Nat) (xs : List Fld) (w : World) (h : OwnF w base (.slice a n cap) n xs) (hn : n ≤ 1099511627776) (hk : k ≤ 1099511627776) :
    Calls Tryz.prog 39 #[.slice a n cap, .int .i64 (k : Int)] w fun e w' => e = .returned (.int .i64 ((k + 2 * n : Nat) : Int)) ∧ OwnF w' base (.slice a n cap) n (marksF k n) ∧ w.grownBy w' (a.map (·.block)) := by
  have hlen := h.len
  have HO0 : Hid (w.ownsRow base 69 2 (.slice a n cap) n (fieldCells (markTo k xs 0))) := h.1
  clear h
  go_enter Tryz.func39, Tryz.ntmps39
  go_wp2_with fail
  go_loopw [1, 5] (fun q i wr => ∃ j : Nat, j ≤ n ∧ i = .int .i64 j ∧ q = .int .i64 ((k + 2 * j : Nat) : Int) ∧ Hid (wr.ownsRow base 69 2 (.slice a n cap) n (fieldCells (markTo k xs j))) ∧ Hid (w.grownBy wr (a.map (·.block)))) (fun _ i _ => n - (intOf i).toNat)
  case atStart => exact ⟨0, Nat.zero_le _, rfl, rfl, HO0, grown_refl _ _⟩
  case round =>
    clear HO0
    obtain ⟨j, hj, rfl, rfl, HO, HG⟩ := hrel
    by_cases hlt : j < n
    · obtain ⟨g, rfl⟩ : ∃ g, a = some ⟨g, 0, none⟩ := by
        rcases HO.out.2 with ⟨_, h0⟩ | ⟨g, cap', cur, he, _⟩
        · omega
        · injection he with e1 _ _
          exact ⟨g, e1⟩
      have hji : (j : Int) < (n : Int) := by omega
      have hq1 : ((k + 2 * j : Nat) : Int) + 1 = ((k + 2 * j + 1 : Nat) : Int) := by omega
      have hq2 : ((k + 2 * j + 1 : Nat) : Int) + 1 = ((k + 2 * (j + 1) : Nat) : Int) := by omega
      have hqb : ((k + 2 * j + 1 : Nat) : Int) ≤ 4398046511104 := by omega
      have HM1 : Hid (∀ W, Calls Tryz.prog 64 #[.int .i64 ((k + 2 * j : Nat) : Int)] W fun e w' => e = .returned (.string (mt (k + 2 * j))) ∧ Below W.heap.size W w') := fun W => markText_any _ W (by omega)
      have HM2 : Hid (∀ W, Calls Tryz.prog 64 #[.int .i64 ((k + 2 * j + 1 : Nat) : Int)] W fun e w' => e = .returned (.string (mt (k + 2 * j + 1))) ∧ Below W.heap.size W w') := fun W => markText_any _ W (by omega)
      have HSt : Hid ((markTo k xs j).set j (mt (k + 2 * j), mt (k + 2 * j + 1)) = markTo k xs (j + 1)) := markTo_step k xs j (by omega)
      have HLn : Hid ((markTo k xs j).length = n) := by show _ = _; rw [markTo_len k xs j (by omega), hlen]
      generalize mt (k + 2 * j) = m1 at *
      generalize mt (k + 2 * j + 1) = m2 at *
      generalize markTo k xs j = L at *
      obtain ⟨K2, hK2⟩ : ∃ K2, k + 2 * (j + 1) = K2 := ⟨_, rfl⟩
      obtain ⟨K1, hK1⟩ : ∃ K1, k + 2 * j + 1 = K1 := ⟨_, rfl⟩
      obtain ⟨K0, hK0⟩ : ∃ K0, k + 2 * j = K0 := ⟨_, rfl⟩
      rw [hK2] at hq2
      rw [hK1] at hq1 hq2 hqb HM2
      rw [hK0] at hq1 HM1 ⊢
      have HK2 : Hid (k + 2 * (j + 1) = K2) := hK2
      have hK0b : (K0 : Int) ≤ 4398046511104 := by omega
      clear hK0 hK1 hK2
      go_wp2_with fail
      refine (HM1.out wr).mono ?_
      rintro e x1 ⟨rfl, hb1⟩
      have HO1 : Hid (x1.ownsRow base 69 2 (.slice (some ⟨g, 0, none⟩) n cap) n (fieldCells L)) := own_stays HO.out hb1
      have HG1 : Hid (w.grownBy x1 (some g)) := grown_trans HG.out (grown_below hb1)
      clear hb1 HO HG
      have hln : (fieldCells L).length = 2 * n := by rw [fieldCells_len, HLn.out]
      have f0 : x1.frozen? ⟨g, j * 2, none⟩ = false := HO1.out.frozenAt _
      obtain ⟨u0, hu0⟩ : ∃ u, x1.cell? ⟨g, j * 2, none⟩ = some u := by
        rw [HO1.out.cellAt _ (by omega)]
        exact ⟨_, List.getElem?_eq_getElem (by omega)⟩
      go_wp2_with fail
      have hst := HO1.out.stored (j * 2) (.string m1)
      have HO2 : Hid ((x1.setCell ⟨g, j * 2, none⟩ (.string m1)).ownsRow base 69 2 (.slice (some ⟨g, 0, none⟩) n cap) n ((fieldCells L).set (j * 2) (.string m1))) := hst.1
      have HG2 : Hid (w.grownBy (x1.setCell ⟨g, j * 2, none⟩ (.string m1)) (some g)) := grown_trans HG1.out hst.2
      generalize x1.setCell ⟨g, j * 2, none⟩ (.string m1) = x2 at *
      clear hst HO1 HG1 f0 hu0
      refine (HM2.out x2).mono ?_
      rintro e x3 ⟨rfl, hb3⟩
      have HO3 : Hid (x3.ownsRow base 69 2 (.slice (some ⟨g, 0, none⟩) n cap) n ((fieldCells L).set (j * 2) (.string m1))) := own_stays HO2.out hb3
      have HG3 : Hid (w.grownBy x3 (some g)) := grown_trans HG2.out (grown_below hb3)
      clear hb3 HO2 HG2
      have f1 : x3.frozen? ⟨g, j * 2 + 1, none⟩ = false := HO3.out.frozenAt _
      obtain ⟨u1, hu1⟩ : ∃ u, x3.cell? ⟨g, j * 2 + 1, none⟩ = some u := by
        rw [HO3.out.cellAt _ (by omega)]
        exact ⟨_, List.getElem?_eq_getElem (by rw [List.length_set]; omega)⟩
      have hst := HO3.out.stored (j * 2 + 1) (.string m2)
      have HO4 : Hid ((x3.setCell ⟨g, j * 2 + 1, none⟩ (.string m2)).ownsRow base 69 2 (.slice (some ⟨g, 0, none⟩) n cap) n (fieldCells (markTo k xs (j + 1)))) := by
        have h1 := hst.1
        rw [fieldCells_set L m1 m2 j (by rw [HLn.out]; exact hlt), HSt.out] at h1
        exact h1
      have HG4 : Hid (w.grownBy (x3.setCell ⟨g, j * 2 + 1, none⟩ (.string m2)) (some g)) := grown_trans HG3.out hst.2
      clear hst hln HO3 HG3
      go_wp2_with fail
      go_roundw
      case rel => exact ⟨j + 1, by omega, by go_num, by rw [HK2.out], HO4, HG4⟩
      case measure => simp [intOf]; omega
    · have hjn : j = n := by omega
      subst hjn
      go_wp2_with fail
      go_ret
      have hd : markTo k xs j = marksF k j := by
        rw [markTo, List.drop_eq_nil_of_le (by omega), List.append_nil]
      have h1 := HO.out
      rw [hd] at h1
      refine ⟨rfl, ⟨h1, ?_⟩, HG.out⟩
      intro f hf
      simp only [marksF, List.mem_map, List.mem_range] at hf
      obtain ⟨i, hi, rfl⟩ := hf
      have s1 := mt_size (k + 2 * i)
      have s2 := mt_size (k + 2 * i + 1)
      dsimp only
      unfold maxLen
      omega

end Go.Proofs.YtbaijmkghgnleaaGreatDoor
