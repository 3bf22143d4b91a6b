/- The copy of lanes, their comparison with themselves, their size. -/
import Derived.Test.YtkicfiacnpifkaqLaneRow
import Derived.Deep.RegionWith
namespace Go.Proofs.Ytkicfiacnpifkaq
open Go.RowKit
set_option linter.unusedVariables false

set_option maxHeartbeats 400000 in
theorem szLaneS_any (a : Option Addr) (len cap : Nat) (w : World) (hl : len ≤ maxLen) :
    Calls Try.prog 14 #[.slice a len cap, .int .i64 1048576] w fun e w' => e = .returned (.int .i64 (if (1048576 : Int) - len < 0 then -1 else 1048576 - len)) ∧ w' = w := by
  have hm : maxLen < 9223372036854775808 := by decide
  by_cases h : (1048576 : Int) - len < 0
  · rw [if_pos h]
    go_enter Try.func14, Try.ntmps14
    go_wp2
    go_ret
    exact ⟨rfl, rfl⟩
  · rw [if_neg h]
    go_enter Try.func14, Try.ntmps14
    go_wp2
    go_ret
    exact ⟨rfl, rfl⟩

set_option maxHeartbeats 400000 in
theorem toLane_any (x y : Int) (w : World) : Calls Try.prog 28 #[.agg #[.int .i64 x, .int .i64 y]] w fun e w' => e = .returned (.agg #[.int .i64 x, .int .i64 y]) ∧ Below w.heap.size w w' := by
  go_enter Try.func28, Try.ntmps28
  go_wp2
  refine bodyPost_ret (v := .agg #[.int .i64 x, .int .i64 y]) (by simp [results, Try.f28, go_sem]) rfl ?_
  exact ⟨rfl, (((Below.refl _ _).alloc (Nat.le_refl _) _).alloc (by simp) _).alloc (by simp; omega) _⟩

set_option maxHeartbeats 400000 in
theorem eqLane_same (x y : Int) (w : World) : Calls Try.prog 35 #[.agg #[.int .i64 x, .int .i64 y], .agg #[.int .i64 x, .int .i64 y]] w fun e w' => e = .returned (.bool true) ∧ Below w.heap.size w w' := by
  have hx : (x != x) = false := by simp
  have hy : (y != y) = false := by simp
  go_enter Try.func35, Try.ntmps35
  go_wp2
  go_ret
  exact ⟨rfl, ((Below.refl _ _).alloc (Nat.le_refl _) _).alloc (by simp [World.size_alloc]) _⟩

set_option maxHeartbeats 400000 in
theorem eqLaneS_same (a b : Option Addr) (len ca cb : Nat) (xs : List Lane) (w : World) (hx : Lanes w a len xs) (hy : Lanes w b len xs) (hla : len ≤ 1099511627776) :
    Calls Try.prog 23 #[.slice a len ca, .slice b len cb] w fun e w' => e = .returned (.bool true) ∧ Below w.heap.size w w' := by
  have HX : Hid (Lanes w a len xs) := hx
  have HY : Hid (Lanes w b len xs) := hy
  clear hx hy
  have hne : ((len : Int) != (len : Int)) = false := by simp
  go_enter Try.func23, Try.ntmps23
  go_wp2
  go_loopw [5] (fun i wr => ∃ k : Nat, k ≤ len ∧ i = .int .i64 k ∧ Hid (Below w.heap.size w wr)) (fun i _ => len - (intOf i).toNat)
  case atStart => exact ⟨0, Nat.zero_le _, rfl, Below.refl _ _⟩
  case round =>
    obtain ⟨k, hk, rfl, HW⟩ := hrel
    by_cases hlt : k < len
    · obtain ⟨ba, oa, x, y, rfl, hba, hfa, ha0, ha1, _, _⟩ := HX.out.at hlt
      obtain ⟨bb, ob, x', y', rfl, hbb, hfb, hb0, hb1, _, _⟩ := HY.out.at hlt
      obtain ⟨rfl, rfl⟩ : x = x' ∧ y = y' := by rw [hfa] at hfb; simpa using hfb
      have ga0 : wr.cell? ⟨ba, oa + k * 2, none⟩ = some (.int .i64 x) := (HW.out.cell (p := ⟨ba, _, none⟩) hba).trans ha0
      have ga1 : wr.cell? ⟨ba, oa + k * 2 + 1, none⟩ = some (.int .i64 y) := (HW.out.cell (p := ⟨ba, _, none⟩) hba).trans ha1
      have gb0 : wr.cell? ⟨bb, ob + k * 2, none⟩ = some (.int .i64 x) := (HW.out.cell (p := ⟨bb, _, none⟩) hbb).trans hb0
      have gb1 : wr.cell? ⟨bb, ob + k * 2 + 1, none⟩ = some (.int .i64 y) := (HW.out.cell (p := ⟨bb, _, none⟩) hbb).trans hb1
      clear hfa hfb ha0 ha1 hb0 hb1
      have hki : (k : Int) < (len : Int) := by omega
      have hk0 : (0 : Int) ≤ (k : Int) := by omega
      go_wp2_with fail
      go_region_with (go_at_call 35; refine (eqLane_same x y _).mono ?_; rintro e x3 ⟨rfl, hb3⟩)
      all_goals
        have HB3 : Hid (Below w.heap.size w x3) := HW.out.drew.trans (hb3.mono HW.out.size)
        clear hb3
        go_wp2
        go_roundw
        case rel => exact ⟨k + 1, by omega, by go_num, HB3⟩
        case measure => simp [intOf]; omega
    · go_wp2
      go_ret
      exact ⟨rfl, HW.out⟩

set_option maxHeartbeats 400000 in
theorem toLaneS_own (a : Option Addr) (len ca : Nat) (xs : List Lane) (w : World) (hx : Lanes w a len xs) (hl : len ≤ 1048576) :
    Calls Try.prog 19 #[.slice a len ca] w fun e w' => e = .returned (.slice (some ⟨w.heap.size, 0, none⟩) len len) ∧ OwnL w' w.heap.size (some ⟨w.heap.size, 0, none⟩) len len xs ∧ Below w.heap.size w w' := by
  obtain ⟨i0, hi, hz0, hz1, hz2⟩ := info_parts info_lane
  have HS : Hid (Lanes w a len xs) := hx
  clear hx
  go_enter Try.func19, Try.ntmps19
  go_wp2_with (at_make; refine wpList_make_full _ rfl _ _ 26 rfl w.heap.size 41 i0 (.agg #[.int .i64 0, .int .i64 0]) 2 Try.underlying26 hi hz0 hz1 _ _ _ _ len rfl rfl rfl rfl (by rw [hz2]; omega) (by unfold maxLen; omega) (Nat.le_refl _) ?_; intro w1 hown hgrow)
  have hrow : w1.ownsRow w.heap.size 41 2 (.slice (some ⟨w.heap.size, 0, none⟩) len len) len (laneCells (laneTo xs len 0)) := by
    have : (madeCells (Value.agg #[Value.int .i64 0, Value.int .i64 0]).cells (len * 2)).toList = laneCells (laneTo xs len 0) := by
      rw [show (Value.agg #[Value.int .i64 0, Value.int .i64 0]).cells = #[Value.int .i64 0, Value.int .i64 0] from by kernel_rfl, made_pair]
      simp only [laneTo, List.take_zero, List.nil_append, Nat.sub_zero]
      exact (laneCells_nil len).symm
    rwa [this] at hown
  have hbel : Below w.heap.size w w1 := (Below.refl _ _).grown hgrow (Nat.le_refl _) (by simp)
  have HR := (show Hid _ from hrow)
  have HB := (show Hid _ from hbel)
  clear hown hgrow hrow hbel
  go_loopw [4] (fun i wr => ∃ k : Nat, k ≤ len ∧ i = .int .i64 k ∧ Hid (wr.ownsRow w.heap.size 41 2 (.slice (some ⟨w.heap.size, 0, none⟩) len len) len (laneCells (laneTo xs len k))) ∧ Hid (Below w.heap.size w wr)) (fun i _ => len - (intOf i).toNat)
  case atStart => exact ⟨0, Nat.zero_le _, rfl, HR, HB⟩
  case round =>
    clear HR HB
    obtain ⟨k, hk, rfl, HO, HB⟩ := hrel
    by_cases hlt : k < len
    · obtain ⟨ba, oa, x, y, rfl, hba, hfa, ha0, ha1, _, _⟩ := HS.out.at hlt
      have ga0 : wr.cell? ⟨ba, oa + k * 2, none⟩ = some (.int .i64 x) := (HB.out.cell (p := ⟨ba, _, none⟩) hba).trans ha0
      have ga1 : wr.cell? ⟨ba, oa + k * 2 + 1, none⟩ = some (.int .i64 y) := (HB.out.cell (p := ⟨ba, _, none⟩) hba).trans ha1
      have HF : Hid (xs[k]? = some (x, y)) := hfa
      clear hfa ha0 ha1
      have hki : (k : Int) < (len : Int) := by omega
      have hk0 : (0 : Int) ≤ (k : Int) := by omega
      go_wp2_with fail
      refine (toLane_any x y _).mono ?_
      rintro e x3 ⟨rfl, hb3⟩
      have HO3 : Hid (x3.ownsRow w.heap.size 41 2 (.slice (some ⟨w.heap.size, 0, none⟩) len len) len (laneCells (laneTo xs len k))) := own_below HO.out hb3
      have HB3 : Hid (Below w.heap.size w x3) := HB.out.trans (hb3.mono HB.out.size)
      clear hb3
      have hln : (laneCells (laneTo xs len k)).length = len * 2 := by rw [laneCells_len, laneTo_len xs len k HS.out.1 hk]
      have f0 : x3.frozen? ⟨w.heap.size, k * 2, none⟩ = false := HO3.out.frozenAt _
      have f1 : x3.frozen? ⟨w.heap.size, k * 2 + 1, none⟩ = false := HO3.out.frozenAt _
      obtain ⟨u0, hu0⟩ : ∃ u, x3.cell? ⟨w.heap.size, k * 2, none⟩ = some u := by
        rw [HO3.out.cellAt _ (by omega)]
        exact ⟨_, List.getElem?_eq_getElem (by omega)⟩
      obtain ⟨u1, hu1⟩ : ∃ u, x3.cell? ⟨w.heap.size, k * 2 + 1, none⟩ = some u := by
        rw [HO3.out.cellAt _ (by omega)]
        exact ⟨_, List.getElem?_eq_getElem (by omega)⟩
      clear hln
      go_wp2
      go_roundw
      case rel =>
        refine ⟨k + 1, by omega, by go_num, ?_, ?_⟩
        · have h := ((HO3.out.stored (k * 2) (.int .i64 x)).1.stored (k * 2 + 1) (.int .i64 y)).1
          rw [laneCells_set _ x y k (by rw [laneTo_len xs len k HS.out.1 hk]; exact hlt), laneTo_step xs len k x y HF.out hlt] at h
          exact h
        · exact (HB3.out.setCell (Nat.le_refl _) _).setCell (Nat.le_refl _) _
      case measure => simp [intOf]; omega
    · go_wp2
      go_ret
      have hkl : k = len := by omega
      subst hkl
      have hl1 := HS.out.1
      have h := HO.out
      rw [show laneTo xs k k = xs by simp [laneTo, List.take_of_length_le (Nat.le_of_eq hl1)]] at h
      exact ⟨rfl, ⟨h, HS.out.2.1⟩, HB.out⟩

end Go.Proofs.Ytkicfiacnpifkaq
