/- Fields against themselves. -/
import Derived.Test.YtghakpcagacdaalM07
import Derived.Test.YtghakpcagacdaalM13
import Derived.Test.YtghakpcagacdaalM42
namespace Go.Proofs.Ytghakpcagacdaal
open Go.RowKit
set_option linter.unusedVariables false

set_option maxHeartbeats 400000 in
theorem szField_any (x y : ByteArray) (n : Int) (w : World) (hx : x.size ≤ maxLen) (hy : y.size ≤ maxLen) (hn : 0 ≤ n) (hn2 : n ≤ 1048576) : Calls Try.prog 18 #[.agg #[.string x, .string y], .int .i64 n] w fun e w' => e = .returned (.int .i64 (if n - x.size - y.size < 0 then -1 else n - x.size - y.size)) ∧ Below w.heap.size w w' := by
  have hm : maxLen < 9223372036854775808 := by decide
  by_cases h1 : n - x.size < 0
  · rw [if_pos (by omega)]
    go_enter Try.func18, Try.ntmps18
    go_wp2
    go_ret
    exact ⟨rfl, (Below.refl _ _).alloc (Nat.le_refl _) _⟩
  · by_cases h2 : n - x.size - y.size < 0
    · rw [if_pos h2]
      go_enter Try.func18, Try.ntmps18
      go_wp2
      go_ret
      exact ⟨rfl, (Below.refl _ _).alloc (Nat.le_refl _) _⟩
    · rw [if_neg h2]
      go_enter Try.func18, Try.ntmps18
      go_wp2
      go_ret
      exact ⟨rfl, (Below.refl _ _).alloc (Nat.le_refl _) _⟩

set_option maxHeartbeats 400000 in
theorem eqFieldS_same (a b : Option Addr) (len ca cb : Nat) (xs : List Fld) (w : World) (hx : Flds w a len xs) (hy : Flds w b len xs) (hla : len ≤ 1099511627776) :
    Calls Try.prog 30 #[.slice a len ca, .slice b len cb] w fun e w' => e = .returned (.bool true) ∧ Below w.heap.size w w' := by
  have HX : Hid (Flds w a len xs) := hx
  have HY : Hid (Flds w b len xs) := hy
  clear hx hy
  have hne : ((len : Int) != (len : Int)) = false := by simp
  go_enter Try.func30, Try.ntmps30
  go_wp2
  go_loopw [5] (fun i wr => ∃ k : Nat, k ≤ len ∧ i = .int .i64 k ∧ Hid (Below w.heap.size w wr)) (fun i _ => len - (intOf i).toNat)
  case atStart => exact ⟨0, Nat.zero_le _, rfl, Below.refl _ _⟩
  case round =>
    obtain ⟨k, hk, rfl, HW⟩ := hrel
    by_cases hlt : k < len
    · obtain ⟨ba, oa, x, y, rfl, hba, hfa, ha0, ha1⟩ := HX.out.at hlt
      obtain ⟨bb, ob, x', y', rfl, hbb, hfb, hb0, hb1⟩ := HY.out.at hlt
      obtain ⟨rfl, rfl⟩ : x = x' ∧ y = y' := by rw [hfa] at hfb; simpa using hfb
      have ga0 : wr.cell? ⟨ba, oa + k * 2, none⟩ = some (.string x) := (HW.out.cell (p := ⟨ba, _, none⟩) hba).trans ha0
      have ga1 : wr.cell? ⟨ba, oa + k * 2 + 1, none⟩ = some (.string y) := (HW.out.cell (p := ⟨ba, _, none⟩) hba).trans ha1
      have gb0 : wr.cell? ⟨bb, ob + k * 2, none⟩ = some (.string x) := (HW.out.cell (p := ⟨bb, _, none⟩) hbb).trans hb0
      have gb1 : wr.cell? ⟨bb, ob + k * 2 + 1, none⟩ = some (.string y) := (HW.out.cell (p := ⟨bb, _, none⟩) hbb).trans hb1
      clear hfa hfb ha0 ha1 hb0 hb1
      have hki : (k : Int) < (len : Int) := by omega
      have hk0 : (0 : Int) ≤ (k : Int) := by omega
      go_wp2_with fail
      go_region_with (go_at_call 61; refine (eqField_same x y _).mono ?_; rintro e x3 ⟨rfl, hb3⟩)
      all_goals
        have HB3 : Hid (Below w.heap.size w x3) := HW.out.drew.trans (hb3.mono HW.out.size)
        clear hb3
        go_wp2
        go_roundw
        case rel => exact ⟨k + 1, by omega, by go_num, HB3⟩
        case measure => simp [intOf]; omega
    · go_wp2
      go_ret
      exact ⟨rfl, HW.out⟩

set_option maxHeartbeats 400000 in
theorem toField_any (x y : ByteArray) (w : World) : Calls Try.prog 21 #[.agg #[.string x, .string y]] w fun e w' => e = .returned (.agg #[.string x, .string y]) ∧ Below w.heap.size w w' := by
  go_enter Try.func21, Try.ntmps21
  go_wp2
  refine bodyPost_ret (v := .agg #[.string x, .string y]) (by simp [results, Try.f21, go_sem]) rfl ?_
  exact ⟨rfl, (((Below.refl _ _).alloc (Nat.le_refl _) _).alloc (by simp) _).alloc (by simp; omega) _⟩

set_option maxHeartbeats 400000 in
theorem eqTable_same (m : Int) (a b : Option Addr) (len ca cb : Nat) (xs : List Fld) (w : World) (hx : Flds w a len xs) (hy : Flds w b len xs) (hla : len ≤ 1099511627776) :
    Calls Try.prog 23 #[.agg #[.int .i64 m, .slice a len ca], .agg #[.int .i64 m, .slice b len cb]] w fun e w' => e = .returned (.bool true) ∧ Below w.heap.size w w' := by
  have HX : Hid (Flds w a len xs) := hx
  have HY : Hid (Flds w b len xs) := hy
  clear hx hy
  go_enter Try.func23, Try.ntmps23
  go_wp2_with fail
  have hba : Below w.heap.size w ((w.alloc (Obj.cells #[Value.int IntKind.i64 m, Value.slice a len ca] 40)).alloc (Obj.cells #[Value.int IntKind.i64 m, Value.slice b len cb] 40)) := ((Below.refl _ _).alloc (Nat.le_refl _) _).alloc (by simp) _
  refine (eqFieldS_same a b len ca cb xs _ (HX.out.below hba) (HY.out.below hba) hla).mono ?_
  rintro e x3 ⟨rfl, hb3⟩
  have HB3 : Hid (Below w.heap.size w x3) := hba.trans (hb3.mono hba.size)
  clear hb3 hba
  go_wp2
  go_ret
  exact ⟨rfl, HB3.out⟩

set_option maxHeartbeats 400000 in
theorem szFieldS_any (a : Option Addr) (len ca : Nat) (xs : List Fld) (n : Int) (w : World) (hx : Flds w a len xs) (hn : 0 ≤ n) (hn2 : n ≤ 1048576) (hl : len ≤ maxLen) :
    Calls Try.prog 26 #[.slice a len ca, .int .i64 n] w fun e w' => (∃ v : Int, e = .returned (.int .i64 v) ∧ v ≤ n ∧ (0 ≤ v → v + (len + fldBytes xs) ≤ n)) ∧ Below w.heap.size w w' := by
  have HX : Hid (Flds w a len xs) := hx
  clear hx
  have hm : maxLen < 9223372036854775808 := by decide
  by_cases h0 : n - len < 0
  · go_enter Try.func26, Try.ntmps26
    go_wp2
    go_ret
    exact ⟨⟨_, rfl, by omega, by omega⟩, Below.refl _ _⟩
  · go_enter Try.func26, Try.ntmps26
    go_wp2
    go_loopw [1, 5] (fun l i wr => ∃ (k : Nat) (u : Int), k ≤ len ∧ i = .int .i64 k ∧ l = .int .i64 u ∧ 0 ≤ u ∧ u = n - len - fldBytes (xs.take k) ∧ Hid (Below w.heap.size w wr)) (fun _ i _ => len - (intOf i).toNat)
    case atStart => exact ⟨0, n - len, Nat.zero_le _, rfl, rfl, h0, by simp [fldBytes], Below.refl _ _⟩
    case round =>
      obtain ⟨k, u, hk, rfl, rfl, hu, heq, HW⟩ := hrel
      have HU : Hid (u = n - len - fldBytes (xs.take k)) := heq
      clear heq
      by_cases hlt : k < len
      · obtain ⟨ba, oa, x, y, rfl, hba, hfa, ha0, ha1⟩ := HX.out.at hlt
        have ga0 : wr.cell? ⟨ba, oa + k * 2, none⟩ = some (.string x) := (HW.out.cell (p := ⟨ba, _, none⟩) hba).trans ha0
        have ga1 : wr.cell? ⟨ba, oa + k * 2 + 1, none⟩ = some (.string y) := (HW.out.cell (p := ⟨ba, _, none⟩) hba).trans ha1
        have hsz := HX.out.2.1 (x, y) (List.mem_of_getElem? hfa)
        have hst := fldBytes_step xs k x y hfa
        have HF : Hid (fldBytes (xs.take (k + 1)) = fldBytes (xs.take k) + (x.size + y.size)) := hst
        clear hfa ha0 ha1 hst
        have hki : (k : Int) < (len : Int) := by omega
        have hk0 : (0 : Int) ≤ (k : Int) := by omega
        have hu2 : u ≤ 1048576 := by have := HU.out; omega
        go_wp2_with fail
        refine (szField_any x y u _ hsz.1 hsz.2 hu hu2).mono ?_
        rintro e x3 ⟨rfl, hb3⟩
        have HB3 : Hid (Below w.heap.size w x3) := HW.out.trans (hb3.mono HW.out.size)
        clear hb3 hsz
        generalize hv : (if u - x.size - y.size < 0 then -1 else u - x.size - y.size : Int) = v
        have HV : Hid ((v = -1 ∧ u - x.size - y.size < 0) ∨ (0 ≤ v ∧ v = u - x.size - y.size)) := by
          show _ ∨ _
          split at hv <;> omega
        clear hv
        by_cases hneg : v < 0
        · go_wp2
          go_ret
          exact ⟨⟨_, rfl, by omega, by omega⟩, HB3.out⟩
        · go_wp2
          go_roundw
          case rel =>
            refine ⟨k + 1, v, by omega, by go_num, rfl, by omega, ?_, HB3⟩
            have h1 := HV.out
            have h2 := HF.out
            have h3 := HU.out
            omega
          case measure => simp [intOf]; omega
      · go_wp2
        go_ret
        have hkl : k = len := by omega
        have h3 := HU.out
        have h4 := HX.out.1
        rw [List.take_of_length_le (by omega)] at h3
        exact ⟨⟨_, rfl, by omega, by omega⟩, HW.out⟩

end Go.Proofs.Ytghakpcagacdaal
