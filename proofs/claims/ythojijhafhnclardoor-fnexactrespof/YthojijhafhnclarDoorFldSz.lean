/- How great fields are. -/
import Derived.Test.YthojijhafhnclarDoorTiny
import Derived.Test.YthojijhafhnclarDoorTabFit
namespace Go.Proofs.YthojijhafhnclarDoor
open Go.RowKit
set_option linter.unusedVariables false

set_option maxHeartbeats 400000 in
theorem szField_any (x y : ByteArray) (n : Int) (w : World) (hx : x.size ≤ maxLen) (hy : y.size ≤ maxLen) (hn : 0 ≤ n) (hn2 : n ≤ 1048576) : Calls Tryd.prog 22 #[.agg #[.string x, .string y], .int .i64 n] w fun e w' => e = .returned (.int .i64 (if n - x.size - y.size < 0 then -1 else n - x.size - y.size)) ∧ Below w.heap.size w w' := by
  have hm : maxLen < 9223372036854775808 := by decide
  by_cases h1 : n - x.size < 0
  · rw [if_pos (by omega)]
    go_enter Tryd.func22, Tryd.ntmps22
    go_wp2
    go_ret
    exact ⟨rfl, (Below.refl _ _).alloc (Nat.le_refl _) _⟩
  · by_cases h2 : n - x.size - y.size < 0
    · rw [if_pos h2]
      go_enter Tryd.func22, Tryd.ntmps22
      go_wp2
      go_ret
      exact ⟨rfl, (Below.refl _ _).alloc (Nat.le_refl _) _⟩
    · rw [if_neg h2]
      go_enter Tryd.func22, Tryd.ntmps22
      go_wp2
      go_ret
      exact ⟨rfl, (Below.refl _ _).alloc (Nat.le_refl _) _⟩

set_option maxHeartbeats 400000 in
theorem szFieldS_any (a : Option Addr) (len ca : Nat) (xs : List Fld) (n : Int) (w : World) (hx : Flds w a len xs) (hn : 0 ≤ n) (hn2 : n ≤ 1048576) (hl : len ≤ maxLen) :
    Calls Tryd.prog 11 #[.slice a len ca, .int .i64 n] w fun e w' => (∃ v : Int, e = .returned (.int .i64 v) ∧ v ≤ n ∧ (0 ≤ v → v + (len + fldBytes xs) ≤ n)) ∧ Below w.heap.size w w' := by
  have HX : Hid (Flds w a len xs) := hx
  clear hx
  have hm : maxLen < 9223372036854775808 := by decide
  by_cases h0 : n - len < 0
  · go_enter Tryd.func11, Tryd.ntmps11
    go_wp2
    go_ret
    exact ⟨⟨_, rfl, by omega, by omega⟩, Below.refl _ _⟩
  · go_enter Tryd.func11, Tryd.ntmps11
    go_wp2
    go_loopw [1, 5] (fun l i wr => ∃ (k : Nat) (u : Int), k ≤ len ∧ i = .int .i64 k ∧ l = .int .i64 u ∧ 0 ≤ u ∧ u = n - len - fldBytes (xs.take k) ∧ Hid (Below w.heap.size w wr)) (fun _ i _ => len - (intOf i).toNat)
    case atStart => exact ⟨0, n - len, Nat.zero_le _, rfl, rfl, h0, by simp [fldBytes], Below.refl _ _⟩
    case round =>
      obtain ⟨k, u, hk, rfl, rfl, hu, heq, HW⟩ := hrel
      have HU : Hid (u = n - len - fldBytes (xs.take k)) := heq
      clear heq
      by_cases hlt : k < len
      · obtain ⟨ba, oa, x, y, rfl, hba, hfa, ha0, ha1⟩ := HX.out.at hlt
        have ga0 : wr.cell? ⟨ba, oa + k * 2, none⟩ = some (.string x) := (HW.out.cell (p := ⟨ba, _, none⟩) hba).trans ha0
        have ga1 : wr.cell? ⟨ba, oa + k * 2 + 1, none⟩ = some (.string y) := (HW.out.cell (p := ⟨ba, _, none⟩) hba).trans ha1
        have hsz := HX.out.2.1 (x, y) (List.mem_of_getElem? hfa)
        have hst := fldBytes_step xs k x y hfa
        have HF : Hid (fldBytes (xs.take (k + 1)) = fldBytes (xs.take k) + (x.size + y.size)) := hst
        clear hfa ha0 ha1 hst
        have hki : (k : Int) < (len : Int) := by omega
        have hk0 : (0 : Int) ≤ (k : Int) := by omega
        have hu2 : u ≤ 1048576 := by have := HU.out; omega
        go_wp2_with fail
        refine (szField_any x y u _ hsz.1 hsz.2 hu hu2).mono ?_
        rintro e x3 ⟨rfl, hb3⟩
        have HB3 : Hid (Below w.heap.size w x3) := HW.out.trans (hb3.mono HW.out.size)
        clear hb3 hsz
        generalize hv : (if u - x.size - y.size < 0 then -1 else u - x.size - y.size : Int) = v
        have HV : Hid ((v = -1 ∧ u - x.size - y.size < 0) ∨ (0 ≤ v ∧ v = u - x.size - y.size)) := by
          show _ ∨ _
          split at hv <;> omega
        clear hv
        by_cases hneg : v < 0
        · go_wp2
          go_ret
          exact ⟨⟨_, rfl, by omega, by omega⟩, HB3.out⟩
        · go_wp2
          go_roundw
          case rel =>
            refine ⟨k + 1, v, by omega, by go_num, rfl, by omega, ?_, HB3⟩
            have h1 := HV.out
            have h2 := HF.out
            have h3 := HU.out
            omega
          case measure => simp [intOf]; omega
      · go_wp2
        go_ret
        have hkl : k = len := by omega
        have h3 := HU.out
        have h4 := HX.out.1
        rw [List.take_of_length_le (by omega)] at h3
        exact ⟨⟨_, rfl, by omega, by omega⟩, HW.out⟩

end Go.Proofs.YthojijhafhnclarDoor
