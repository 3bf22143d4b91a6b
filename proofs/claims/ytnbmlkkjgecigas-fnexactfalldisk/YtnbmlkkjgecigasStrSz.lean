/- How great rows of texts are. -/
import Derived.Test.YtnbmlkkjgecigasStrRow
namespace Go.Proofs.Ytnbmlkkjgecigas
open Go.RowKit
set_option linter.unusedVariables false

set_option maxHeartbeats 400000 in
theorem szStrS_any (a : Option Addr) (len ca : Nat) (xs : List ByteArray) (n : Int) (w : World) (hx : Strs w a len xs) (hn : 0 ≤ n) (hn2 : n ≤ 1048576) (hl : len ≤ maxLen) :
    Calls Try.prog 29 #[.slice a len ca, .int .i64 n] w fun e w' => (∃ v : Int, e = .returned (.int .i64 v) ∧ v ≤ n ∧ (0 ≤ v → v + (len + strBytes xs) ≤ n)) ∧ Below w.heap.size w w' := by
  have HX : Hid (Strs w a len xs) := hx
  clear hx
  have hm : maxLen < 9223372036854775808 := by decide
  by_cases h0 : n - len < 0
  · go_enter Try.func29, Try.ntmps29
    go_wp2
    go_ret
    exact ⟨⟨_, rfl, by omega, by omega⟩, Below.refl _ _⟩
  · go_enter Try.func29, Try.ntmps29
    go_wp2
    go_loopw [1, 5] (fun l i wr => ∃ (k : Nat) (u : Int), k ≤ len ∧ i = .int .i64 k ∧ l = .int .i64 u ∧ 0 ≤ u ∧ u ≤ 1048576 ∧ Hid (u = n - len - strBytes (xs.take k)) ∧ Hid (Below w.heap.size w wr)) (fun _ i _ => len - (intOf i).toNat)
    case atStart => exact ⟨0, n - len, Nat.zero_le _, rfl, rfl, by omega, by omega, by show _ = _; simp [strBytes], Below.refl _ _⟩
    case round =>
      obtain ⟨k, u, hk, rfl, rfl, hu, hu2, HU, HW⟩ := hrel
      by_cases hlt : k < len
      · obtain ⟨ba, oa, x, rfl, hba, hfa, ha0⟩ := HX.out.at hlt
        have ga0 : wr.cell? ⟨ba, oa + k, none⟩ = some (.string x) := (HW.out.cell (p := ⟨ba, _, none⟩) hba).trans ha0
        have hsz := HX.out.2.1 x (List.mem_of_getElem? hfa)
        have HF : Hid (strBytes (xs.take (k + 1)) = strBytes (xs.take k) + x.size) := strBytes_step xs k x hfa
        clear hfa ha0
        have hki : (k : Int) < (len : Int) := by omega
        have hk0 : (0 : Int) ≤ (k : Int) := by omega
        by_cases hneg : u - x.size < 0
        · go_wp2
          go_ret
          exact ⟨⟨_, rfl, by omega, by omega⟩, HW.out⟩
        · go_wp2
          go_roundw
          case rel =>
            refine ⟨k + 1, u - x.size, by omega, by go_num, rfl, by omega, by omega, ?_, HW⟩
            show _ = _
            have h2 := HF.out
            have h3 := HU.out
            omega
          case measure => simp [intOf]; omega
      · go_wp2
        go_ret
        have hkl : k = len := by omega
        have h3 := HU.out
        have h4 := HX.out.1
        rw [List.take_of_length_le (by omega)] at h3
        exact ⟨⟨_, rfl, by omega, by omega⟩, HW.out⟩

end Go.Proofs.Ytnbmlkkjgecigas
