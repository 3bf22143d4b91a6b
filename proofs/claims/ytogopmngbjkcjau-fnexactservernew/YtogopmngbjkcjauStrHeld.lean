/- Marks of texts that are asked for. -/
import Derived.Test.YtogopmngbjkcjauStrMk
import Derived.Deep.RegionWith
namespace Go.Proofs.Ytogopmngbjkcjau
open Go.RowKit
set_option linter.unusedVariables false

set_option maxRecDepth 10000 in
set_option maxHeartbeats 1600000 in
theorem heldStrS_any (a : Option Addr) (n cap k : Nat) (w : World) (h : Strs w a n (marksS k n)) (hn : n ≤ 1099511627776) (hk : k ≤ 1099511627776) :
    Calls Try.prog 56 #[.slice a n cap, .int .i64 (k : Int)] w fun e w' => e = .returned (.int .i64 ((k + n : Nat) : Int)) ∧ Below w.heap.size w w' := by
  have HX : Hid (Strs w a n (marksS k n)) := h
  clear h
  go_enter Try.func56, Try.ntmps56
  go_wp2_with fail
  go_loopw [1, 5] (fun q i wr => ∃ j : Nat, j ≤ n ∧ i = .int .i64 j ∧ q = .int .i64 ((k + j : Nat) : Int) ∧ Hid (Below w.heap.size w wr)) (fun _ i _ => n - (intOf i).toNat)
  case atStart => exact ⟨0, Nat.zero_le _, rfl, rfl, Below.refl _ _⟩
  case round =>
    obtain ⟨j, hj, rfl, rfl, HB⟩ := hrel
    by_cases hlt : j < n
    · obtain ⟨b, off, x, rfl, hb, hfx, hc0⟩ := (HX.out.below HB.out).at hlt
      obtain rfl : x = mt (k + j) := by
        rw [marksS_at k n j hlt] at hfx
        simp at hfx
        exact hfx.symm
      have hji : (j : Int) < (n : Int) := by omega
      have HM1 : Hid (∀ W, Calls Try.prog 47 #[.int .i64 ((k + j : Nat) : Int)] W fun e w' => e = .returned (.string (mt (k + j))) ∧ Below W.heap.size W w') := fun W => markText_any _ W (by omega)
      generalize mt (k + j) = m1 at *
      obtain ⟨K1, hK1⟩ : ∃ K1, k + (j + 1) = K1 := ⟨_, rfl⟩
      obtain ⟨K0, hK0⟩ : ∃ K0, k + j = K0 := ⟨_, rfl⟩
      have hq1 : (K0 : Int) + 1 = (K1 : Int) := by omega
      rw [hK0] at HM1 ⊢
      have HK1 : Hid (k + (j + 1) = K1) := hK1
      have hK0b : (K0 : Int) ≤ 4398046511104 := by omega
      clear hK0 hK1 hfx
      have hne1 : (m1.toList != m1.toList) = false := by simp
      have HC : Hid (∀ W, Below wr.heap.size wr W → W.cell? ⟨b, off + j, none⟩ = some (.string m1) ∧ Below w.heap.size w W) := fun W hW => ⟨(hW.cell (p := ⟨b, _, none⟩) hb).trans hc0, HB.out.trans (hW.mono HB.out.size)⟩
      go_wp2_with fail
      go_region_with (first
        | (go_at_call 47; refine (HM1.out _).mono ?_; rintro e x1 ⟨rfl, hb1⟩; have hb1' : Below wr.heap.size wr x1 := (Below.refl wr.heap.size wr).drew.trans (hb1.mono (Nat.le_refl _)); obtain ⟨k0, k2⟩ := HC.out x1 hb1'))
      all_goals
        have HB3 : Hid (Below w.heap.size w x1) := k2
        clear hb1 hb1' k0 k2 hc0
        go_wp2_with fail
        go_roundw
        case rel => exact ⟨j + 1, by omega, by go_num, by rw [HK1.out], HB3⟩
        case measure => simp [intOf]; omega
    · have hjn : j = n := by omega
      subst hjn
      go_wp2_with fail
      go_ret
      exact ⟨rfl, HB.out⟩

end Go.Proofs.Ytogopmngbjkcjau
