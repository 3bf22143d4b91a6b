/- What the program's opOf answers under its table: the op of a method. -/
import Derived.Test.YthojijhafhnclaeDoorReqTabI
namespace Go.Proofs.YthojijhafhnclaeDoor
open Go.RowKit
set_option linter.unusedVariables false

theorem opTo_hit (m : List UInt8) (k : Nat) (h1 : 1 ≤ k) (h6 : k ≤ 6) (h : ((methT (k : Int)).toList == m) = true) : opTo m 6 = (k : Int) := by
  rw [beq_iff_eq] at h
  subst h
  have hk : k = 1 ∨ k = 2 ∨ k = 3 ∨ k = 4 ∨ k = 5 ∨ k = 6 := by omega
  rcases hk with rfl | rfl | rfl | rfl | rfl | rfl <;> simp [opTo, methT, bytes_list]

theorem opTo_none (m : List UInt8) (h : ∀ k : Nat, 1 ≤ k → k ≤ 6 → ((methT (k : Int)).toList == m) = false) : opTo m 6 = 0 := by
  unfold opTo
  rw [h 6 (by omega) (by omega), if_neg (by simp)]
  unfold opTo
  rw [h 5 (by omega) (by omega), if_neg (by simp)]
  unfold opTo
  rw [h 4 (by omega) (by omega), if_neg (by simp)]
  unfold opTo
  rw [h 3 (by omega) (by omega), if_neg (by simp)]
  unfold opTo
  rw [h 2 (by omega) (by omega), if_neg (by simp)]
  unfold opTo
  rw [h 1 (by omega) (by omega), if_neg (by simp)]
  rfl

set_option maxRecDepth 10000 in
set_option maxHeartbeats 800000 in
theorem implOp_any (m : ByteArray) (w : World) (ht : MethT w) :
    Calls Tryd.prog 21 #[.string m] w fun e w' => e = .returned (.tuple #[.int .i64 (opTo m.toList 6), .bool (opTo m.toList 6 != 0)]) ∧ w' = w := by
  have HT : Hid (MethT w) := ht
  clear ht
  go_enter Tryd.func21, Tryd.ntmps21
  go_wp2_with fail
  go_loop [4] (fun v => ∃ k : Nat, k ≤ 6 ∧ v = .int .i64 ((k : Int) + 1) ∧ Hid (∀ j : Nat, 1 ≤ j → j ≤ k → ((methT (j : Int)).toList == m.toList) = false)) (fun v => 8 - (intOf v).toNat)
  case atStart => exact ⟨0, Nat.zero_le _, rfl, fun j h1 h2 => absurd h1 (by omega)⟩
  case round =>
    obtain ⟨k, hk, rfl, HN⟩ := hrel
    by_cases hlt : k < 6
    · have hki : (k : Int) + 1 ≤ 6 := by omega
      obtain ⟨hc, _, _⟩ := HT.out.2 (k + 1) (by omega)
      have HH : Hid (((methT ((k + 1 : Nat) : Int)).toList == m.toList) = true → opTo m.toList 6 = ((k + 1 : Nat) : Int)) := opTo_hit m.toList (k + 1) (by omega) (by omega)
      have HM : Hid (((methT ((k + 1 : Nat) : Int)).toList == m.toList) = false → ∀ j : Nat, 1 ≤ j → j ≤ k + 1 → ((methT (j : Int)).toList == m.toList) = false) := fun h j h1 h2 => by
        by_cases e : j = k + 1
        · rw [e]; exact h
        · exact HN.out j h1 (by omega)
      generalize methT ((k + 1 : Nat) : Int) = mt at *
      clear HN
      cases hb : (mt.toList == m.toList)
      · have HN2 : Hid (∀ j : Nat, 1 ≤ j → j ≤ k + 1 → ((methT (j : Int)).toList == m.toList) = false) := HM.out hb
        clear HM HH
        go_wp2_with fail
        go_round
        case rel => exact ⟨k + 1, by omega, by go_num, HN2⟩
        case measure => simp [intOf]; omega
      · have HE : Hid (opTo m.toList 6 = (k : Int) + 1) := by show _ = _; rw [HH.out hb]; omega
        clear HM HH
        go_wp2_with fail
        go_ret2
        exact ⟨ret_pair HE.out.symm (by rw [HE.out]; simp; omega), rfl⟩
    · have hki : ¬ (k : Int) + 1 ≤ 6 := by omega
      have HE : Hid (opTo m.toList 6 = 0) := opTo_none _ fun j h1 h6 => HN.out j h1 (by omega)
      clear HN
      go_wp2_with fail
      go_ret2
      exact ⟨ret_pair HE.out.symm (by rw [HE.out]; rfl), rfl⟩

end Go.Proofs.YthojijhafhnclaeDoor
