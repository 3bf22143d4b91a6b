/- What the specification's l11Id answers. -/
import Derived.Test.YtlalebaaabdihaxReqNum
import Derived.Test.YtlalebaaabdihaxL1In
import Derived.Deep.QuietTactic
namespace Go.Proofs.Ytlalebaaabdihax
open Go.RowKit
set_option linter.unusedVariables false

theorem str_at (s : ByteArray) (k : Nat) (h : k < s.size) : s.data.toList[k]'(by rw [Array.length_toList]; exact h) = s[k] := by
  rw [Array.getElem_toList]
  rfl

set_option maxRecDepth 10000 in
set_option maxHeartbeats 800000 in
theorem specId_any (s : ByteArray) (w : World) (hm : s.size ≤ 9223372036854775807) :
    Calls Try.prog 57 #[.string s] w fun e w' => e = .returned (.bool (idB s.data.toList)) ∧ w' = w := by
  have HL : Hid (s.data.toList.length = s.size) := Array.length_toList
  go_enter Try.func57, Try.ntmps57
  go_wp2_with fail
  go_loop [3] (fun v => ∃ k : Nat, k ≤ s.size ∧ v = .int .i64 k ∧ Hid (∀ j (hj : j < s.data.toList.length), j < k → idC s.data.toList[j] = true)) (fun v => s.size - (intOf v).toNat)
  case atStart => exact ⟨0, Nat.zero_le _, rfl, fun j _ hj => absurd hj (Nat.not_lt_zero _)⟩
  case round =>
    obtain ⟨k, hk, rfl, HN⟩ := hrel
    by_cases hlt : k < s.size
    · have hki : (k : Int) < (s.size : Int) := by omega
      have hc0 : (0 : Int) ≤ (s[k].toNat : Int) := by omega
      have hc1 : (s[k].toNat : Int) ≤ 255 := by have := s[k].toNat_lt; omega
      have HA : Hid (idC (s.data.toList[k]'(by rw [Array.length_toList]; exact hlt)) = ((decide (97 ≤ s[k].toNat) && decide (s[k].toNat ≤ 122)) || (decide (48 ≤ s[k].toNat) && decide (s[k].toNat ≤ 57)))) := by show _ = _; rw [str_at s k hlt, idC]
      have HG : Hid (idC (s.data.toList[k]'(by rw [Array.length_toList]; exact hlt)) = true → ∀ j (hj : j < s.data.toList.length), j < k + 1 → idC s.data.toList[j] = true) := fun h j hj hjk => by
        by_cases e : j = k
        · subst e; exact h
        · exact HN.out j hj (by omega)
      have HBd : Hid (idC (s.data.toList[k]'(by rw [Array.length_toList]; exact hlt)) = false → idB s.data.toList = false) := fun h => idB_bad (by rw [Array.length_toList]; exact hlt) h
      by_cases h1 : 97 ≤ s[k].toNat ∧ s[k].toNat ≤ 122
      · have HT : Hid (∀ j (hj : j < s.data.toList.length), j < k + 1 → idC s.data.toList[j] = true) := HG.out (by rw [HA.out, decide_eq_true h1.1, decide_eq_true h1.2]; rfl)
        have HI : Hid (∀ W : World, Calls Try.prog 43 #[.int .i64 (s[k].toNat : Int), .int .i64 97, .int .i64 122] W fun e w' => e = .returned (.bool true) ∧ w' = W) := fun W => l1In_yes _ _ _ W (by omega) (by omega)
        clear h1 HA HG HBd HN
        go_wp2_with (go_at_call 43; refine (HI.out _).mono ?_; rintro e w' ⟨rfl, rfl⟩)
        go_round
        case rel => exact ⟨k + 1, by omega, by go_num, HT⟩
        case measure => simp [intOf]; omega
      have HI : Hid (∀ W : World, Calls Try.prog 43 #[.int .i64 (s[k].toNat : Int), .int .i64 97, .int .i64 122] W fun e w' => e = .returned (.bool false) ∧ w' = W) := fun W => l1In_no _ _ _ W (by omega)
      by_cases h2 : 48 ≤ s[k].toNat ∧ s[k].toNat ≤ 57
      · have HT : Hid (∀ j (hj : j < s.data.toList.length), j < k + 1 → idC s.data.toList[j] = true) := HG.out (by rw [HA.out, decide_eq_true h2.1, decide_eq_true h2.2]; simp)
        have HI2 : Hid (∀ W : World, Calls Try.prog 43 #[.int .i64 (s[k].toNat : Int), .int .i64 48, .int .i64 57] W fun e w' => e = .returned (.bool true) ∧ w' = W) := fun W => l1In_yes _ _ _ W (by omega) (by omega)
        clear h1 h2 HA HG HBd HN
        go_wp2_with (go_at_call 43; first | (with_reducible refine (HI.out _).mono ?_; rintro e w' ⟨rfl, rfl⟩) | (with_reducible refine (HI2.out _).mono ?_; rintro e w' ⟨rfl, rfl⟩))
        go_round
        case rel => exact ⟨k + 1, by omega, by go_num, HT⟩
        case measure => simp [intOf]; omega
      · have HF : Hid (idB s.data.toList = false) := HBd.out (by rw [HA.out, Bool.or_eq_false_iff, Bool.and_eq_false_iff, Bool.and_eq_false_iff]; simp only [decide_eq_false_iff_not]; omega)
        have HI2 : Hid (∀ W : World, Calls Try.prog 43 #[.int .i64 (s[k].toNat : Int), .int .i64 48, .int .i64 57] W fun e w' => e = .returned (.bool false) ∧ w' = W) := fun W => l1In_no _ _ _ W (by omega)
        clear h1 h2 HA HG HBd HN
        go_wp2_with (go_at_call 43; first | (with_reducible refine (HI.out _).mono ?_; rintro e w' ⟨rfl, rfl⟩) | (with_reducible refine (HI2.out _).mono ?_; rintro e w' ⟨rfl, rfl⟩))
        go_ret
        exact ⟨ret_bool HF.out.symm, rfl⟩
    · have hkl : k = s.size := by omega
      subst hkl
      have HE : Hid (idB s.data.toList = (decide ((1 : Int) ≤ (s.size : Int)) && decide ((s.size : Int) ≤ 8))) := by
        show _ = _
        rw [idB_good fun j hj => HN.out j hj (by rw [HL.out] at hj; exact hj), HL.out, Bool.eq_iff_iff]
        simp only [decide_eq_true_eq, Bool.and_eq_true]
        omega
      clear HN
      go_wp2_with fail
      refine (l1In_any (s.size : Int) 1 8 w).mono ?_
      rintro e w1 ⟨rfl, hw1⟩
      subst hw1
      go_wp2_with fail
      go_ret
      exact ⟨ret_bool HE.out.symm, rfl⟩

end Go.Proofs.Ytlalebaaabdihax
