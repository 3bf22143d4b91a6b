/- What the program's stepBehind answers: the step behind a status, by its table. -/
import Derived.Test.YtlalebaaabdihaxDoorTurnT
import Derived.WalkKit
import Derived.WalkMore
import Derived.ScopeJumps
namespace Go.Proofs.YtlalebaaabdihaxDoor
open Go.RowKit
set_option linter.unusedVariables false

set_option maxRecDepth 10000 in
set_option maxHeartbeats 1600000 in
theorem implStepB_any (st q : Int) (w : World) (ht : TurnT w) :
    Calls Tryd.prog 22 #[.int .i64 st, .int .i64 q] w fun e w' => e = .returned (.int .i64 (nextC st q)) ∧ w' = w := by
  have HT0 : Hid (TurnT w) := ht
  clear ht
  go_enter Tryd.func22, Tryd.ntmps22
  go_wp2
  refine wp_scope_jumps 0 (fun a' w' => w' = w ∧ ∃ (k : Nat) (u6 u7 u8 u9 u10 u11 u12 u13 u14 u15 u16 u17 u18 u19 u20 u21 u22 u23 : Value), k ≤ 13 ∧ Hid (∀ j, j < k → ¬ (turnA j = st ∧ turnB j = q)) ∧ a' = { tmps := #[.int .i64 st, .int .i64 q, undef, undef, .int .i64 0, .int .i64 k, u6, u7, u8, u9, u10, u11, u12, u13, u14, u15, u16, u17, u18, u19, u20, u21, u22, u23, undef, undef, undef, undef], defers := [] }) (fun a' _ => 14 - (intOf (a'.tmps.getD 5 undef)).toNat) rfl ?_ ?_
  · have HN : Hid (∀ j, j < 0 → ¬ (turnA j = st ∧ turnB j = q)) := fun j hj => absurd hj (Nat.not_lt_zero _)
    obtain ⟨c0, c1, c2⟩ := (show _ ∧ _ ∧ _ from HT0.out.2 0 (by omega))
    simp only [Nat.zero_mul, Nat.zero_add] at c0 c1 c2
    go_wp2_with fail
    go_step3
    by_cases ha : turnA 0 = st
    · have hna : (turnA 0 != st) = false := by simp [ha]
      by_cases hb : turnB 0 = q
      · have hnb : (turnB 0 != q) = false := by simp [hb]
        have HR : Hid (nextC st q = turnC 0) := turnC_at (by omega) HN.out ⟨ha, hb⟩
        clear ha hb
        go_wp2_with fail
        simp only [Exit.jump]
        go_ret
        exact ⟨ret_int HR.out.symm, rfl⟩
      have hnb : (turnB 0 != q) = true := by simp [hb]
      have hn : ¬ (turnA 0 = st ∧ turnB 0 = q) := fun h => hb h.2
      have HT : Hid (∀ j, j < 1 → ¬ (turnA j = st ∧ turnB j = q)) := fun j hj => by
        by_cases e : j = 0
        · subst e; exact hn
        · exact HN.out j (by omega)
      go_wp2_with fail
      go_step3
      refine ⟨rfl, rfl, 1, _, _, _, _, _, _, _, _, _, _, _, _, _, _, _, _, _, _, by omega, HT, rfl⟩
    have hna : (turnA 0 != st) = true := by simp [ha]
    have hn : ¬ (turnA 0 = st ∧ turnB 0 = q) := fun h => ha h.1
    have HT : Hid (∀ j, j < 1 → ¬ (turnA j = st ∧ turnB j = q)) := fun j hj => by
      by_cases e : j = 0
      · subst e; exact hn
      · exact HN.out j (by omega)
    go_wp2_with fail
    go_step3
    refine ⟨rfl, rfl, 1, _, _, _, _, _, _, _, _, _, _, _, _, _, _, _, _, _, _, by omega, HT, rfl⟩
  · rintro a' w' ⟨rfl, k, u6, u7, u8, u9, u10, u11, u12, u13, u14, u15, u16, u17, u18, u19, u20, u21, u22, u23, hk, HN, rfl⟩
    by_cases h13 : k = 13
    · subst h13
      have HR : Hid (nextC st q = 6) := turnC_none HN.out
      go_wp2_with fail
      simp only [Exit.jump]
      go_ret
      exact ⟨ret_int HR.out.symm, rfl⟩
    have hlt : k < 13 := by omega
    have hlti : (k : Int) < 13 := by omega
    have hne : ((k : Int) == 13) = false := by simp; omega
    obtain ⟨c0, c1, c2⟩ := (show _ ∧ _ ∧ _ from HT0.out.2 k (by omega))
    by_cases ha : turnA k = st
    · have hna : (turnA k != st) = false := by simp [ha]
      by_cases hb : turnB k = q
      · have hnb : (turnB k != q) = false := by simp [hb]
        have HR : Hid (nextC st q = turnC k) := turnC_at (by omega) HN.out ⟨ha, hb⟩
        clear ha hb
        go_wp2_with fail
        simp only [Exit.jump]
        go_ret
        exact ⟨ret_int HR.out.symm, rfl⟩
      have hnb : (turnB k != q) = true := by simp [hb]
      have hn : ¬ (turnA k = st ∧ turnB k = q) := fun h => hb h.2
      have HT : Hid (∀ j, j < k + 1 → ¬ (turnA j = st ∧ turnB j = q)) := fun j hj => by
        by_cases e : j = k
        · subst e; exact hn
        · exact HN.out j (by omega)
      go_wp2_with fail
      go_step3
      refine ⟨rfl, ⟨rfl, k + 1, _, _, _, _, _, _, _, _, _, _, _, _, _, _, _, _, _, _, by omega, HT, rfl⟩, ?_⟩
      simp [intOf]
      omega
    have hna : (turnA k != st) = true := by simp [ha]
    have hn : ¬ (turnA k = st ∧ turnB k = q) := fun h => ha h.1
    have HT : Hid (∀ j, j < k + 1 → ¬ (turnA j = st ∧ turnB j = q)) := fun j hj => by
      by_cases e : j = k
      · subst e; exact hn
      · exact HN.out j (by omega)
    go_wp2_with fail
    go_step3
    refine ⟨rfl, ⟨rfl, k + 1, _, _, _, _, _, _, _, _, _, _, _, _, _, _, _, _, _, _, by omega, HT, rfl⟩, ?_⟩
    simp [intOf]
    omega

end Go.Proofs.YtlalebaaabdihaxDoor
