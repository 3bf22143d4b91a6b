/- What the specification's l11Number answers: a text's number of at most ten digits. -/
import Derived.Test.YthojijhafhnclaeDoorNumNs
import Derived.Test.YthojijhafhnclaeDoorL1In
import Derived.WalkKit
namespace Go.Proofs.YthojijhafhnclaeDoor
open Go.RowKit
set_option linter.unusedVariables false

set_option maxHeartbeats 1600000 in
theorem specNumM_main (s : ByteArray) (most : Int) (w : World) (h1 : 1 ≤ s.size) (h10 : s.size ≤ 10) (hz : s.size = 1 ∨ s[0]'(by omega) ≠ 48) :
    Calls Tryd.prog 36 #[.string s, .int .i64 most] w fun e w' => e = .returned (.tuple #[.int .i64 (numM s.data.toList most).1, .bool (numM s.data.toList most).2]) ∧ w' = w := by
  have hs1 : (1 : Int) ≤ (s.size : Int) := by omega
  have hs10 : (s.size : Int) ≤ 10 := by omega
  have HZ : Hid (s.size = 1 ∨ s[0]'(by omega) ≠ 48) := hz
  have HQ : Hid (s.data.toList.length = 1 ∨ s.data.toList.head? ≠ some 48) := by
    show _ ∨ _
    rw [str_len, str_head s (by omega)]
    rcases hz with h | h
    · exact .inl h
    · exact .inr (fun e => h (Option.some.inj e))
  clear hz
  generalize hR : numM s.data.toList most = R
  have HR : Hid (numM s.data.toList most = R) := hR
  clear hR
  have h2 : decide ((1 : Int) < (s.size : Int)) = true ∨ decide ((1 : Int) < (s.size : Int)) = false := by cases decide ((1 : Int) < (s.size : Int)) <;> simp
  have h0 : Hid (decide ((1 : Int) < (s.size : Int)) = true → (((s[0]'(by omega)).toNat : Int) == 48) = false) := by
    intro hd
    simp only [decide_eq_true_eq] at hd
    rw [beq_eq_false_iff_ne]
    intro e
    rcases HZ.out with h | h
    · omega
    · exact h (UInt8.toNat_inj.1 (by
        have : (s[0]'(by omega)).toNat = 48 := by omega
        rw [this]; rfl))
  clear HZ
  rcases h2 with h2 | h2
  · have h0' := h0.out h2
    clear h0
    go_enter Tryd.func36, Tryd.ntmps36
    go_wp2_with (go_at_call 51; refine (l1In_yes _ _ _ _ hs1 hs10).mono ?_; rintro e w' ⟨rfl, rfl⟩)
    go_loop [6, 7] (fun n i => ∃ k : Nat, k ≤ s.size ∧ i = .int .i64 k ∧ n = .int .i64 ((val (s.data.toList.take k) : Nat) : Int) ∧ Hid (digs (s.data.toList.take k))) (fun _ i => s.size - (intOf i).toNat)
    case atStart => exact ⟨0, Nat.zero_le _, rfl, rfl, fun c hc => by simp at hc⟩
    case round =>
      obtain ⟨k, hk, rfl, rfl, HD⟩ := hrel
      have hv := val_small s k h10 HD.out
      by_cases hlt : k < s.size
      · have hsn : Hid (val (s.data.toList.take (k + 1)) = val (s.data.toList.take k) * 10 + (s[k].toNat - 48)) := by
          show val _ = _
          rw [str_take_snoc s k hlt, val_snoc]
        have hds : Hid (digs (s.data.toList.take (k + 1)) ↔ digs (s.data.toList.take k) ∧ 48 ≤ s[k].toNat ∧ s[k].toNat ≤ 57) := by
          show _ ↔ _
          rw [str_take_snoc s k hlt, digs_snoc]
        generalize val (s.data.toList.take k) = v at *
        have hvi : (v : Int) ≤ 10000000000 := by omega
        have hc0 : (0 : Int) ≤ (s[k].toNat : Int) := by omega
        have hc1 : (s[k].toNat : Int) ≤ 255 := by have := s[k].toNat_lt; omega
        by_cases hd : 48 ≤ s[k].toNat ∧ s[k].toNat ≤ 57
        · have hd1 : (48 : Int) ≤ (s[k].toNat : Int) := by omega
          have hd2 : (s[k].toNat : Int) ≤ 57 := by omega
          have HD2 : Hid (digs (s.data.toList.take (k + 1))) := hds.out.2 ⟨HD.out, hd⟩
          clear hd hds
          go_wp2_with (go_at_call 51; refine (l1In_yes _ _ _ _ hd1 hd2).mono ?_; rintro e w' ⟨rfl, rfl⟩)
          go_round
          case rel => exact ⟨k + 1, by omega, by go_num, by rw [hsn.out]; go_num, HD2⟩
          case measure => simp [intOf]; omega
        · have hd1 : Hid ((s[k].toNat : Int) < 48 ∨ 57 < (s[k].toNat : Int)) := by show _ ∨ _; omega
          have HB : Hid (R = (0, false)) := by
            show R = _
            rw [← HR.out]
            refine numM_bad _ _ (fun hg => hd ?_)
            exact (hds.out.1 (digs_take hg.2.2.2)).2
          clear hd hds
          go_wp2_with (go_at_call 51; refine (l1In_no _ _ _ _ hd1.out).mono ?_; rintro e w' ⟨rfl, rfl⟩)
          go_ret2
          exact ⟨ret_pair (by rw [HB.out]) (by rw [HB.out]), rfl⟩
      · have hkl : k = s.size := by omega
        subst hkl
        have hz : s.data.toList.take s.size = s.data.toList := List.take_of_length_le (by rw [str_len]; exact Nat.le_refl _)
        rw [hz] at hv HD ⊢
        clear hz
        have HB : Hid (R = ((val s.data.toList : Int), decide ((val s.data.toList : Int) ≤ most))) := by
          show R = _
          rw [← HR.out]
          exact numM_good _ _ ⟨by rw [str_len]; omega, by rw [str_len]; omega, HQ.out, HD.out⟩
        generalize val s.data.toList = vv at *
        go_wp2
        go_ret2
        exact ⟨ret_pair (by rw [HB.out]) (by rw [HB.out]), rfl⟩
  · clear h0
    go_enter Tryd.func36, Tryd.ntmps36
    go_wp2_with (go_at_call 51; refine (l1In_yes _ _ _ _ hs1 hs10).mono ?_; rintro e w' ⟨rfl, rfl⟩)
    go_loop [6, 7] (fun n i => ∃ k : Nat, k ≤ s.size ∧ i = .int .i64 k ∧ n = .int .i64 ((val (s.data.toList.take k) : Nat) : Int) ∧ Hid (digs (s.data.toList.take k))) (fun _ i => s.size - (intOf i).toNat)
    case atStart => exact ⟨0, Nat.zero_le _, rfl, rfl, fun c hc => by simp at hc⟩
    case round =>
      obtain ⟨k, hk, rfl, rfl, HD⟩ := hrel
      have hv := val_small s k h10 HD.out
      by_cases hlt : k < s.size
      · have hsn : Hid (val (s.data.toList.take (k + 1)) = val (s.data.toList.take k) * 10 + (s[k].toNat - 48)) := by
          show val _ = _
          rw [str_take_snoc s k hlt, val_snoc]
        have hds : Hid (digs (s.data.toList.take (k + 1)) ↔ digs (s.data.toList.take k) ∧ 48 ≤ s[k].toNat ∧ s[k].toNat ≤ 57) := by
          show _ ↔ _
          rw [str_take_snoc s k hlt, digs_snoc]
        generalize val (s.data.toList.take k) = v at *
        have hvi : (v : Int) ≤ 10000000000 := by omega
        have hc0 : (0 : Int) ≤ (s[k].toNat : Int) := by omega
        have hc1 : (s[k].toNat : Int) ≤ 255 := by have := s[k].toNat_lt; omega
        by_cases hd : 48 ≤ s[k].toNat ∧ s[k].toNat ≤ 57
        · have hd1 : (48 : Int) ≤ (s[k].toNat : Int) := by omega
          have hd2 : (s[k].toNat : Int) ≤ 57 := by omega
          have HD2 : Hid (digs (s.data.toList.take (k + 1))) := hds.out.2 ⟨HD.out, hd⟩
          clear hd hds
          go_wp2_with (go_at_call 51; refine (l1In_yes _ _ _ _ hd1 hd2).mono ?_; rintro e w' ⟨rfl, rfl⟩)
          go_round
          case rel => exact ⟨k + 1, by omega, by go_num, by rw [hsn.out]; go_num, HD2⟩
          case measure => simp [intOf]; omega
        · have hd1 : Hid ((s[k].toNat : Int) < 48 ∨ 57 < (s[k].toNat : Int)) := by show _ ∨ _; omega
          have HB : Hid (R = (0, false)) := by
            show R = _
            rw [← HR.out]
            refine numM_bad _ _ (fun hg => hd ?_)
            exact (hds.out.1 (digs_take hg.2.2.2)).2
          clear hd hds
          go_wp2_with (go_at_call 51; refine (l1In_no _ _ _ _ hd1.out).mono ?_; rintro e w' ⟨rfl, rfl⟩)
          go_ret2
          exact ⟨ret_pair (by rw [HB.out]) (by rw [HB.out]), rfl⟩
      · have hkl : k = s.size := by omega
        subst hkl
        have hz : s.data.toList.take s.size = s.data.toList := List.take_of_length_le (by rw [str_len]; exact Nat.le_refl _)
        rw [hz] at hv HD ⊢
        clear hz
        have HB : Hid (R = ((val s.data.toList : Int), decide ((val s.data.toList : Int) ≤ most))) := by
          show R = _
          rw [← HR.out]
          exact numM_good _ _ ⟨by rw [str_len]; omega, by rw [str_len]; omega, HQ.out, HD.out⟩
        generalize val s.data.toList = vv at *
        go_wp2
        go_ret2
        exact ⟨ret_pair (by rw [HB.out]) (by rw [HB.out]), rfl⟩
set_option maxHeartbeats 400000 in
theorem specNumM_long (s : ByteArray) (most : Int) (w : World) (hm : s.size ≤ 9223372036854775807) (h : s.size < 1 ∨ 10 < s.size) :
    Calls Tryd.prog 36 #[.string s, .int .i64 most] w fun e w' => e = .returned (.tuple #[.int .i64 (numM s.data.toList most).1, .bool (numM s.data.toList most).2]) ∧ w' = w := by
  rw [numM_bad _ _ (fun hg => by have h1 := hg.1; have h2 := hg.2.1; rw [str_len] at h1 h2; omega)]
  have H : Hid ((s.size : Int) < 1 ∨ (10 : Int) < (s.size : Int)) := by show _ ∨ _; omega
  clear h
  go_enter Tryd.func36, Tryd.ntmps36
  go_wp2_with (go_at_call 51; refine (l1In_no _ _ _ _ H.out).mono ?_; rintro e w' ⟨rfl, rfl⟩)
  go_ret2
  exact ⟨rfl, rfl⟩

set_option maxHeartbeats 400000 in
theorem specNumM_nought (s : ByteArray) (most : Int) (w : World) (h1 : 2 ≤ s.size) (h10 : s.size ≤ 10) (hz : s[0]'(by omega) = 48) :
    Calls Tryd.prog 36 #[.string s, .int .i64 most] w fun e w' => e = .returned (.tuple #[.int .i64 (numM s.data.toList most).1, .bool (numM s.data.toList most).2]) ∧ w' = w := by
  rw [numM_bad _ _ (fun hg => by
    rcases hg.2.2.1 with h | h
    · rw [str_len] at h; omega
    · exact h (by rw [str_head s (by omega), hz]))]
  have hs1 : (1 : Int) ≤ (s.size : Int) := by omega
  have hs10 : (s.size : Int) ≤ 10 := by omega
  have h2 : (1 : Int) < (s.size : Int) := by omega
  have h0 : (((s[0]'(by omega)).toNat : Int) == 48) = true := by
    rw [hz]; rfl
  clear hz
  go_enter Tryd.func36, Tryd.ntmps36
  go_wp2_with (go_at_call 51; refine (l1In_yes _ _ _ _ hs1 hs10).mono ?_; rintro e w' ⟨rfl, rfl⟩)
  go_ret2
  exact ⟨rfl, rfl⟩

theorem specNumM_any (s : ByteArray) (most : Int) (w : World) (hm : s.size ≤ 9223372036854775807) :
    Calls Tryd.prog 36 #[.string s, .int .i64 most] w fun e w' => e = .returned (.tuple #[.int .i64 (numM s.data.toList most).1, .bool (numM s.data.toList most).2]) ∧ w' = w := by
  by_cases h : 1 ≤ s.size ∧ s.size ≤ 10
  · by_cases h1 : s.size = 1
    · exact specNumM_main s most w h.1 h.2 (.inl h1)
    · by_cases hz : s[0]'(by omega) = 48
      · exact specNumM_nought s most w (by omega) h.2 hz
      · exact specNumM_main s most w h.1 h.2 (.inr hz)
  · exact specNumM_long s most w hm (by omega)

end Go.Proofs.YthojijhafhnclaeDoor
