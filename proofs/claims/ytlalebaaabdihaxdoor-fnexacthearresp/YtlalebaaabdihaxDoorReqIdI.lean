/- What the program's idOk answers: whether a text is an upload's name. -/
import Derived.Test.YtlalebaaabdihaxDoorReqNum
import Derived.Lib.ConvBytes
import Derived.Lib.AtoiErrMem
import Derived.Lib.Strings
import Derived.WalkKit
namespace Go.Proofs.YtlalebaaabdihaxDoor
open Go.RowKit
set_option linter.unusedVariables false

theorem data_at (s : ByteArray) (k : Nat) (h : k < s.size) : s.data.toList.getD k 0 = s[k] := by
  have h2 : k < s.data.toList.length := by rw [Array.length_toList]; exact h
  rw [List.getD, List.getElem?_eq_getElem h2, Option.getD_some, Array.getElem_toList]
  rfl

theorem data_get (s : ByteArray) (k : Nat) (h : k < s.size) : s.data.toList[k]'(by rw [Array.length_toList]; exact h) = s[k] := by
  rw [Array.getElem_toList]
  rfl

theorem ret_bool' {a b : Bool} (h : a = b) : Ending.returned (.bool a) = .returned (.bool b) := by rw [h]

set_option maxRecDepth 10000 in
set_option maxHeartbeats 800000 in
theorem implId_any (s : ByteArray) (w : World) (hm : s.size ≤ 9223372036854775807) :
    Calls Tryd.prog 33 #[.string s] w fun e w' => e = .returned (.bool (idB s.data.toList)) ∧ Below w.heap.size w w' := by
  have HL : Hid (s.data.toList.length = s.size) := Array.length_toList
  by_cases hsz : 1 ≤ s.size ∧ s.size ≤ 8
  case neg =>
    have HF : Hid (idB s.data.toList = false) := idB_long (by rw [HL.out]; exact hsz)
    by_cases h0 : s.size < 1
    · have hi : (s.size : Int) < 1 := by omega
      clear hsz
      go_enter Tryd.func33, Tryd.ntmps33
      go_wp2_with fail
      go_ret
      exact ⟨ret_bool' HF.out.symm, Below.refl _ _⟩
    · have hi : ¬ (s.size : Int) < 1 := by omega
      have hj : (8 : Int) < (s.size : Int) := by omega
      clear hsz
      go_enter Tryd.func33, Tryd.ntmps33
      go_wp2_with fail
      go_ret
      exact ⟨ret_bool' HF.out.symm, Below.refl _ _⟩
  obtain ⟨hs1, hs8⟩ := hsz
  have hi : ¬ (s.size : Int) < 1 := by omega
  have hj : ¬ (8 : Int) < (s.size : Int) := by omega
  have hcv := Lib.run_convert_string_bytes (P := Tryd.prog) w 9 22 5 s (u := .string) Tryd.underlying9 Tryd.underlying22 Tryd.underlying5
  have HC : Hid (∀ j (hj : j < s.size), (Lib.bytesWorld w 5 s).cell? ⟨w.heap.size, j, none⟩ = some (.int .u8 (s[j].toNat : Int))) := fun j hj => by rw [Lib.bytesWorld_cell w 5 s j hj, data_at s j hj]
  have HB : Hid (Below w.heap.size w (Lib.bytesWorld w 5 s)) := Lib.bytesWorld_below w 5 s
  obtain ⟨W1, hW1⟩ : ∃ W1, Lib.bytesWorld w 5 s = W1 := ⟨_, rfl⟩
  rw [hW1] at hcv HC HB
  clear hW1
  go_enter Tryd.func33, Tryd.ntmps33
  go_wp2_with fail
  go_loop [16] (fun v => ∃ k : Nat, k ≤ s.size ∧ v = .int .i64 k ∧ Hid (∀ j (hj : j < s.data.toList.length), j < k → idC s.data.toList[j] = true)) (fun v => s.size - (intOf v).toNat)
  case atStart => exact ⟨0, Nat.zero_le _, rfl, fun j _ hj => absurd hj (Nat.not_lt_zero _)⟩
  case round =>
    obtain ⟨k, hk, rfl, HN⟩ := hrel
    by_cases hlt : k < s.size
    · have hki : (k : Int) < (s.size : Int) := by omega
      have hc := HC.out k hlt
      have hc0 : (0 : Int) ≤ (s[k].toNat : Int) := by omega
      have hc1 : (s[k].toNat : Int) ≤ 255 := by have := s[k].toNat_lt; omega
      have HA : Hid (idC (s.data.toList[k]'(by rw [Array.length_toList]; exact hlt)) = ((decide (97 ≤ s[k].toNat) && decide (s[k].toNat ≤ 122)) || (decide (48 ≤ s[k].toNat) && decide (s[k].toNat ≤ 57)))) := by show _ = _; rw [data_get s k hlt, idC]
      have HG : Hid (idC (s.data.toList[k]'(by rw [Array.length_toList]; exact hlt)) = true → ∀ j (hj : j < s.data.toList.length), j < k + 1 → idC s.data.toList[j] = true) := fun h j hj hjk => by
        by_cases e : j = k
        · subst e; exact h
        · exact HN.out j hj (by omega)
      have HBd : Hid (idC (s.data.toList[k]'(by rw [Array.length_toList]; exact hlt)) = false → idB s.data.toList = false) := fun h => idB_bad (by rw [Array.length_toList]; exact hlt) h
      have HS : Hid (idC (s.data.toList[k]'(by rw [Array.length_toList]; exact hlt)) = true ∧ ((97 ≤ (s[k].toNat : Int) ∧ (s[k].toNat : Int) ≤ 122) ∨ (48 ≤ (s[k].toNat : Int) ∧ (s[k].toNat : Int) ≤ 57)) ∨ idC (s.data.toList[k]'(by rw [Array.length_toList]; exact hlt)) = false ∧ ¬ (97 ≤ (s[k].toNat : Int) ∧ (s[k].toNat : Int) ≤ 122) ∧ ¬ (48 ≤ (s[k].toNat : Int) ∧ (s[k].toNat : Int) ≤ 57)) := by
        show _ ∨ _
        rw [HA.out]
        by_cases h1 : 97 ≤ s[k].toNat ∧ s[k].toNat ≤ 122
        · exact .inl ⟨by rw [decide_eq_true h1.1, decide_eq_true h1.2]; rfl, .inl (by omega)⟩
        · by_cases h2 : 48 ≤ s[k].toNat ∧ s[k].toNat ≤ 57
          · exact .inl ⟨by rw [decide_eq_true h2.1, decide_eq_true h2.2]; simp, .inr (by omega)⟩
          · refine .inr ⟨?_, by omega, by omega⟩
            rw [Bool.or_eq_false_iff, Bool.and_eq_false_iff, Bool.and_eq_false_iff]
            simp only [decide_eq_false_iff_not]
            omega
      clear HA HC HN
      generalize (s[k].toNat : Int) = c at *
      rcases HS.out with ⟨hok, hr⟩ | ⟨hno, hr1, hr2⟩
      · have HT : Hid (∀ j (hj : j < s.data.toList.length), j < k + 1 → idC s.data.toList[j] = true) := HG.out hok
        clear HG HBd HS hok
        rcases hr with ⟨r1, r2⟩ | ⟨r1, r2⟩
        · have q1 : ¬ c < 97 := by omega
          have q2 : ¬ (122 : Int) < c := by omega
          go_wp2_with fail
          go_round
          case rel => exact ⟨k + 1, by omega, by go_num, HT⟩
          case measure => simp [intOf]; omega
        · have q1 : c < 97 := by omega
          have q3 : ¬ c < 48 := by omega
          have q4 : ¬ (57 : Int) < c := by omega
          go_wp2_with fail
          go_round
          case rel => exact ⟨k + 1, by omega, by go_num, HT⟩
          case measure => simp [intOf]; omega
      · have HF : Hid (idB s.data.toList = false) := HBd.out hno
        clear HG HBd HS hno
        by_cases q1 : c < 97
        · by_cases q3 : c < 48
          · clear hr1 hr2
            go_wp2_with fail
            go_ret
            exact ⟨ret_bool' HF.out.symm, HB.out⟩
          · have q4 : (57 : Int) < c := by omega
            clear hr1 hr2
            go_wp2_with fail
            go_ret
            exact ⟨ret_bool' HF.out.symm, HB.out⟩
        · have q2 : (122 : Int) < c := by omega
          have q3 : ¬ c < 48 := by omega
          have q4 : (57 : Int) < c := by omega
          clear hr1 hr2
          go_wp2_with fail
          go_ret
          exact ⟨ret_bool' HF.out.symm, HB.out⟩
    · have hkl : k = s.size := by omega
      subst hkl
      have HE : Hid (idB s.data.toList = true) := by
        show _ = _
        rw [idB_good fun j hj => HN.out j hj (by rw [HL.out] at hj; exact hj), HL.out, decide_eq_true_eq]
        omega
      clear HN
      go_wp2_with fail
      go_ret
      exact ⟨ret_bool' HE.out.symm, HB.out⟩

end Go.Proofs.YtlalebaaabdihaxDoor
