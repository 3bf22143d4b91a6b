/- The specification's l3Find: the byte whose code this is, or none. -/
import Derived.Test.YtkoeahopfajblabHufHuff
namespace Go.Proofs.Ytkoeahopfajblab
open Go.RowKit
set_option linter.unusedVariables false

set_option maxRecDepth 10000 in
set_option maxHeartbeats 800000 in
theorem specFind_any (h g n A : Nat) (w : World) (hL : Nums w h lensI) (hC : Nums w g codesI) :
    Calls Try.prog 30 #[.slice (some ⟨h, 0, none⟩) 257 257, .slice (some ⟨g, 0, none⟩) 257 257, .int .i64 n, .int .i64 A] w fun e w' =>
      ((∃ c : UInt8, e = .returned (.int .i64 (c.toNat : Int)) ∧ lenOf c = n ∧ codeOfB c = A) ∨ (e = .returned (.int .i64 (-1)) ∧ ∀ c : UInt8, ¬ (lenOf c = n ∧ codeOfB c = A))) ∧ w' = w := by
  have HL : Hid (Nums w h lensI) := hL
  have HC : Hid (Nums w g codesI) := hC
  clear hL hC
  go_enter Try.func30, Try.ntmps30
  go_wp2_with fail
  go_loopw [9] (fun i wr => ∃ j : Nat, j ≤ 256 ∧ i = .int .i64 j ∧ Hid (∀ c : UInt8, c.toNat < j → ¬ (lenOf c = n ∧ codeOfB c = A)) ∧ wr = w) (fun i _ => 256 - (intOf i).toNat)
  case atStart => exact ⟨0, Nat.zero_le _, rfl, by intro c hc; omega, rfl⟩
  case round =>
    obtain ⟨j, hj, rfl, HF, rfl⟩ := hrel
    by_cases hlt : j < 256
    · obtain ⟨c, hc⟩ : ∃ c : UInt8, c.toNat = j := ⟨UInt8.ofNat j, by simp [hlt]⟩
      subst hc
      have h1 : wr.cell? ⟨h, c.toNat, none⟩ = some (.int .i64 (lenOf c)) := by
        rw [← lens_at]
        exact HL.out.2 c.toNat (by rw [lens_len]; omega)
      have h2 : wr.cell? ⟨g, c.toNat, none⟩ = some (.int .i64 (codeOfB c)) := by
        rw [← codes_at]
        exact HC.out.2 c.toNat (by rw [codes_len]; omega)
      have hji : (c.toNat : Int) ≤ 255 := by omega
      have next : ¬ (lenOf c = n ∧ codeOfB c = A) → ∀ d : UInt8, d.toNat < c.toNat + 1 → ¬ (lenOf d = n ∧ codeOfB d = A) := by
        intro hno d hd
        by_cases hdc : d = c
        · rw [hdc]; exact hno
        · exact HF.out d (by have : d.toNat ≠ c.toNat := fun e => hdc (UInt8.toNat_inj.1 e); omega)
      have HX : Hid (¬ (lenOf c = n ∧ codeOfB c = A) → ∀ d : UInt8, d.toNat < c.toNat + 1 → ¬ (lenOf d = n ∧ codeOfB d = A)) := next
      clear next
      by_cases e1 : lenOf c = n
      · have d1 : ((lenOf c : Int) == (n : Int)) = true := by simp [e1]
        by_cases e2 : codeOfB c = A
        · have d2 : ((codeOfB c : Int) == (A : Int)) = true := by simp [e2]
          have E : Hid (lenOf c = n ∧ codeOfB c = A) := ⟨e1, e2⟩
          clear e1 e2
          go_wp2_with fail
          go_ret
          exact ⟨.inl ⟨c, rfl, E.out.1, E.out.2⟩, rfl⟩
        · have d2 : ((codeOfB c : Int) == (A : Int)) = false := by simp; omega
          have E : Hid (¬ codeOfB c = A) := e2
          clear e1 e2
          go_wp2_with fail
          go_roundw
          case rel => exact ⟨c.toNat + 1, by omega, by go_num, HX.out (fun h => E.out h.2), trivial⟩
          case measure => simp [intOf]; omega
      · have d1 : ((lenOf c : Int) == (n : Int)) = false := by simp; omega
        have E : Hid (¬ lenOf c = n) := e1
        clear e1
        go_wp2_with fail
        go_roundw
        case rel => exact ⟨c.toNat + 1, by omega, by go_num, HX.out (fun h => E.out h.1), trivial⟩
        case measure => simp [intOf]; omega
    · have hj5 : ¬ (j : Int) ≤ 255 := by omega
      go_wp2_with fail
      go_ret
      exact ⟨.inr ⟨rfl, fun c h1 h2 => HF.out c (by have : c.toNat < 256 := c.toNat_lt; omega) ⟨h1, h2⟩⟩, rfl⟩

end Go.Proofs.Ytkoeahopfajblab
