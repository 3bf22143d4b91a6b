/- What the specification asks of a frame's size. -/
import Derived.Test.YtckpacifimpkgadDoorFrSize
namespace Go.Proofs.YtckpacifimpkgadDoor
open Go.RowKit
set_option linter.unusedVariables false

set_option maxHeartbeats 1600000 in
theorem specSize_any (k f s : Int) (a : Option Addr) (len cap : Nat) (w : World) (hl : len ≤ 1000) :
    Calls Tryd.prog 51 #[.agg #[.int .i64 k, .int .i64 f, .int .i64 s, .slice a len cap]] w fun e w' => e = .returned (.bool (sizeF k f len)) ∧ Below w.heap.size w w' := by
  have hli : (len : Int) ≤ 1000 := by omega
  by_cases k2 : k = 2
  case pos =>
    subst k2
    go_enter Tryd.func51, Tryd.ntmps51
    go_wp2
    go_ret
    exact ⟨ret_bool (by simp [sizeF]), (Below.refl _ _).alloc (Nat.le_refl _) _⟩
  by_cases k3 : k = 3
  case pos =>
    subst k3
    go_enter Tryd.func51, Tryd.ntmps51
    go_wp2
    go_ret
    exact ⟨ret_bool (by simp [sizeF]), (Below.refl _ _).alloc (Nat.le_refl _) _⟩
  by_cases k8 : k = 8
  case pos =>
    subst k8
    go_enter Tryd.func51, Tryd.ntmps51
    go_wp2
    go_ret
    exact ⟨ret_bool (by simp [sizeF]), (Below.refl _ _).alloc (Nat.le_refl _) _⟩
  by_cases k6 : k = 6
  case pos =>
    subst k6
    go_enter Tryd.func51, Tryd.ntmps51
    go_wp2
    go_ret
    exact ⟨ret_bool (by simp [sizeF]), (Below.refl _ _).alloc (Nat.le_refl _) _⟩
  by_cases k7 : k = 7
  case pos =>
    subst k7
    go_enter Tryd.func51, Tryd.ntmps51
    go_wp2
    go_ret
    exact ⟨ret_bool (by simp [sizeF]), (Below.refl _ _).alloc (Nat.le_refl _) _⟩
  by_cases k4 : k = 4
  case pos =>
    subst k4
    cases hb : (bits BinOp.and IntKind.i64 f 1 == 0) with
    | true =>
      have hb2 : (bits BinOp.and IntKind.i64 f 1 != 0) = false := by rw [bne, hb]; rfl
      by_cases h6 : len % 6 = 0
      case pos =>
        have h6i : ((len : Int) % 6 == 0) = true := by first | (simp only [beq_iff_eq]; omega) | (simp only [beq_eq_false_iff_ne]; omega)
        go_enter Tryd.func51, Tryd.ntmps51
        go_wp2
        go_ret
        exact ⟨ret_bool (by simp [sizeF, hb]; try omega), (Below.refl _ _).alloc (Nat.le_refl _) _⟩
      case neg =>
        have h6i : ((len : Int) % 6 == 0) = false := by first | (simp only [beq_iff_eq]; omega) | (simp only [beq_eq_false_iff_ne]; omega)
        go_enter Tryd.func51, Tryd.ntmps51
        go_wp2
        go_ret
        exact ⟨ret_bool (by simp [sizeF, hb]; try omega), (Below.refl _ _).alloc (Nat.le_refl _) _⟩
    | false =>
      have hb2 : (bits BinOp.and IntKind.i64 f 1 != 0) = true := by rw [bne, hb]; rfl
      by_cases h6 : len % 6 = 0
      case pos =>
        have h6i : ((len : Int) % 6 == 0) = true := by first | (simp only [beq_iff_eq]; omega) | (simp only [beq_eq_false_iff_ne]; omega)
        go_enter Tryd.func51, Tryd.ntmps51
        go_wp2
        go_ret
        exact ⟨ret_bool (by simp [sizeF, hb]; try omega), (Below.refl _ _).alloc (Nat.le_refl _) _⟩
      case neg =>
        have h6i : ((len : Int) % 6 == 0) = false := by first | (simp only [beq_iff_eq]; omega) | (simp only [beq_eq_false_iff_ne]; omega)
        go_enter Tryd.func51, Tryd.ntmps51
        go_wp2
        go_ret
        exact ⟨ret_bool (by simp [sizeF, hb]; try omega), (Below.refl _ _).alloc (Nat.le_refl _) _⟩
  have b2 : (k == 2) = false := by simpa using k2
  have b3 : (k == 3) = false := by simpa using k3
  have b8 : (k == 8) = false := by simpa using k8
  have b6 : (k == 6) = false := by simpa using k6
  have b7 : (k == 7) = false := by simpa using k7
  have b4 : (k == 4) = false := by simpa using k4
  go_enter Tryd.func51, Tryd.ntmps51
  go_wp2
  go_ret
  exact ⟨ret_bool (by simp [sizeF, k2, k3, k8, k6, k7, k4]), (Below.refl _ _).alloc (Nat.le_refl _) _⟩

end Go.Proofs.YtckpacifimpkgadDoor
