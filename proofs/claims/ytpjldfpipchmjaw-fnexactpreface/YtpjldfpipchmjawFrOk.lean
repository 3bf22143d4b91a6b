/- What both programs' FrameOk answer: whether each number is within its bounds and the body is no longer than it may be; nothing that was there is written. -/
import Derived.Test.YtpjldfpipchmjawOwn
namespace Go.Proofs.Ytpjldfpipchmjaw
open Go.RowKit
set_option linter.unusedVariables false

/-- Is a frame of these numbers, with a body of n bytes, right? -/
def okF (k f s : Int) (n : Nat) : Bool := decide ((0 ≤ k ∧ k ≤ 255) ∧ (0 ≤ f ∧ f ≤ 255) ∧ (0 ≤ s ∧ s ≤ 2147483647) ∧ n ≤ 1000)

theorem okF_yes {k f s : Int} {n : Nat} (h : okF k f s n = true) : (0 ≤ k ∧ k ≤ 255) ∧ (0 ≤ f ∧ f ≤ 255) ∧ (0 ≤ s ∧ s ≤ 2147483647) ∧ n ≤ 1000 := of_decide_eq_true h

set_option maxHeartbeats 1600000 in
theorem implFrOk_any (k f s : Int) (a : Option Addr) (len cap : Nat) (w : World) :
    Calls Try.prog 13 #[.agg #[.int .i64 k, .int .i64 f, .int .i64 s, .slice a len cap]] w fun e w' => e = .returned (.bool (okF k f s len)) ∧ Below w.heap.size w w' := by
  by_cases c0 : 0 ≤ k
  case neg =>
    have e : okF k f s len = false := decide_eq_false (fun h => c0 h.1.1)
    rw [e]
    clear e
    go_enter Try.func13, Try.ntmps13
    go_wp2
    go_ret
    exact ⟨ret_bool (by simp; try omega), (Below.refl _ _).alloc (Nat.le_refl _) _⟩
  by_cases c1 : k ≤ 255
  case neg =>
    have e : okF k f s len = false := decide_eq_false (fun h => c1 h.1.2)
    rw [e]
    clear e
    go_enter Try.func13, Try.ntmps13
    go_wp2
    go_ret
    exact ⟨ret_bool (by simp; try omega), (Below.refl _ _).alloc (Nat.le_refl _) _⟩
  by_cases c2 : 0 ≤ f
  case neg =>
    have e : okF k f s len = false := decide_eq_false (fun h => c2 h.2.1.1)
    rw [e]
    clear e
    go_enter Try.func13, Try.ntmps13
    go_wp2
    go_ret
    exact ⟨ret_bool (by simp; try omega), (Below.refl _ _).alloc (Nat.le_refl _) _⟩
  by_cases c3 : f ≤ 255
  case neg =>
    have e : okF k f s len = false := decide_eq_false (fun h => c3 h.2.1.2)
    rw [e]
    clear e
    go_enter Try.func13, Try.ntmps13
    go_wp2
    go_ret
    exact ⟨ret_bool (by simp; try omega), (Below.refl _ _).alloc (Nat.le_refl _) _⟩
  by_cases c4 : 0 ≤ s
  case neg =>
    have e : okF k f s len = false := decide_eq_false (fun h => c4 h.2.2.1.1)
    rw [e]
    clear e
    go_enter Try.func13, Try.ntmps13
    go_wp2
    go_ret
    exact ⟨ret_bool (by simp; try omega), (Below.refl _ _).alloc (Nat.le_refl _) _⟩
  by_cases c5 : s ≤ 2147483647
  case neg =>
    have e : okF k f s len = false := decide_eq_false (fun h => c5 h.2.2.1.2)
    rw [e]
    clear e
    go_enter Try.func13, Try.ntmps13
    go_wp2
    go_ret
    exact ⟨ret_bool (by simp; try omega), (Below.refl _ _).alloc (Nat.le_refl _) _⟩
  by_cases c6 : (len : Int) ≤ 1000
  case neg =>
    have e : okF k f s len = false := decide_eq_false (fun h => c6 (by have := h.2.2.2; omega))
    rw [e]
    clear e
    go_enter Try.func13, Try.ntmps13
    go_wp2
    go_ret
    exact ⟨ret_bool (by simp; try omega), (Below.refl _ _).alloc (Nat.le_refl _) _⟩
  have e : okF k f s len = true := decide_eq_true ⟨⟨c0, c1⟩, ⟨c2, c3⟩, ⟨c4, c5⟩, by omega⟩
  rw [e]
  clear e
  go_enter Try.func13, Try.ntmps13
  go_wp2
  go_ret
  exact ⟨ret_bool (by simp; try omega), (Below.refl _ _).alloc (Nat.le_refl _) _⟩

end Go.Proofs.Ytpjldfpipchmjaw
