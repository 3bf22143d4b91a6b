/- What the program's GatherOk answers: whether what is gathered is right; nothing that was there is written. -/
import Derived.Test.YtpjldfpipchmjadDoorGaNum
namespace Go.Proofs.YtpjldfpipchmjadDoor
open Go.RowKit
set_option linter.unusedVariables false

set_option maxHeartbeats 1600000 in
theorem implGok_any (s : Int) (en : Bool) (a : Option Addr) (len cap : Nat) (w : World) :
    Calls Tryd.prog 11 #[.agg #[.int .i64 s, .bool en, .slice a len cap]] w fun e w' => e = .returned (.bool (okG s en len)) ∧ Below w.heap.size w w' := by
  by_cases c0 : s = 0
  · subst c0
    rw [okG_zero]
    cases en
    · go_enter Tryd.func11, Tryd.ntmps11
      go_wp2
      go_ret
      exact ⟨ret_bool (by simp [zero_len]), (Below.refl _ _).alloc (Nat.le_refl _) _⟩
    · go_enter Tryd.func11, Tryd.ntmps11
      go_wp2
      go_ret
      exact ⟨ret_bool (by simp), (Below.refl _ _).alloc (Nat.le_refl _) _⟩
  by_cases c1 : 1 ≤ s
  case neg =>
    have e : okG s en len = false := okG_no c0 (fun h => c1 h.1)
    rw [e]
    clear e
    go_enter Tryd.func11, Tryd.ntmps11
    go_wp2
    go_ret
    exact ⟨ret_bool (by simp; try omega), (Below.refl _ _).alloc (Nat.le_refl _) _⟩
  by_cases c2 : s ≤ 2147483647
  case neg =>
    have e : okG s en len = false := okG_no c0 (fun h => c2 h.2.1)
    rw [e]
    clear e
    go_enter Tryd.func11, Tryd.ntmps11
    go_wp2
    go_ret
    exact ⟨ret_bool (by simp; try omega), (Below.refl _ _).alloc (Nat.le_refl _) _⟩
  have e : okG s en len = decide (len ≤ 3000) := okG_yes c0 c1 c2
  rw [e]
  clear e
  by_cases c3 : len ≤ 3000
  · go_enter Tryd.func11, Tryd.ntmps11
    go_wp2
    go_ret
    exact ⟨ret_bool (by simp; try omega), (Below.refl _ _).alloc (Nat.le_refl _) _⟩
  · go_enter Tryd.func11, Tryd.ntmps11
    go_wp2
    go_ret
    exact ⟨ret_bool (by simp; try omega), (Below.refl _ _).alloc (Nat.le_refl _) _⟩

end Go.Proofs.YtpjldfpipchmjadDoor
