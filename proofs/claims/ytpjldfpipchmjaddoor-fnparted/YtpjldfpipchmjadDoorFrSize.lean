/- What both programs' FrameCode answer: whether a frame is right, as long as its kind wants it and of a stream or of none, as its kind wants it; nothing that was there is written. -/
import Derived.Test.YtpjldfpipchmjadDoorFrOk
namespace Go.Proofs.YtpjldfpipchmjadDoor
open Go.RowKit
set_option linter.unusedVariables false

/-- Is a body of n bytes as long as its kind wants it? -/
def sizeF (k f n : Int) : Bool :=
  if k = 2 then n == 5 else if k = 3 then n == 4 else if k = 8 then n == 4 else if k = 6 then n == 8 else if k = 7 then decide (8 ≤ n)
  else if k = 4 then (if (bits BinOp.and IntKind.i64 f 1 == 0) = true then n % 6 == 0 else n == 0) else true

/-- Is a frame of a stream, or of none, as its kind wants it? -/
def streamF (k s : Int) : Bool :=
  if k = 0 ∨ k = 1 ∨ k = 2 ∨ k = 3 ∨ k = 5 ∨ k = 9 then !(s == 0) else if k = 4 ∨ k = 6 ∨ k = 7 then s == 0 else true

/-- What FrameCode answers. -/
def codeF (k f s : Int) (n : Nat) : Int := if okF k f s n = true ∧ sizeF k f n = true then (if streamF k s = true then 0 else 3) else 2

set_option maxHeartbeats 1600000 in
theorem implSize_any (k f s : Int) (a : Option Addr) (len cap : Nat) (w : World) (hl : len ≤ 1000) :
    Calls Tryd.prog 32 #[.agg #[.int .i64 k, .int .i64 f, .int .i64 s, .slice a len cap]] w fun e w' => e = .returned (.bool (sizeF k f len)) ∧ Below w.heap.size w w' := by
  have hli : (len : Int) ≤ 1000 := by omega
  by_cases k2 : k = 2
  case pos =>
    subst k2
    go_enter Tryd.func32, Tryd.ntmps32
    go_wp2
    go_ret
    exact ⟨ret_bool (by simp [sizeF]), (Below.refl _ _).alloc (Nat.le_refl _) _⟩
  by_cases k3 : k = 3
  case pos =>
    subst k3
    go_enter Tryd.func32, Tryd.ntmps32
    go_wp2
    go_ret
    exact ⟨ret_bool (by simp [sizeF]), (Below.refl _ _).alloc (Nat.le_refl _) _⟩
  by_cases k8 : k = 8
  case pos =>
    subst k8
    go_enter Tryd.func32, Tryd.ntmps32
    go_wp2
    go_ret
    exact ⟨ret_bool (by simp [sizeF]), (Below.refl _ _).alloc (Nat.le_refl _) _⟩
  by_cases k6 : k = 6
  case pos =>
    subst k6
    go_enter Tryd.func32, Tryd.ntmps32
    go_wp2
    go_ret
    exact ⟨ret_bool (by simp [sizeF]), (Below.refl _ _).alloc (Nat.le_refl _) _⟩
  by_cases k7 : k = 7
  case pos =>
    subst k7
    go_enter Tryd.func32, Tryd.ntmps32
    go_wp2
    go_ret
    exact ⟨ret_bool (by simp [sizeF]), (Below.refl _ _).alloc (Nat.le_refl _) _⟩
  by_cases k4 : k = 4
  case pos =>
    subst k4
    cases hb : (bits BinOp.and IntKind.i64 f 1 == 0) with
    | true =>
      have hb2 : (bits BinOp.and IntKind.i64 f 1 != 0) = false := by rw [bne, hb]; rfl
      go_enter Tryd.func32, Tryd.ntmps32
      go_wp2
      go_ret
      exact ⟨ret_bool (by simp [sizeF, hb]; try omega), (Below.refl _ _).alloc (Nat.le_refl _) _⟩
    | false =>
      have hb2 : (bits BinOp.and IntKind.i64 f 1 != 0) = true := by rw [bne, hb]; rfl
      go_enter Tryd.func32, Tryd.ntmps32
      go_wp2
      go_ret
      exact ⟨ret_bool (by simp [sizeF, hb]; try omega), (Below.refl _ _).alloc (Nat.le_refl _) _⟩
  have b2 : (k == 2) = false := by simpa using k2
  have b3 : (k == 3) = false := by simpa using k3
  have b8 : (k == 8) = false := by simpa using k8
  have b6 : (k == 6) = false := by simpa using k6
  have b7 : (k == 7) = false := by simpa using k7
  have b4 : (k == 4) = false := by simpa using k4
  go_enter Tryd.func32, Tryd.ntmps32
  go_wp2
  go_ret
  exact ⟨ret_bool (by simp [sizeF, k2, k3, k8, k6, k7, k4]), (Below.refl _ _).alloc (Nat.le_refl _) _⟩

set_option maxHeartbeats 1600000 in
theorem implStream_any (k f s : Int) (a : Option Addr) (len cap : Nat) (w : World) :
    Calls Tryd.prog 33 #[.agg #[.int .i64 k, .int .i64 f, .int .i64 s, .slice a len cap]] w fun e w' => e = .returned (.bool (streamF k s)) ∧ Below w.heap.size w w' := by
  by_cases k0 : k = 0
  case pos =>
    subst k0
    go_enter Tryd.func33, Tryd.ntmps33
    go_wp2
    go_ret
    exact ⟨ret_bool (by simp [streamF, bne]), (Below.refl _ _).alloc (Nat.le_refl _) _⟩
  by_cases k1 : k = 1
  case pos =>
    subst k1
    go_enter Tryd.func33, Tryd.ntmps33
    go_wp2
    go_ret
    exact ⟨ret_bool (by simp [streamF, bne]), (Below.refl _ _).alloc (Nat.le_refl _) _⟩
  by_cases k2 : k = 2
  case pos =>
    subst k2
    go_enter Tryd.func33, Tryd.ntmps33
    go_wp2
    go_ret
    exact ⟨ret_bool (by simp [streamF, bne]), (Below.refl _ _).alloc (Nat.le_refl _) _⟩
  by_cases k3 : k = 3
  case pos =>
    subst k3
    go_enter Tryd.func33, Tryd.ntmps33
    go_wp2
    go_ret
    exact ⟨ret_bool (by simp [streamF, bne]), (Below.refl _ _).alloc (Nat.le_refl _) _⟩
  by_cases k5 : k = 5
  case pos =>
    subst k5
    go_enter Tryd.func33, Tryd.ntmps33
    go_wp2
    go_ret
    exact ⟨ret_bool (by simp [streamF, bne]), (Below.refl _ _).alloc (Nat.le_refl _) _⟩
  by_cases k9 : k = 9
  case pos =>
    subst k9
    go_enter Tryd.func33, Tryd.ntmps33
    go_wp2
    go_ret
    exact ⟨ret_bool (by simp [streamF, bne]), (Below.refl _ _).alloc (Nat.le_refl _) _⟩
  by_cases k4 : k = 4
  case pos =>
    subst k4
    go_enter Tryd.func33, Tryd.ntmps33
    go_wp2
    go_ret
    exact ⟨ret_bool (by simp [streamF]), (Below.refl _ _).alloc (Nat.le_refl _) _⟩
  by_cases k6 : k = 6
  case pos =>
    subst k6
    go_enter Tryd.func33, Tryd.ntmps33
    go_wp2
    go_ret
    exact ⟨ret_bool (by simp [streamF]), (Below.refl _ _).alloc (Nat.le_refl _) _⟩
  by_cases k7 : k = 7
  case pos =>
    subst k7
    go_enter Tryd.func33, Tryd.ntmps33
    go_wp2
    go_ret
    exact ⟨ret_bool (by simp [streamF]), (Below.refl _ _).alloc (Nat.le_refl _) _⟩
  have b0 : (k == 0) = false := by simpa using k0
  have b1 : (k == 1) = false := by simpa using k1
  have b2 : (k == 2) = false := by simpa using k2
  have b3 : (k == 3) = false := by simpa using k3
  have b5 : (k == 5) = false := by simpa using k5
  have b9 : (k == 9) = false := by simpa using k9
  have b4 : (k == 4) = false := by simpa using k4
  have b6 : (k == 6) = false := by simpa using k6
  have b7 : (k == 7) = false := by simpa using k7
  go_enter Tryd.func33, Tryd.ntmps33
  go_wp2
  go_ret
  exact ⟨ret_bool (by simp [streamF, k0, k1, k2, k3, k5, k9, k4, k6, k7]), (Below.refl _ _).alloc (Nat.le_refl _) _⟩

end Go.Proofs.YtpjldfpipchmjadDoor
