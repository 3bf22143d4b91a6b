/- The marks laid into a flow, and asked for. -/
import Derived.Test.YtkicfiacnpifkaqBox3
import Derived.Test.YtkicfiacnpifkaqLaneMark
namespace Go.Proofs.Ytkicfiacnpifkaq
open Go.RowKit
set_option linter.unusedVariables false

set_option maxHeartbeats 800000 in
theorem markFlow_any (s : Int) (e : Int) (base : Nat) (a : Option Addr) (n cap k : Nat) (zs : List Lane) (w : World) (h : OwnL w base a n cap zs) (hn : n ≤ 1099511627776) (hk : k ≤ 1099511627776) :
    Calls Try.prog 10 #[.agg #[.int .i64 s, .int .i64 e, .slice a n cap], .int .i64 k] w fun r w' => r = .returned (.int .i64 ((k + 2 * n : Nat) : Int)) ∧ OwnL w' base a n cap (marksL k n) ∧ Only w w' a := by
  have HO : Hid (OwnL w base a n cap zs) := h
  clear h
  have HB : Hid (Below w.heap.size w (w.alloc (.cells #[.int .i64 s, .int .i64 e, .slice a n cap] 28))) := (Below.refl _ _).alloc (Nat.le_refl _) _
  go_enter Try.func10, Try.ntmps10
  go_wp2_with fail
  refine (markLS_any base a n cap k zs _ (HO.out.below HB.out) (by omega) (by omega)).mono ?_
  rintro r x1 ⟨rfl, ho, hg⟩
  have HO2 : Hid (OwnL x1 base a n cap (marksL k n)) := ho
  have HG2 : Hid (Only w x1 a) := by
    have h1 := HB.out
    have h2 : World.grownBy _ _ _ := hg
    exact ⟨h2.os.trans h1.os, h2.tape.trans h1.tape, h2.output.trans h1.output, Nat.le_trans h1.size h2.size, fun i hi hne => (h2.block i (Nat.lt_of_lt_of_le hi h1.size) hne).trans (h1.block i hi)⟩
  clear ho hg
  obtain ⟨q, hq⟩ : ∃ q, k + 2 * n = q := ⟨_, rfl⟩
  have HQ : Hid (k + 2 * n = q) := hq
  rw [hq]
  clear hq
  go_wp2_with fail
  go_ret
  exact ⟨ret_int (by rw [HQ.out]), HO2.out, HG2.out⟩

set_option maxHeartbeats 800000 in
theorem heldFlow_any (s : Int) (e : Int) (base : Nat) (a : Option Addr) (n cap k : Nat) (w : World) (h : OwnL w base a n cap (marksL k n)) (hn : n ≤ 1099511627776) (hk : k ≤ 1099511627776) :
    Calls Try.prog 11 #[.agg #[.int .i64 s, .int .i64 e, .slice a n cap], .int .i64 k] w fun r w' => r = .returned (.int .i64 ((k + 2 * n : Nat) : Int)) ∧ Below w.heap.size w w' := by
  have HO : Hid (OwnL w base a n cap (marksL k n)) := h
  clear h
  have HB : Hid (Below w.heap.size w (w.alloc (.cells #[.int .i64 s, .int .i64 e, .slice a n cap] 28))) := (Below.refl _ _).alloc (Nat.le_refl _) _
  go_enter Try.func11, Try.ntmps11
  go_wp2_with fail
  refine (heldLS_any a n cap k _ (HO.out.below HB.out).lanes (by omega) (by omega)).mono ?_
  rintro r x1 ⟨rfl, hb1⟩
  have HB1 : Hid (Below w.heap.size w x1) := HB.out.trans (hb1.mono HB.out.size)
  clear hb1
  have hpos : ¬ ((k + 2 * n : Nat) : Int) < 0 := by omega
  have hposd : decide (((k + 2 * n : Nat) : Int) < 0) = false := by simp; omega
  obtain ⟨q, hq⟩ : ∃ q, k + 2 * n = q := ⟨_, rfl⟩
  have HQ : Hid (k + 2 * n = q) := hq
  rw [hq] at hpos hposd ⊢
  clear hq
  go_wp2_with fail
  go_ret
  exact ⟨ret_int (by rw [HQ.out]), HB1.out⟩

end Go.Proofs.Ytkicfiacnpifkaq
