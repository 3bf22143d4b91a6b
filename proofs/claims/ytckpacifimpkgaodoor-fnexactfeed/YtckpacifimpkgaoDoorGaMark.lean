/- The marks laid into what is gathered, and asked for; into a frame's body, from any number on. -/
import Derived.Test.YtckpacifimpkgaoDoorBox3
import Derived.Test.YtckpacifimpkgaoDoorMarkB
namespace Go.Proofs.YtckpacifimpkgaoDoor
open Go.RowKit
set_option linter.unusedVariables false

set_option maxHeartbeats 800000 in
theorem markGather_any (s : Int) (e : Bool) (base : Nat) (a : Option Addr) (n cap k : Nat) (zs : List Int) (w : World) (h : Owns w base a n cap zs) (hn : n ≤ 1099511627776) (hk : k ≤ 1099511627776) :
    Calls Tryd.prog 13 #[.agg #[.int .i64 s, .bool e, .slice a n cap], .int .i64 k] w fun r w' => r = .returned (.int .i64 ((k + n : Nat) : Int)) ∧ Owns w' base a n cap (marks k n) ∧ Only w w' a := by
  have HO : Hid (Owns w base a n cap zs) := h
  clear h
  have HB : Hid (Below w.heap.size w (w.alloc (.cells #[.int .i64 s, .bool e, .slice a n cap] 29))) := (Below.refl _ _).alloc (Nat.le_refl _) _
  go_enter Tryd.func13, Tryd.ntmps13
  go_wp2_with fail
  refine (mark_any base a n cap k zs _ (HO.out.below HB.out) (by omega) (by omega)).mono ?_
  rintro r x1 ⟨rfl, ho, hg⟩
  have HO2 : Hid (Owns x1 base a n cap (marks k n)) := ho
  have HG2 : Hid (Only w x1 a) := by
    have h1 := HB.out
    have h2 : World.grownBy _ _ _ := hg
    exact ⟨h2.os.trans h1.os, h2.tape.trans h1.tape, h2.output.trans h1.output, Nat.le_trans h1.size h2.size, fun i hi hne => (h2.block i (Nat.lt_of_lt_of_le hi h1.size) hne).trans (h1.block i hi)⟩
  clear ho hg
  obtain ⟨q, hq⟩ : ∃ q, k + n = q := ⟨_, rfl⟩
  have HQ : Hid (k + n = q) := hq
  rw [hq]
  clear hq
  go_wp2_with fail
  go_ret
  exact ⟨ret_int (by rw [HQ.out]), HO2.out, HG2.out⟩

set_option maxHeartbeats 800000 in
theorem heldGather_any (s : Int) (e : Bool) (base : Nat) (a : Option Addr) (n cap k : Nat) (w : World) (h : Owns w base a n cap (marks k n)) (hn : n ≤ 1099511627776) (hk : k ≤ 1099511627776) :
    Calls Tryd.prog 16 #[.agg #[.int .i64 s, .bool e, .slice a n cap], .int .i64 k] w fun r w' => r = .returned (.int .i64 ((k + n : Nat) : Int)) ∧ Below w.heap.size w w' := by
  have HO : Hid (Owns w base a n cap (marks k n)) := h
  clear h
  have HB : Hid (Below w.heap.size w (w.alloc (.cells #[.int .i64 s, .bool e, .slice a n cap] 29))) := (Below.refl _ _).alloc (Nat.le_refl _) _
  go_enter Tryd.func16, Tryd.ntmps16
  go_wp2_with fail
  refine (held_any base a n cap k _ (HO.out.below HB.out) (by omega) (by omega)).mono ?_
  rintro r x1 ⟨rfl, rfl⟩
  have hpos : ¬ ((k + n : Nat) : Int) < 0 := by omega
  have hposd : decide (((k + n : Nat) : Int) < 0) = false := by simp; omega
  obtain ⟨q, hq⟩ : ∃ q, k + n = q := ⟨_, rfl⟩
  have HQ : Hid (k + n = q) := hq
  rw [hq] at hpos hposd ⊢
  clear hq
  go_wp2_with fail
  go_ret
  exact ⟨ret_int (by rw [HQ.out]), HB.out⟩

set_option maxHeartbeats 800000 in
theorem markFrame_from (k0 f s : Int) (base : Nat) (a : Option Addr) (n cap k : Nat) (zs : List Int) (w : World) (h : Owns w base a n cap zs) (hn : n ≤ 1099511627776) (hk : k ≤ 1099511627776) :
    Calls Tryd.prog 14 #[.agg #[.int .i64 k0, .int .i64 f, .int .i64 s, .slice a n cap], .int .i64 k] w fun e w' => e = .returned (.int .i64 ((k + n : Nat) : Int)) ∧ Owns w' base a n cap (marks k n) ∧ Only w w' a := by
  have HO : Hid (Owns w base a n cap zs) := h
  clear h
  have HB : Hid (Below w.heap.size w (w.alloc (.cells #[.int .i64 k0, .int .i64 f, .int .i64 s, .slice a n cap] 33))) := (Below.refl _ _).alloc (Nat.le_refl _) _
  go_enter Tryd.func14, Tryd.ntmps14
  go_wp2_with fail
  refine (mark_any base a n cap k zs _ (HO.out.below HB.out) (by omega) (by omega)).mono ?_
  rintro e x1 ⟨rfl, ho, hg⟩
  have HO2 : Hid (Owns x1 base a n cap (marks k n)) := ho
  have HG2 : Hid (Only w x1 a) := by
    have h1 := HB.out
    have h2 : World.grownBy _ _ _ := hg
    exact ⟨h2.os.trans h1.os, h2.tape.trans h1.tape, h2.output.trans h1.output, Nat.le_trans h1.size h2.size, fun i hi hne => (h2.block i (Nat.lt_of_lt_of_le hi h1.size) hne).trans (h1.block i hi)⟩
  clear ho hg
  obtain ⟨q, hq⟩ : ∃ q, k + n = q := ⟨_, rfl⟩
  have HQ : Hid (k + n = q) := hq
  rw [hq]
  clear hq
  go_wp2_with fail
  go_ret
  exact ⟨ret_int (by rw [HQ.out]), HO2.out, HG2.out⟩

end Go.Proofs.YtckpacifimpkgaoDoor
