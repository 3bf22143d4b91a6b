/- The marks laid into a record's bytes, and asked for. -/
import Derived.Test.YtenkpgnkkkgdmasDoorBoxN
import Derived.Test.YtenkpgnkkkgdmasDoorMarkB
namespace Go.Proofs.YtenkpgnkkkgdmasDoor
open Go.RowKit
set_option linter.unusedVariables false

set_option maxHeartbeats 800000 in
theorem markRec_any (e q k : Int) (id : ByteArray) (m : Int) (base : Nat) (a : Option Addr) (n cap : Nat) (zs : List Int) (w : World) (h : Owns w base a n cap zs) (hn : n ≤ 1099511627776) :
    Calls Tryd.prog 16 #[.agg #[.int .i64 e, .int .i64 q, .int .i64 k, .string id, .int .i64 m, .slice a n cap], .int .i64 1] w fun r w' => r = .returned (.int .i64 ((1 + n : Nat) : Int)) ∧ Owns w' base a n cap (marks 1 n) ∧ Only w w' a := by
  have HO : Hid (Owns w base a n cap zs) := h
  clear h
  have HB : Hid (Below w.heap.size w (w.alloc (.cells #[.int .i64 e, .int .i64 q, .int .i64 k, .string id, .int .i64 m, .slice a n cap] 27))) := (Below.refl _ _).alloc (Nat.le_refl _) _
  go_enter Tryd.func16, Tryd.ntmps16
  go_wp2_with fail
  refine (mark_one base a n cap zs _ (HO.out.below HB.out) (by omega)).mono ?_
  rintro r x1 ⟨rfl, ho, hg⟩
  have HO2 : Hid (Owns x1 base a n cap (marks 1 n)) := ho
  have HG2 : Hid (Only w x1 a) := by
    have h1 := HB.out
    have h2 : World.grownBy _ _ _ := hg
    exact ⟨h2.os.trans h1.os, h2.tape.trans h1.tape, h2.output.trans h1.output, Nat.le_trans h1.size h2.size, fun i hi hne => (h2.block i (Nat.lt_of_lt_of_le hi h1.size) hne).trans (h1.block i hi)⟩
  clear ho hg
  obtain ⟨t, ht⟩ : ∃ t, 1 + n = t := ⟨_, rfl⟩
  have HQ : Hid (1 + n = t) := ht
  rw [ht]
  clear ht
  go_wp2_with fail
  go_ret
  exact ⟨ret_int (by rw [HQ.out]), HO2.out, HG2.out⟩

set_option maxHeartbeats 800000 in
theorem heldRec_any (e q k : Int) (id : ByteArray) (m : Int) (base : Nat) (a : Option Addr) (n cap : Nat) (w : World) (h : Owns w base a n cap (marks 1 n)) (hn : n ≤ 1099511627776) :
    Calls Tryd.prog 17 #[.agg #[.int .i64 e, .int .i64 q, .int .i64 k, .string id, .int .i64 m, .slice a n cap], .int .i64 1] w fun r w' => r = .returned (.int .i64 ((1 + n : Nat) : Int)) ∧ Below w.heap.size w w' := by
  have HO : Hid (Owns w base a n cap (marks 1 n)) := h
  clear h
  have HB : Hid (Below w.heap.size w (w.alloc (.cells #[.int .i64 e, .int .i64 q, .int .i64 k, .string id, .int .i64 m, .slice a n cap] 27))) := (Below.refl _ _).alloc (Nat.le_refl _) _
  go_enter Tryd.func17, Tryd.ntmps17
  go_wp2_with fail
  refine (held_one base a n cap _ (HO.out.below HB.out) (by omega)).mono ?_
  rintro r x1 ⟨rfl, rfl⟩
  have hpos : ¬ ((1 + n : Nat) : Int) < 0 := by omega
  have hposd : decide (((1 + n : Nat) : Int) < 0) = false := by simp; omega
  obtain ⟨t, ht⟩ : ∃ t, 1 + n = t := ⟨_, rfl⟩
  have HQ : Hid (1 + n = t) := ht
  rw [ht] at hpos hposd ⊢
  clear ht
  go_wp2_with fail
  go_ret
  exact ⟨ret_int (by rw [HQ.out]), HB.out⟩

end Go.Proofs.YtenkpgnkkkgdmasDoor
