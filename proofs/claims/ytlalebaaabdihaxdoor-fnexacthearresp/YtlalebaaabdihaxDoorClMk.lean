/- The marks laid into a client's file, and asked for. -/
import Derived.Test.YtlalebaaabdihaxDoorBoxN
import Derived.Test.YtlalebaaabdihaxDoorMarkB
namespace Go.Proofs.YtlalebaaabdihaxDoor
open Go.RowKit
set_option linter.unusedVariables false

set_option maxHeartbeats 800000 in
theorem markClient_any (id : ByteArray) (st off : Int) (base : Nat) (a : Option Addr) (n cap k : Nat) (zs : List Int) (w : World) (h : Owns w base a n cap zs) (hn : n ≤ 1099511627776) (hk : k ≤ 1099511627776) :
    Calls Tryd.prog 10 #[.agg #[.string id, .slice a n cap, .int .i64 st, .int .i64 off], .int .i64 k] w fun r w' => r = .returned (.int .i64 ((k + n : Nat) : Int)) ∧ Owns w' base a n cap (marks k n) ∧ Only w w' a := by
  have HO : Hid (Owns w base a n cap zs) := h
  clear h
  have HB : Hid (Below w.heap.size w (w.alloc (.cells #[.string id, .slice a n cap, .int .i64 st, .int .i64 off] 28))) := (Below.refl _ _).alloc (Nat.le_refl _) _
  go_enter Tryd.func10, Tryd.ntmps10
  go_wp2_with fail
  refine (mark_any base a n cap k zs _ (HO.out.below HB.out) (by omega) (by omega)).mono ?_
  rintro r x1 ⟨rfl, ho, hg⟩
  have HO2 : Hid (Owns x1 base a n cap (marks k n)) := ho
  have HG2 : Hid (Only w x1 a) := by
    have h1 := HB.out
    have h2 : World.grownBy _ _ _ := hg
    exact ⟨h2.os.trans h1.os, h2.tape.trans h1.tape, h2.output.trans h1.output, Nat.le_trans h1.size h2.size, fun i hi hne => (h2.block i (Nat.lt_of_lt_of_le hi h1.size) hne).trans (h1.block i hi)⟩
  clear ho hg
  obtain ⟨q, hq⟩ : ∃ q, k + n = q := ⟨_, rfl⟩
  have HQ : Hid (k + n = q) := hq
  rw [hq]
  clear hq
  go_wp2_with fail
  go_ret
  exact ⟨ret_int (by rw [HQ.out]), HO2.out, HG2.out⟩

set_option maxHeartbeats 800000 in
theorem heldClient_any (id : ByteArray) (st off : Int) (base : Nat) (a : Option Addr) (n cap k : Nat) (w : World) (h : Owns w base a n cap (marks k n)) (hn : n ≤ 1099511627776) (hk : k ≤ 1099511627776) :
    Calls Tryd.prog 11 #[.agg #[.string id, .slice a n cap, .int .i64 st, .int .i64 off], .int .i64 k] w fun r w' => r = .returned (.int .i64 ((k + n : Nat) : Int)) ∧ Below w.heap.size w w' := by
  have HO : Hid (Owns w base a n cap (marks k n)) := h
  clear h
  have HB : Hid (Below w.heap.size w (w.alloc (.cells #[.string id, .slice a n cap, .int .i64 st, .int .i64 off] 28))) := (Below.refl _ _).alloc (Nat.le_refl _) _
  go_enter Tryd.func11, Tryd.ntmps11
  go_wp2_with fail
  refine (held_any base a n cap k _ (HO.out.below HB.out) (by omega) (by omega)).mono ?_
  rintro r x1 ⟨rfl, rfl⟩
  have hpos : ¬ ((k + n : Nat) : Int) < 0 := by omega
  have hposd : decide (((k + n : Nat) : Int) < 0) = false := by simp; omega
  obtain ⟨q, hq⟩ : ∃ q, k + n = q := ⟨_, rfl⟩
  have HQ : Hid (k + n = q) := hq
  rw [hq] at hpos hposd ⊢
  clear hq
  go_wp2_with fail
  go_ret
  exact ⟨ret_int (by rw [HQ.out]), HB.out⟩

end Go.Proofs.YtlalebaaabdihaxDoor
