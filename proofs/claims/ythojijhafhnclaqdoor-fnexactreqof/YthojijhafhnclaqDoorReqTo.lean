/- A request as the laws hand it on: its size, its copy, held against itself. -/
import Derived.Test.YthojijhafhnclaqDoorReqNum
import Derived.Test.YthojijhafhnclaqDoorBox3
import Derived.WalkKit
namespace Go.Proofs.YthojijhafhnclaqDoor
open Go.RowKit
set_option linter.unusedVariables false

set_option maxRecDepth 10000 in
theorem szReq_any (op : Int) (s : ByteArray) (n left : Int) (w : World) (h0 : 0 ≤ left) (h1 : left ≤ 1048576) (hm : s.size ≤ 9223372036854775807) :
    Calls Tryd.prog 6 #[.agg #[.int .i64 op, .string s, .int .i64 n], .int .i64 left] w fun e w' => e = .returned (.int .i64 (if left - (s.size : Int) < 0 then -1 else left - (s.size : Int))) ∧ Below w.heap.size w w' := by
  have HB0 : Hid (Below w.heap.size w (w.alloc (.cells #[.int .i64 op, .string s, .int .i64 n] 23))) := (Below.refl _ _).alloc (Nat.le_refl _) _
  have hw : IntKind.i64.wrap (left - (s.size : Int)) = left - (s.size : Int) := by rw [IntKind.wrap_i64]; omega
  by_cases hneg : left - (s.size : Int) < 0
  · rw [if_pos hneg]
    go_enter Tryd.func6, Tryd.ntmps6
    go_wp2_with fail
    go_ret
    exact ⟨rfl, HB0.out⟩
  · rw [if_neg hneg]
    go_enter Tryd.func6, Tryd.ntmps6
    go_wp2_with fail
    go_ret
    exact ⟨rfl, HB0.out⟩

set_option maxRecDepth 10000 in
set_option maxHeartbeats 800000 in
theorem toReq_any (op : Int) (s : ByteArray) (n : Int) (w : World) :
    Calls Tryd.prog 8 #[.agg #[.int .i64 op, .string s, .int .i64 n]] w fun e w' => e = .returned (.agg #[.int .i64 op, .string s, .int .i64 n]) ∧ Below w.heap.size w w' := by
  go_enter Tryd.func8, Tryd.ntmps8
  go_wp2
  refine bodyPost_ret (v := .agg #[.int .i64 op, .string s, .int .i64 n]) (by simp [results, Tryd.f8, go_sem]) rfl ?_
  exact ⟨rfl, (((Below.refl _ _).alloc (Nat.le_refl _) _).alloc (by simp) _).alloc (by simp; omega) _⟩

set_option maxRecDepth 10000 in
theorem eqReq_same (op : Int) (s : ByteArray) (n : Int) (w : World) :
    Calls Tryd.prog 19 #[.agg #[.int .i64 op, .string s, .int .i64 n], .agg #[.int .i64 op, .string s, .int .i64 n]] w fun e w' => e = .returned (.bool true) ∧ Below w.heap.size w w' := by
  have h1 : (op != op) = false := by simp
  have h2 : (s.toList == s.toList) = true := by simp
  have h2' : (s.toList != s.toList) = false := by simp
  have h3 : (n != n) = false := by simp
  go_enter Tryd.func19, Tryd.ntmps19
  go_wp2
  go_ret
  exact ⟨rfl, ((Below.refl _ _).alloc (Nat.le_refl _) _).alloc (by simp) _⟩

end Go.Proofs.YthojijhafhnclaqDoor
