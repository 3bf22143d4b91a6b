/- The walk of ReqOk's law. -/
import Derived.Test.YthojijhafhnclaqDoorReqTo
import Derived.Test.YthojijhafhnclaqDoorReqOkS
import Derived.Test.YthojijhafhnclaqDoorReqTabI
namespace Go.Proofs.YthojijhafhnclaqDoor
open Go.RowKit
set_option linter.unusedVariables false

set_option maxRecDepth 10000 in
set_option maxHeartbeats 800000 in
theorem reqOkWalk (op : Int) (s : ByteArray) (n : Int) (w : World) (hm : s.size ≤ 9223372036854775807)
    (HIm : ∀ W : World, Below w.heap.size w W → s.size ≤ 1048576 → Calls Tryd.prog 9 #[.agg #[.int .i64 op, .string s, .int .i64 n]] W fun e w' => e = .returned (.bool (reqB op s.data.toList n)) ∧ Below W.heap.size W w') :
    Calls Tryd.prog 3 #[.agg #[.int .i64 op, .string s, .int .i64 n]] w fun e w' => e = .returned (.bool true) ∧ Below w.heap.size w w' := by
  have HI : Hid (∀ W : World, Below w.heap.size w W → s.size ≤ 1048576 → Calls Tryd.prog 9 #[.agg #[.int .i64 op, .string s, .int .i64 n]] W fun e w' => e = .returned (.bool (reqB op s.data.toList n)) ∧ Below W.heap.size W w') := HIm
  clear HIm
  have HB0 : Hid (Below w.heap.size w (w.alloc (.cells #[.int .i64 op, .string s, .int .i64 n] 23))) := (Below.refl _ _).alloc (Nat.le_refl _) _
  have HX0 : Hid (Box3 (w.alloc (.cells #[.int .i64 op, .string s, .int .i64 n] 23)) w.heap.size 23 (.int .i64 op) (.string s) (.int .i64 n)) := Box3.new _ _ _ _ _
  go_enter Tryd.func3, Tryd.ntmps3
  go_wp2_with fail
  obtain ⟨w1, hw1⟩ : ∃ w1, w.alloc (.cells #[.int .i64 op, .string s, .int .i64 n] 23) = w1 := ⟨_, rfl⟩
  rw [hw1] at HB0 HX0 ⊢
  clear hw1
  refine (szReq_any op s n 1048576 w1 (by omega) (by omega) hm).mono ?_
  rintro e w2 ⟨rfl, hb2⟩
  have HX2 := (show Hid (Box3 w2 w.heap.size 23 (.int .i64 op) (.string s) (.int .i64 n)) from HX0.out.stays hb2)
  have HB2 : Hid (Below w.heap.size w w2) := HB0.out.trans (hb2.mono HB0.out.size)
  clear hb2 HX0 HB0
  by_cases hbig : (1048576 : Int) - (s.size : Int) < 0
  · rw [if_pos hbig]
    go_wp2_with fail
    go_ret
    exact ⟨rfl, HB2.out⟩
  rw [if_neg hbig]
  have hs : s.size ≤ 1048576 := by omega
  obtain ⟨c0, c1, c2⟩ := HX2.out.cells
  go_wp2_with fail
  refine (toReq_any op s n _).mono ?_
  rintro e w3 ⟨rfl, hb3⟩
  have HX3 := (show Hid (Box3 w3 w.heap.size 23 (.int .i64 op) (.string s) (.int .i64 n)) from HX2.out.stays hb3)
  have HB3 : Hid (Below w.heap.size w w3) := HB2.out.trans (hb3.mono HB2.out.size)
  clear hb3 HX2 HB2 c0 c1 c2
  go_wp2_with fail
  refine (specReqOk_any op s n _ hm).mono ?_
  rintro e w4 ⟨rfl, hb4⟩
  have HX4 := (show Hid (Box3 w4 w.heap.size 23 (.int .i64 op) (.string s) (.int .i64 n)) from HX3.out.stays hb4)
  have HB4 : Hid (Below w.heap.size w w4) := HB3.out.trans (hb4.mono HB3.out.size)
  clear hb4 HX3 HB3
  obtain ⟨c0, c1, c2⟩ := HX4.out.cells
  go_wp2_with fail
  refine (toReq_any op s n _).mono ?_
  rintro e w5 ⟨rfl, hb5⟩
  have HB5 : Hid (Below w.heap.size w w5) := HB4.out.trans (hb5.mono HB4.out.size)
  clear hb5 HX4 HB4 c0 c1 c2
  go_wp2_with fail
  refine (HI.out _ HB5.out hs).mono ?_
  rintro e w6 ⟨rfl, hb6⟩
  have HB6 : Hid (Below w.heap.size w w6) := HB5.out.trans (hb6.mono HB5.out.size)
  clear hb6 HB5
  generalize reqB op s.data.toList n = b at *
  have hbb : (b != b) = false := by simp
  go_wp2_with fail
  go_ret
  exact ⟨rfl, HB6.out⟩

theorem reqOkLaw (op : Int) (s : ByteArray) (n : Int) (w : World) (hs : s.size ≤ maxLen) (_ : -9223372036854775808 ≤ op ∧ op ≤ 9223372036854775807) (_ : -9223372036854775808 ≤ n ∧ n ≤ 9223372036854775807) (ht : MethT w) :
    Calls Tryd.prog 3 #[.agg #[.int .i64 op, .string s, .int .i64 n]] w fun e w' => e = .returned (.bool true) ∧ Below w.heap.size w w' := by
  unfold maxLen at hs
  exact reqOkWalk op s n w (by omega) fun W hW h => implReqOk_any op s n W (by omega) (ht.below hW)

end Go.Proofs.YthojijhafhnclaqDoor
