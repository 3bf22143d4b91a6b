/- The walk of the law that ConnNew answers as the specification's. -/
import Derived.Test.YtpjldfpipchmjavConnNil
namespace Go.Proofs.Ytpjldfpipchmjav
open Go.RowKit
set_option linter.unusedVariables false

set_option maxRecDepth 10000 in
set_option maxHeartbeats 3200000 in
theorem connNewWalk (w : World) : Calls Try.prog 3 #[] w fun e w' => e = .returned (.bool true) ∧ Below w.heap.size w w' := by
  have hE : ((1 : Int) != 1) = false := by decide
  go_enter Try.func3, Try.ntmps3
  go_wp2_with fail
  refine (specConnNew_any w).mono ?_
  rintro _ x1 ⟨rfl, hb1⟩
  have HW : Hid (∀ W, Below (x1.alloc (.cells #[.int .i64 0, .slice none 0 0, .int .i64 0, .bool false, .slice none 0 0, .int .i64 4096, .slice none 0 0, .int .i64 4096, .slice none 0 0, .slice none 0 0, .int .i64 0, .int .i64 0] 30)).heap.size (x1.alloc (.cells #[.int .i64 0, .slice none 0 0, .int .i64 0, .bool false, .slice none 0 0, .int .i64 4096, .slice none 0 0, .int .i64 4096, .slice none 0 0, .slice none 0 0, .int .i64 0, .int .i64 0] 30)) W → BoxN W x1.heap.size 30 [.int .i64 0, .slice none 0 0, .int .i64 0, .bool false, .slice none 0 0, .int .i64 4096, .slice none 0 0, .int .i64 4096, .slice none 0 0, .slice none 0 0, .int .i64 0, .int .i64 0] ∧ Below w.heap.size w W) := fun W h => ⟨(BoxN.new x1 _ _).stays h, (hb1.alloc hb1.size _).trans (h.mono (hb1.alloc hb1.size _).size)⟩
  clear hb1
  go_upto_region 2 with fail
  obtain ⟨w1, hw1⟩ : ∃ w1, (x1.alloc (.cells #[.int .i64 0, .slice none 0 0, .int .i64 0, .bool false, .slice none 0 0, .int .i64 4096, .slice none 0 0, .int .i64 4096, .slice none 0 0, .slice none 0 0, .int .i64 0, .int .i64 0] 30)) = w1 := ⟨_, rfl⟩
  rw [hw1] at HW ⊢
  clear hw1
  generalize x1.heap.size = bw at *
  go_wp2_with fail
  refine (implConnNew_any w1).mono ?_
  rintro _ x2 ⟨rfl, hb2⟩
  have HG : Hid (∀ W, Below (x2.alloc (.cells #[.int .i64 0, .slice none 0 0, .int .i64 0, .bool false, .slice none 0 0, .int .i64 4096, .slice none 0 0, .int .i64 4096, .slice none 0 0, .slice none 0 0, .int .i64 0, .int .i64 0] 30)).heap.size (x2.alloc (.cells #[.int .i64 0, .slice none 0 0, .int .i64 0, .bool false, .slice none 0 0, .int .i64 4096, .slice none 0 0, .int .i64 4096, .slice none 0 0, .slice none 0 0, .int .i64 0, .int .i64 0] 30)) W → BoxN W x2.heap.size 30 [.int .i64 0, .slice none 0 0, .int .i64 0, .bool false, .slice none 0 0, .int .i64 4096, .slice none 0 0, .int .i64 4096, .slice none 0 0, .slice none 0 0, .int .i64 0, .int .i64 0] ∧ Below w1.heap.size w1 W) := fun W h => ⟨(BoxN.new x2 _ _).stays h, (hb2.alloc hb2.size _).trans (h.mono (hb2.alloc hb2.size _).size)⟩
  clear hb2
  go_upto_region 3 with fail
  obtain ⟨w2, hw2⟩ : ∃ w2, (x2.alloc (.cells #[.int .i64 0, .slice none 0 0, .int .i64 0, .bool false, .slice none 0 0, .int .i64 4096, .slice none 0 0, .int .i64 4096, .slice none 0 0, .slice none 0 0, .int .i64 0, .int .i64 0] 30)) = w2 := ⟨_, rfl⟩
  rw [hw2] at HG ⊢
  clear hw2
  generalize x2.heap.size = bg at *
  have HA : Hid (∀ W, Below w2.heap.size w2 W → BoxN W bw 30 [.int .i64 0, .slice none 0 0, .int .i64 0, .bool false, .slice none 0 0, .int .i64 4096, .slice none 0 0, .int .i64 4096, .slice none 0 0, .slice none 0 0, .int .i64 0, .int .i64 0] ∧ BoxN W bg 30 [.int .i64 0, .slice none 0 0, .int .i64 0, .bool false, .slice none 0 0, .int .i64 4096, .slice none 0 0, .int .i64 4096, .slice none 0 0, .slice none 0 0, .int .i64 0, .int .i64 0] ∧ Below w.heap.size w W) := fun W h => ⟨(HW.out _ (HG.out _ h).2).1, (HG.out _ h).1, (HW.out _ (HG.out _ h).2).2⟩
  have HB2 : Hid (Below w2.heap.size w2 w2) := Below.refl _ _
  clear HG HW
  have p0 := BoxN.cell (HA.out _ HB2.out).1 0 rfl
  have p1 := BoxN.cell (HA.out _ HB2.out).1 1 rfl
  have p2 := BoxN.cell (HA.out _ HB2.out).1 2 rfl
  have p3 := BoxN.cell (HA.out _ HB2.out).1 3 rfl
  have p4 := BoxN.cell (HA.out _ HB2.out).1 4 rfl
  have p5 := BoxN.cell (HA.out _ HB2.out).1 5 rfl
  have p6 := BoxN.cell (HA.out _ HB2.out).1 6 rfl
  have p7 := BoxN.cell (HA.out _ HB2.out).1 7 rfl
  have p8 := BoxN.cell (HA.out _ HB2.out).1 8 rfl
  have p9 := BoxN.cell (HA.out _ HB2.out).1 9 rfl
  have p10 := BoxN.cell (HA.out _ HB2.out).1 10 rfl
  have p11 := BoxN.cell (HA.out _ HB2.out).1 11 rfl
  have q0 := BoxN.cell (HA.out _ HB2.out).2.1 0 rfl
  have q1 := BoxN.cell (HA.out _ HB2.out).2.1 1 rfl
  have q2 := BoxN.cell (HA.out _ HB2.out).2.1 2 rfl
  have q3 := BoxN.cell (HA.out _ HB2.out).2.1 3 rfl
  have q4 := BoxN.cell (HA.out _ HB2.out).2.1 4 rfl
  have q5 := BoxN.cell (HA.out _ HB2.out).2.1 5 rfl
  have q6 := BoxN.cell (HA.out _ HB2.out).2.1 6 rfl
  have q7 := BoxN.cell (HA.out _ HB2.out).2.1 7 rfl
  have q8 := BoxN.cell (HA.out _ HB2.out).2.1 8 rfl
  have q9 := BoxN.cell (HA.out _ HB2.out).2.1 9 rfl
  have q10 := BoxN.cell (HA.out _ HB2.out).2.1 10 rfl
  have q11 := BoxN.cell (HA.out _ HB2.out).2.1 11 rfl
  go_wp2_with fail
  refine (eqConn_nil w2).mono ?_
  rintro _ x3 ⟨rfl, hb9⟩
  have HB3 : Hid (Below w2.heap.size w2 x3) := HB2.out.trans (hb9.mono HB2.out.size)
  clear hb9 p0 p1 p2 p3 p4 p5 p6 p7 p8 p9 p10 p11 q0 q1 q2 q3 q4 q5 q6 q7 q8 q9 q10 q11
  have p0 := BoxN.cell (HA.out _ HB3.out).1 0 rfl
  have p1 := BoxN.cell (HA.out _ HB3.out).1 1 rfl
  have p2 := BoxN.cell (HA.out _ HB3.out).1 2 rfl
  have p3 := BoxN.cell (HA.out _ HB3.out).1 3 rfl
  have p4 := BoxN.cell (HA.out _ HB3.out).1 4 rfl
  have p5 := BoxN.cell (HA.out _ HB3.out).1 5 rfl
  have p6 := BoxN.cell (HA.out _ HB3.out).1 6 rfl
  have p7 := BoxN.cell (HA.out _ HB3.out).1 7 rfl
  have p8 := BoxN.cell (HA.out _ HB3.out).1 8 rfl
  have p9 := BoxN.cell (HA.out _ HB3.out).1 9 rfl
  have p10 := BoxN.cell (HA.out _ HB3.out).1 10 rfl
  have p11 := BoxN.cell (HA.out _ HB3.out).1 11 rfl
  have q0 := BoxN.cell (HA.out _ HB3.out).2.1 0 rfl
  have q1 := BoxN.cell (HA.out _ HB3.out).2.1 1 rfl
  have q2 := BoxN.cell (HA.out _ HB3.out).2.1 2 rfl
  have q3 := BoxN.cell (HA.out _ HB3.out).2.1 3 rfl
  have q4 := BoxN.cell (HA.out _ HB3.out).2.1 4 rfl
  have q5 := BoxN.cell (HA.out _ HB3.out).2.1 5 rfl
  have q6 := BoxN.cell (HA.out _ HB3.out).2.1 6 rfl
  have q7 := BoxN.cell (HA.out _ HB3.out).2.1 7 rfl
  have q8 := BoxN.cell (HA.out _ HB3.out).2.1 8 rfl
  have q9 := BoxN.cell (HA.out _ HB3.out).2.1 9 rfl
  have q10 := BoxN.cell (HA.out _ HB3.out).2.1 10 rfl
  have q11 := BoxN.cell (HA.out _ HB3.out).2.1 11 rfl
  go_wp2_with fail
  refine (markConn_nil x3).mono ?_
  rintro _ x4 ⟨rfl, hb9⟩
  have HB4 : Hid (Below w2.heap.size w2 x4) := HB3.out.trans (hb9.mono HB3.out.size)
  clear hb9 p0 p1 p2 p3 p4 p5 p6 p7 p8 p9 p10 p11 q0 q1 q2 q3 q4 q5 q6 q7 q8 q9 q10 q11
  have p0 := BoxN.cell (HA.out _ HB4.out).1 0 rfl
  have p1 := BoxN.cell (HA.out _ HB4.out).1 1 rfl
  have p2 := BoxN.cell (HA.out _ HB4.out).1 2 rfl
  have p3 := BoxN.cell (HA.out _ HB4.out).1 3 rfl
  have p4 := BoxN.cell (HA.out _ HB4.out).1 4 rfl
  have p5 := BoxN.cell (HA.out _ HB4.out).1 5 rfl
  have p6 := BoxN.cell (HA.out _ HB4.out).1 6 rfl
  have p7 := BoxN.cell (HA.out _ HB4.out).1 7 rfl
  have p8 := BoxN.cell (HA.out _ HB4.out).1 8 rfl
  have p9 := BoxN.cell (HA.out _ HB4.out).1 9 rfl
  have p10 := BoxN.cell (HA.out _ HB4.out).1 10 rfl
  have p11 := BoxN.cell (HA.out _ HB4.out).1 11 rfl
  have q0 := BoxN.cell (HA.out _ HB4.out).2.1 0 rfl
  have q1 := BoxN.cell (HA.out _ HB4.out).2.1 1 rfl
  have q2 := BoxN.cell (HA.out _ HB4.out).2.1 2 rfl
  have q3 := BoxN.cell (HA.out _ HB4.out).2.1 3 rfl
  have q4 := BoxN.cell (HA.out _ HB4.out).2.1 4 rfl
  have q5 := BoxN.cell (HA.out _ HB4.out).2.1 5 rfl
  have q6 := BoxN.cell (HA.out _ HB4.out).2.1 6 rfl
  have q7 := BoxN.cell (HA.out _ HB4.out).2.1 7 rfl
  have q8 := BoxN.cell (HA.out _ HB4.out).2.1 8 rfl
  have q9 := BoxN.cell (HA.out _ HB4.out).2.1 9 rfl
  have q10 := BoxN.cell (HA.out _ HB4.out).2.1 10 rfl
  have q11 := BoxN.cell (HA.out _ HB4.out).2.1 11 rfl
  go_wp2_with fail
  refine (heldConn_nil x4).mono ?_
  rintro _ x5 ⟨rfl, hb9⟩
  have HB5 : Hid (Below w2.heap.size w2 x5) := HB4.out.trans (hb9.mono HB4.out.size)
  clear hb9 p0 p1 p2 p3 p4 p5 p6 p7 p8 p9 p10 p11 q0 q1 q2 q3 q4 q5 q6 q7 q8 q9 q10 q11
  go_wp2_with fail
  refine (implConnNew_any x5).mono ?_
  rintro _ x6 ⟨rfl, hb6⟩
  have HC6 : Hid (Below w2.heap.size w2 (x6.alloc (.cells #[.int .i64 0, .slice none 0 0, .int .i64 0, .bool false, .slice none 0 0, .int .i64 4096, .slice none 0 0, .int .i64 4096, .slice none 0 0, .slice none 0 0, .int .i64 0, .int .i64 0] 30))) := (HB5.out.trans (hb6.mono HB5.out.size)).alloc (HB5.out.trans (hb6.mono HB5.out.size)).size _
  have HH : Hid (BoxN (x6.alloc (.cells #[.int .i64 0, .slice none 0 0, .int .i64 0, .bool false, .slice none 0 0, .int .i64 4096, .slice none 0 0, .int .i64 4096, .slice none 0 0, .slice none 0 0, .int .i64 0, .int .i64 0] 30)) x6.heap.size 30 [.int .i64 0, .slice none 0 0, .int .i64 0, .bool false, .slice none 0 0, .int .i64 4096, .slice none 0 0, .int .i64 4096, .slice none 0 0, .slice none 0 0, .int .i64 0, .int .i64 0]) := BoxN.new _ _ _
  clear hb6
  go_upto_region 14 with fail
  obtain ⟨w6, hw6⟩ : ∃ w6, (x6.alloc (.cells #[.int .i64 0, .slice none 0 0, .int .i64 0, .bool false, .slice none 0 0, .int .i64 4096, .slice none 0 0, .int .i64 4096, .slice none 0 0, .slice none 0 0, .int .i64 0, .int .i64 0] 30)) = w6 := ⟨_, rfl⟩
  rw [hw6] at HC6 HH ⊢
  clear hw6
  generalize x6.heap.size = bh at *
  have p0 := BoxN.cell (HA.out _ HC6.out).1 0 rfl
  have p1 := BoxN.cell (HA.out _ HC6.out).1 1 rfl
  have p2 := BoxN.cell (HA.out _ HC6.out).1 2 rfl
  have p3 := BoxN.cell (HA.out _ HC6.out).1 3 rfl
  have p4 := BoxN.cell (HA.out _ HC6.out).1 4 rfl
  have p5 := BoxN.cell (HA.out _ HC6.out).1 5 rfl
  have p6 := BoxN.cell (HA.out _ HC6.out).1 6 rfl
  have p7 := BoxN.cell (HA.out _ HC6.out).1 7 rfl
  have p8 := BoxN.cell (HA.out _ HC6.out).1 8 rfl
  have p9 := BoxN.cell (HA.out _ HC6.out).1 9 rfl
  have p10 := BoxN.cell (HA.out _ HC6.out).1 10 rfl
  have p11 := BoxN.cell (HA.out _ HC6.out).1 11 rfl
  have q0 := BoxN.cell HH.out 0 rfl
  have q1 := BoxN.cell HH.out 1 rfl
  have q2 := BoxN.cell HH.out 2 rfl
  have q3 := BoxN.cell HH.out 3 rfl
  have q4 := BoxN.cell HH.out 4 rfl
  have q5 := BoxN.cell HH.out 5 rfl
  have q6 := BoxN.cell HH.out 6 rfl
  have q7 := BoxN.cell HH.out 7 rfl
  have q8 := BoxN.cell HH.out 8 rfl
  have q9 := BoxN.cell HH.out 9 rfl
  have q10 := BoxN.cell HH.out 10 rfl
  have q11 := BoxN.cell HH.out 11 rfl
  go_wp2_with fail
  refine (eqConn_nil w6).mono ?_
  rintro _ x7 ⟨rfl, hb7⟩
  have HB7 : Hid (Below w2.heap.size w2 x7) := HC6.out.trans (hb7.mono HC6.out.size)
  clear hb7 p0 p1 p2 p3 p4 p5 p6 p7 p8 p9 p10 p11 q0 q1 q2 q3 q4 q5 q6 q7 q8 q9 q10 q11
  have p0 := BoxN.cell (HA.out _ HB7.out).1 0 rfl
  have p1 := BoxN.cell (HA.out _ HB7.out).1 1 rfl
  have p2 := BoxN.cell (HA.out _ HB7.out).1 2 rfl
  have p3 := BoxN.cell (HA.out _ HB7.out).1 3 rfl
  have p4 := BoxN.cell (HA.out _ HB7.out).1 4 rfl
  have p5 := BoxN.cell (HA.out _ HB7.out).1 5 rfl
  have p6 := BoxN.cell (HA.out _ HB7.out).1 6 rfl
  have p7 := BoxN.cell (HA.out _ HB7.out).1 7 rfl
  have p8 := BoxN.cell (HA.out _ HB7.out).1 8 rfl
  have p9 := BoxN.cell (HA.out _ HB7.out).1 9 rfl
  have p10 := BoxN.cell (HA.out _ HB7.out).1 10 rfl
  have p11 := BoxN.cell (HA.out _ HB7.out).1 11 rfl
  have q0 := BoxN.cell (HA.out _ HB7.out).2.1 0 rfl
  have q1 := BoxN.cell (HA.out _ HB7.out).2.1 1 rfl
  have q2 := BoxN.cell (HA.out _ HB7.out).2.1 2 rfl
  have q3 := BoxN.cell (HA.out _ HB7.out).2.1 3 rfl
  have q4 := BoxN.cell (HA.out _ HB7.out).2.1 4 rfl
  have q5 := BoxN.cell (HA.out _ HB7.out).2.1 5 rfl
  have q6 := BoxN.cell (HA.out _ HB7.out).2.1 6 rfl
  have q7 := BoxN.cell (HA.out _ HB7.out).2.1 7 rfl
  have q8 := BoxN.cell (HA.out _ HB7.out).2.1 8 rfl
  have q9 := BoxN.cell (HA.out _ HB7.out).2.1 9 rfl
  have q10 := BoxN.cell (HA.out _ HB7.out).2.1 10 rfl
  have q11 := BoxN.cell (HA.out _ HB7.out).2.1 11 rfl
  go_wp2_with fail
  refine (heldConn_nil x7).mono ?_
  rintro _ x8 ⟨rfl, hb9⟩
  have HB8 : Hid (Below w2.heap.size w2 x8) := HB7.out.trans (hb9.mono HB7.out.size)
  clear hb9 p0 p1 p2 p3 p4 p5 p6 p7 p8 p9 p10 p11 q0 q1 q2 q3 q4 q5 q6 q7 q8 q9 q10 q11
  have HF : Hid (Below w.heap.size w x8) := (HA.out _ HB8.out).2.2
  go_wp2_with fail
  go_ret
  exact ⟨rfl, HF.out⟩

end Go.Proofs.Ytpjldfpipchmjav
