/- The walk of the law that FlowNew answers as the specification's; under a contract of the program's own function. -/
import Derived.Test.YtkicfiacnpifkapFlowAns
import Derived.Test.YtkicfiacnpifkapFlowNewS
import Derived.Deep.CutBlock
namespace Go.Proofs.Ytkicfiacnpifkap
open Go.RowKit
set_option linter.unusedVariables false

set_option maxRecDepth 10000 in
set_option maxHeartbeats 3200000 in
theorem flowNewWalk (n : Int) (w : World)
    (HIm : ∀ W : World, Calls Try.prog 15 #[.int .i64 n] W fun e w' => (∃ A C, e = .returned (.agg #[.int .i64 (newF n).1, .int .i64 (newF n).2, .slice A 0 C]) ∧ OwnL w' W.heap.size A 0 C []) ∧ Below W.heap.size W w') :
    Calls Try.prog 4 #[.int .i64 n] w fun e w' => e = .returned (.bool true) ∧ Below w.heap.size w w' := by
  have HI : Hid (∀ W : World, Calls Try.prog 15 #[.int .i64 n] W fun e w' => (∃ A C, e = .returned (.agg #[.int .i64 (newF n).1, .int .i64 (newF n).2, .slice A 0 C]) ∧ OwnL w' W.heap.size A 0 C []) ∧ Below W.heap.size W w') := HIm
  have HP : Hid (∀ W : World, Calls Try.prog 14 #[.int .i64 n] W fun e w' => e = .returned (.agg #[.int .i64 (newF n).1, .int .i64 (newF n).2, .slice none 0 0]) ∧ Below W.heap.size W w') := fun W => specFnew_any n W
  clear HIm
  generalize newF n = r at *
  obtain ⟨rc, ri⟩ := r
  dsimp only at *
  have HNil : Hid (∀ (W : World) (b : Nat), OwnL W b none 0 0 []) := fun W b => ⟨⟨rfl, .inl ⟨rfl, rfl⟩⟩, by simp⟩
  go_enter Try.func4, Try.ntmps4
  go_wp2_with fail
  refine (HP.out _).mono ?_
  rintro e x1 ⟨rfl, hb1⟩
  have HAw : Hid (FAt (x1.alloc (.cells #[.int .i64 rc, .int .i64 ri, .slice none 0 0] 29)) w.heap.size (x1.heap.size + 1) x1.heap.size rc ri none 0 0 []) := FAt.new (HNil.out _ _) hb1.size
  have HB1 : Hid (Below w.heap.size w (x1.alloc (.cells #[.int .i64 rc, .int .i64 ri, .slice none 0 0] 29))) := hb1.alloc hb1.size _
  clear hb1
  go_upto_region 2 with fail
  obtain ⟨w1, hw1⟩ : ∃ w1, x1.alloc (.cells #[.int .i64 rc, .int .i64 ri, .slice none 0 0] 29) = w1 := ⟨_, rfl⟩
  have HZ1 : Hid (w1.heap.size = x1.heap.size + 1) := by show _ = _; rw [← hw1]; simp
  rw [hw1] at HAw HB1 ⊢
  clear hw1
  go_wp2_with fail
  refine (HI.out _).mono ?_
  rintro e x2 ⟨⟨ga, gc, rfl, og⟩, hb2⟩
  have HAg : Hid (FAt (x2.alloc (.cells #[.int .i64 rc, .int .i64 ri, .slice ga 0 gc] 29)) w1.heap.size (x2.heap.size + 1) x2.heap.size rc ri ga 0 gc []) := FAt.new og hb2.size
  have HB2 : Hid (Below w1.heap.size w1 (x2.alloc (.cells #[.int .i64 rc, .int .i64 ri, .slice ga 0 gc] 29))) := hb2.alloc hb2.size _
  clear hb2 og
  go_upto_region 3 with fail
  obtain ⟨w2, hw2⟩ : ∃ w2, x2.alloc (.cells #[.int .i64 rc, .int .i64 ri, .slice ga 0 gc] 29) = w2 := ⟨_, rfl⟩
  rw [hw2] at HAg HB2 ⊢
  clear hw2
  have HAw2 : Hid (FAt w2 w.heap.size (x1.heap.size + 1) x1.heap.size rc ri none 0 0 []) := HAw.out.stays HB2.out
  have HBw2 : Hid (Below w.heap.size w w2) := HB1.out.trans (HB2.out.mono HB1.out.size)
  clear HAw HB1 HB2
  obtain ⟨c0, c1, c2⟩ := HAw2.out.1.cells
  obtain ⟨d0, d1, d2⟩ := HAg.out.1.cells
  go_wp2_with fail
  refine (eqFlow_same rc ri ga none 0 gc 0 [] _ HAg.out.2.1.lanes HAw2.out.2.1.lanes (by omega)).mono ?_
  rintro e x3 ⟨rfl, hb3⟩
  have HA3 : Hid (FAt x3 w.heap.size (x1.heap.size + 1) x1.heap.size rc ri none 0 0 []) := HAw2.out.stays hb3
  have HG3 : Hid (FAt x3 w1.heap.size (x2.heap.size + 1) x2.heap.size rc ri ga 0 gc []) := HAg.out.stays hb3
  have HB3 : Hid (Below w.heap.size w x3) := HBw2.out.trans (hb3.mono HBw2.out.size)
  clear hb3 HAw2 HAg HBw2 c0 c1 c2 d0 d1 d2
  obtain ⟨d0, d1, d2⟩ := HG3.out.1.cells
  go_wp2_with fail
  refine (markFlow_any rc ri w1.heap.size ga 0 gc 1 [] _ HG3.out.2.1 (by omega) (by omega)).mono ?_
  rintro e x4 ⟨rfl, om4, on4⟩
  have hgr : x3.grownBy x4 (ga.map (·.block)) := on4
  have hrow := HG3.out.row
  have hz := HZ1.out
  have hsz : w.heap.size ≤ w1.heap.size := by have := HA3.out.2.2.1; omega
  have HB4 : Hid (Below w.heap.size w x4) := HB3.out.grown hgr HB3.out.size (fun q e => by have := hrow _ e; omega)
  have HA4 : Hid (FAt x4 w.heap.size (x1.heap.size + 1) x1.heap.size rc ri none 0 0 []) := HA3.out.kept hgr (fun q e => by have := hrow _ e; omega)
  have HG4 : Hid (FAt x4 w1.heap.size (x2.heap.size + 1) x2.heap.size rc ri ga 0 gc (marksL 1 0)) := HG3.out.marked om4 on4
  clear om4 on4 hgr hrow hz hsz HB3 HA3 HG3 d0 d1 d2
  have HHG : Hid (∀ W : World, OwnL W w1.heap.size ga 0 gc (marksL 1 0) → Calls Try.prog 17 #[.agg #[.int .i64 rc, .int .i64 ri, .slice ga 0 gc], .int .i64 1] W fun e w' => e = .returned (.int .i64 ((1 + 2 * 0 : Nat) : Int)) ∧ Below W.heap.size W w') := fun W h => heldFlow_any rc ri w1.heap.size ga 0 gc 1 W h (by omega) (by omega)
  generalize hq10 : ((1 + 2 * 0 : Nat) : Int) = q10 at *
  have hq10p : ¬ q10 < 0 := by omega
  have hq10d : decide (q10 < 0) = false := by simp; omega
  have hq10e : (q10 != q10) = false := by simp
  clear hq10
  obtain ⟨d0, d1, d2⟩ := HG4.out.1.cells
  go_wp2_with fail
  refine (HHG.out _ HG4.out.2.1).mono ?_
  rintro e x5 ⟨rfl, hb5⟩
  have HA5 : Hid (FAt x5 w.heap.size (x1.heap.size + 1) x1.heap.size rc ri none 0 0 []) := HA4.out.stays hb5
  have HG5 : Hid (FAt x5 w1.heap.size (x2.heap.size + 1) x2.heap.size rc ri ga 0 gc (marksL 1 0)) := HG4.out.stays hb5
  have HB5 : Hid (Below w.heap.size w x5) := HB4.out.trans (hb5.mono HB4.out.size)
  clear hb5 HA4 HG4 HB4 d0 d1 d2
  go_wp2_with fail
  refine (HI.out _).mono ?_
  rintro e x6 ⟨⟨ha, hc, rfl, oh⟩, hb6⟩
  have HAh : Hid (FAt (x6.alloc (.cells #[.int .i64 rc, .int .i64 ri, .slice ha 0 hc] 29)) x5.heap.size (x6.heap.size + 1) x6.heap.size rc ri ha 0 hc []) := FAt.new oh hb6.size
  have HB6 : Hid (Below x5.heap.size x5 (x6.alloc (.cells #[.int .i64 rc, .int .i64 ri, .slice ha 0 hc] 29))) := hb6.alloc hb6.size _
  clear hb6 oh
  go_upto_region 14 with fail
  obtain ⟨w6, hw6⟩ : ∃ w6, x6.alloc (.cells #[.int .i64 rc, .int .i64 ri, .slice ha 0 hc] 29) = w6 := ⟨_, rfl⟩
  rw [hw6] at HAh HB6 ⊢
  clear hw6
  obtain ⟨c0, c1, c2⟩ := (HA5.out.stays HB6.out).1.cells
  obtain ⟨d0, d1, d2⟩ := HAh.out.1.cells
  go_wp2_with fail
  refine (eqFlow_same rc ri ha none 0 hc 0 [] _ HAh.out.2.1.lanes (HA5.out.stays HB6.out).2.1.lanes (by omega)).mono ?_
  rintro e x7 ⟨rfl, hb7⟩
  have HB7 : Hid (Below x5.heap.size x5 x7) := HB6.out.trans (hb7.mono HB6.out.size)
  clear hb7 c0 c1 c2 d0 d1 d2 HAh HB6
  obtain ⟨d0, d1, d2⟩ := (HG5.out.stays HB7.out).1.cells
  go_wp2_with fail
  refine (HHG.out _ (HG5.out.stays HB7.out).2.1).mono ?_
  rintro e x8 ⟨rfl, hb8⟩
  have HE : Hid (Below w.heap.size w x8) := by
    have h1 : Below w.heap.size w x7 := HB5.out.trans (HB7.out.mono HB5.out.size)
    exact h1.trans (hb8.mono h1.size)
  clear hb8 d0 d1 d2
  go_wp2_with fail
  go_ret
  exact ⟨rfl, HE.out⟩

end Go.Proofs.Ytkicfiacnpifkap
