/- The walk of the law that GetRec answers as the specification's; under a contract of the program's own function. -/
import Derived.Test.YtenkpgnkkkgdmasDoorRecTo
import Derived.Test.YtenkpgnkkkgdmasDoorRecMk
import Derived.Test.YtenkpgnkkkgdmasDoorGetRecS
namespace Go.Proofs.YtenkpgnkkkgdmasDoor
open Go.RowKit
set_option linter.unusedVariables false

set_option maxRecDepth 10000 in
set_option maxHeartbeats 3200000 in
theorem getRecWalk (s : ByteArray) (w : World) (hsm : s.size ≤ maxLen)
    (HIm : ∀ W : World, Below w.heap.size w W → s.size ≤ 1048576 → Calls Tryd.prog 15 #[.string s] W fun e w' => (∃ v, e = .returned v ∧ GotR W.heap.size s v w') ∧ Below W.heap.size W w') :
    Calls Tryd.prog 5 #[.string s] w fun e w' => e = .returned (.bool true) ∧ Below w.heap.size w w' := by
  have hmm : maxLen < 9223372036854775808 := by decide
  by_cases hbig : 1048576 < s.size
  · have hbi : (1048576 : Int) < (s.size : Int) := by omega
    go_enter Tryd.func5, Tryd.ntmps5
    go_wp2_with fail
    go_ret
    exact ⟨rfl, Below.refl _ _⟩
  have hbi : ¬ (1048576 : Int) < (s.size : Int) := by omega
  have HIm' : Hid (∀ W : World, Below w.heap.size w W → Calls Tryd.prog 15 #[.string s] W fun e w' => (∃ v, e = .returned v ∧ GotR W.heap.size s v w') ∧ Below W.heap.size W w') := fun W hb => HIm W hb (by omega)
  have HSp : Hid (∀ W : World, Calls Tryd.prog 14 #[.string s] W fun e w' => (∃ v, e = .returned v ∧ GotR W.heap.size s v w') ∧ Below W.heap.size W w') := fun W => specGetR_any s W (by omega)
  clear HIm hbig
  have HLn : Hid ((gotV s).1.zs.length ≤ 24) := gotV_len s
  obtain ⟨⟨r, bb⟩, hgv⟩ : ∃ p, gotV s = p := ⟨_, rfl⟩
  have HGV : Hid (gotV s = (r, bb)) := hgv
  obtain ⟨bl, hbl⟩ : ∃ bl, r.zs.length = bl := ⟨_, rfl⟩
  have HBL : Hid (r.zs.length = bl) := hbl
  have hbl24 : bl ≤ 24 := by have := HLn.out; rw [hgv] at this; rw [← hbl]; exact this
  clear hgv hbl HLn
  have hbe : (bb != bb) = false := by simp
  go_enter Tryd.func5, Tryd.ntmps5
  go_wp2_with fail
  refine (HSp.out w).mono ?_
  rintro _ x2 ⟨⟨v, rfl, hgot⟩, hbx2⟩
  obtain ⟨wa, cw, hve, hox2⟩ := GotR.one hgot
  rw [HGV.out] at hve hox2
  dsimp only at hve hox2
  rw [HBL.out] at hve hox2
  subst hve
  clear hgot
  have HW3 : Hid (RB (x2.alloc (.cells #[.int .i64 r.e, .int .i64 r.q, .int .i64 r.k, .string r.id, .int .i64 r.n, .slice wa bl cw] 27)) x2.heap.size w.heap.size r wa bl cw r.zs) := RB.new r hox2 hbx2.size
  have HB3 : Hid (Below w.heap.size w (x2.alloc (.cells #[.int .i64 r.e, .int .i64 r.q, .int .i64 r.k, .string r.id, .int .i64 r.n, .slice wa bl cw] 27))) := hbx2.alloc hbx2.size _
  clear hox2 hbx2
  go_wp2_with fail
  obtain ⟨x3, hx3⟩ : ∃ x3, x2.alloc (.cells #[.int .i64 r.e, .int .i64 r.q, .int .i64 r.k, .string r.id, .int .i64 r.n, .slice wa bl cw] 27) = x3 := ⟨_, rfl⟩
  have hbw : x2.heap.size < x3.heap.size := by rw [← hx3]; simp
  rw [hx3] at HW3 HB3 ⊢
  clear hx3
  generalize x2.heap.size = bw at *
  refine (HIm'.out x3 HB3.out).mono ?_
  rintro _ x5 ⟨⟨v, rfl, hgot⟩, hbx5⟩
  obtain ⟨ga, gc, hve, hox5⟩ := GotR.one hgot
  rw [HGV.out] at hve hox5
  dsimp only at hve hox5
  rw [HBL.out] at hve hox5
  subst hve
  clear hgot
  have HG6 : Hid (RB (x5.alloc (.cells #[.int .i64 r.e, .int .i64 r.q, .int .i64 r.k, .string r.id, .int .i64 r.n, .slice ga bl gc] 27)) x5.heap.size x3.heap.size r ga bl gc r.zs) := RB.new r hox5 hbx5.size
  have hb56 : Below x3.heap.size x3 (x5.alloc (.cells #[.int .i64 r.e, .int .i64 r.q, .int .i64 r.k, .string r.id, .int .i64 r.n, .slice ga bl gc] 27)) := hbx5.alloc hbx5.size _
  have HW6 : Hid (RB (x5.alloc (.cells #[.int .i64 r.e, .int .i64 r.q, .int .i64 r.k, .string r.id, .int .i64 r.n, .slice ga bl gc] 27)) bw w.heap.size r wa bl cw r.zs) := HW3.out.stays hb56
  have HB6 : Hid (Below w.heap.size w (x5.alloc (.cells #[.int .i64 r.e, .int .i64 r.q, .int .i64 r.k, .string r.id, .int .i64 r.n, .slice ga bl gc] 27))) := HB3.out.trans (hb56.mono HB3.out.size)
  have hbg : x3.heap.size ≤ x5.heap.size := hbx5.size
  clear hox5 hbx5 hb56 HW3
  have c0 := HG6.out.1.cell 0 rfl
  have c1 := HG6.out.1.cell 1 rfl
  have c2 := HG6.out.1.cell 2 rfl
  have c3 := HG6.out.1.cell 3 rfl
  have c4 := HG6.out.1.cell 4 rfl
  have c5 := HG6.out.1.cell 5 rfl
  have d0 := HW6.out.1.cell 0 rfl
  have d1 := HW6.out.1.cell 1 rfl
  have d2 := HW6.out.1.cell 2 rfl
  have d3 := HW6.out.1.cell 3 rfl
  have d4 := HW6.out.1.cell 4 rfl
  have d5 := HW6.out.1.cell 5 rfl
  go_wp2_with fail
  obtain ⟨x6, hx6⟩ : ∃ x6, x5.alloc (.cells #[.int .i64 r.e, .int .i64 r.q, .int .i64 r.k, .string r.id, .int .i64 r.n, .slice ga bl gc] 27) = x6 := ⟨_, rfl⟩
  rw [hx6] at HG6 HW6 HB6 c0 c1 c2 c3 c4 c5 d0 d1 d2 d3 d4 d5 ⊢
  clear hx6
  generalize x5.heap.size = bg at *
  refine (eqRec_same r.e r.q r.k r.id r.n ga wa bl gc cw r.zs x6 HG6.out.2.1.seg HW6.out.2.1.seg (by omega)).mono ?_
  rintro _ x7 ⟨rfl, hb7⟩
  have HG7 : Hid (RB x7 bg x3.heap.size r ga bl gc r.zs) := HG6.out.stays hb7
  have HW7 : Hid (RB x7 bw w.heap.size r wa bl cw r.zs) := HW6.out.stays hb7
  have HB7 : Hid (Below w.heap.size w x7) := HB6.out.trans (hb7.mono HB6.out.size)
  clear hb7 HG6 HW6 HB6 c0 c1 c2 c3 c4 c5 d0 d1 d2 d3 d4 d5
  have c0 := HG7.out.1.cell 0 rfl
  have c1 := HG7.out.1.cell 1 rfl
  have c2 := HG7.out.1.cell 2 rfl
  have c3 := HG7.out.1.cell 3 rfl
  have c4 := HG7.out.1.cell 4 rfl
  have c5 := HG7.out.1.cell 5 rfl
  go_wp2_with fail
  refine (markRec_any r.e r.q r.k r.id r.n x3.heap.size ga bl gc r.zs x7 HG7.out.2.1 (by omega)).mono ?_
  rintro _ x8 ⟨rfl, og8, on8⟩
  have hgr8 : x7.grownBy x8 (ga.map (·.block)) := on8
  have HG8 : Hid (RB x8 bg x3.heap.size r ga bl gc (marks 1 bl)) := HG7.out.marked og8 hgr8
  have HW8 : Hid (RB x8 bw w.heap.size r wa bl cw r.zs) := HW7.out.grown hgr8 (fun q e => .inr (by have := (HG7.out.2.1.lt q e).1; omega))
  have HB8 : Hid (Below w.heap.size w x8) := HB7.out.grown hgr8 HB7.out.size (fun q e => by have := (HG7.out.2.1.lt q e).1; have := HB3.out.size; omega)
  clear og8 on8 hgr8 HG7 HW7 HB7 c0 c1 c2 c3 c4 c5
  have HHR : Hid (∀ W : World, Owns W x3.heap.size ga bl gc (marks 1 bl) → Calls Tryd.prog 17 #[.agg #[.int .i64 r.e, .int .i64 r.q, .int .i64 r.k, .string r.id, .int .i64 r.n, .slice ga bl gc], .int .i64 1] W fun e w' => e = .returned (.int .i64 ((1 + bl : Nat) : Int)) ∧ Below W.heap.size W w') := fun W h => heldRec_any r.e r.q r.k r.id r.n x3.heap.size ga bl gc W h (by omega)
  generalize hq10 : ((1 + bl : Nat) : Int) = q10 at *
  have hq10p : ¬ q10 < 0 := by omega
  have hq10d : decide (q10 < 0) = false := by simp; omega
  have hq10e : (q10 != q10) = false := by simp
  clear hq10
  have c0 := HG8.out.1.cell 0 rfl
  have c1 := HG8.out.1.cell 1 rfl
  have c2 := HG8.out.1.cell 2 rfl
  have c3 := HG8.out.1.cell 3 rfl
  have c4 := HG8.out.1.cell 4 rfl
  have c5 := HG8.out.1.cell 5 rfl
  go_wp2_with fail
  refine (HHR.out x8 HG8.out.2.1).mono ?_
  rintro _ x9 ⟨rfl, hb9⟩
  have HG9 : Hid (RB x9 bg x3.heap.size r ga bl gc (marks 1 bl)) := HG8.out.stays hb9
  have HW9 : Hid (RB x9 bw w.heap.size r wa bl cw r.zs) := HW8.out.stays hb9
  have HB9 : Hid (Below w.heap.size w x9) := HB8.out.trans (hb9.mono HB8.out.size)
  clear hb9 HG8 HW8 HB8 c0 c1 c2 c3 c4 c5
  go_wp2_with fail
  refine (HIm'.out x9 HB9.out).mono ?_
  rintro _ x15 ⟨⟨v, rfl, hgot⟩, hbx15⟩
  obtain ⟨ha, hc, hve, hox15⟩ := GotR.one hgot
  rw [HGV.out] at hve hox15
  dsimp only at hve hox15
  rw [HBL.out] at hve hox15
  subst hve
  clear hgot
  have hb56 : Below x9.heap.size x9 (x15.alloc (.cells #[.int .i64 r.e, .int .i64 r.q, .int .i64 r.k, .string r.id, .int .i64 r.n, .slice ha bl hc] 27)) := hbx15.alloc hbx15.size _
  have HH16 : Hid (RB (x15.alloc (.cells #[.int .i64 r.e, .int .i64 r.q, .int .i64 r.k, .string r.id, .int .i64 r.n, .slice ha bl hc] 27)) x15.heap.size x9.heap.size r ha bl hc r.zs) := RB.new r hox15 hbx15.size
  have HG16 : Hid (RB (x15.alloc (.cells #[.int .i64 r.e, .int .i64 r.q, .int .i64 r.k, .string r.id, .int .i64 r.n, .slice ha bl hc] 27)) bg x3.heap.size r ga bl gc (marks 1 bl)) := HG9.out.stays hb56
  have HW16 : Hid (RB (x15.alloc (.cells #[.int .i64 r.e, .int .i64 r.q, .int .i64 r.k, .string r.id, .int .i64 r.n, .slice ha bl hc] 27)) bw w.heap.size r wa bl cw r.zs) := HW9.out.stays hb56
  have HB16 : Hid (Below w.heap.size w (x15.alloc (.cells #[.int .i64 r.e, .int .i64 r.q, .int .i64 r.k, .string r.id, .int .i64 r.n, .slice ha bl hc] 27))) := HB9.out.trans (hb56.mono HB9.out.size)
  clear hox15 hbx15 hb56 HG9 HW9 HB9
  have c0 := HH16.out.1.cell 0 rfl
  have c1 := HH16.out.1.cell 1 rfl
  have c2 := HH16.out.1.cell 2 rfl
  have c3 := HH16.out.1.cell 3 rfl
  have c4 := HH16.out.1.cell 4 rfl
  have c5 := HH16.out.1.cell 5 rfl
  have d0 := HW16.out.1.cell 0 rfl
  have d1 := HW16.out.1.cell 1 rfl
  have d2 := HW16.out.1.cell 2 rfl
  have d3 := HW16.out.1.cell 3 rfl
  have d4 := HW16.out.1.cell 4 rfl
  have d5 := HW16.out.1.cell 5 rfl
  go_wp2_with fail
  obtain ⟨x16, hx16⟩ : ∃ x16, x15.alloc (.cells #[.int .i64 r.e, .int .i64 r.q, .int .i64 r.k, .string r.id, .int .i64 r.n, .slice ha bl hc] 27) = x16 := ⟨_, rfl⟩
  rw [hx16] at HH16 HG16 HW16 HB16 c0 c1 c2 c3 c4 c5 d0 d1 d2 d3 d4 d5 ⊢
  clear hx16
  generalize x15.heap.size = bh at *
  refine (eqRec_same r.e r.q r.k r.id r.n ha wa bl hc cw r.zs x16 HH16.out.2.1.seg HW16.out.2.1.seg (by omega)).mono ?_
  rintro _ x17 ⟨rfl, hb17⟩
  have HG17 : Hid (RB x17 bg x3.heap.size r ga bl gc (marks 1 bl)) := HG16.out.stays hb17
  have HB17 : Hid (Below w.heap.size w x17) := HB16.out.trans (hb17.mono HB16.out.size)
  clear hb17 HH16 HG16 HW16 HB16 c0 c1 c2 c3 c4 c5 d0 d1 d2 d3 d4 d5
  have c0 := HG17.out.1.cell 0 rfl
  have c1 := HG17.out.1.cell 1 rfl
  have c2 := HG17.out.1.cell 2 rfl
  have c3 := HG17.out.1.cell 3 rfl
  have c4 := HG17.out.1.cell 4 rfl
  have c5 := HG17.out.1.cell 5 rfl
  go_wp2_with fail
  refine (HHR.out x17 HG17.out.2.1).mono ?_
  rintro _ x18 ⟨rfl, hb18⟩
  have HB18 : Hid (Below w.heap.size w x18) := HB17.out.trans (hb18.mono HB17.out.size)
  clear hb18 HG17 HB17 c0 c1 c2 c3 c4 c5
  go_wp2_with fail
  go_ret
  exact ⟨rfl, HB18.out⟩

end Go.Proofs.YtenkpgnkkkgdmasDoor
