/- The walk of the law that Grant answers as the specification's; under a contract of the program's own function. -/
import Derived.Test.YtkicfiacnpifkaqFlowAns
import Derived.Deep.RegionWith
import Derived.Deep.CutBlock
namespace Go.Proofs.Ytkicfiacnpifkaq
open Go.RowKit
set_option linter.unusedVariables false

set_option maxRecDepth 10000 in
set_option maxHeartbeats 6400000 in
theorem flowGrantWalk (c i : Int) (a0 : Option Addr) (len0 cap0 : Nat) (l : List Lane) (id n : Int) (R : (Int × Int × List Lane) × Bool) (w : World) (hl : len0 ≤ maxLen) (hs : Lanes w a0 len0 l)
    (hm : len0 ≤ 1048576 → R.1.2.2.length ≤ 2097152)
    (HSp : ∀ (a : Option Addr) (W : World), len0 ≤ 1048576 → Lanes W a len0 l → Calls Try.prog 6 #[.agg #[.int .i64 c, .int .i64 i, .slice a len0 len0], .int .i64 id, .int .i64 n] W fun e w' => AnsF W.heap.size R e w' ∧ Below W.heap.size W w')
    (HIm : ∀ (a : Option Addr) (W : World), len0 ≤ 1048576 → Lanes W a len0 l → Calls Try.prog 8 #[.agg #[.int .i64 c, .int .i64 i, .slice a len0 len0], .int .i64 id, .int .i64 n] W fun e w' => AnsF W.heap.size R e w' ∧ Below W.heap.size W w') :
    Calls Try.prog 3 #[.agg #[.int .i64 c, .int .i64 i, .slice a0 len0 cap0], .int .i64 id, .int .i64 n] w fun e w' => e = .returned (.bool true) ∧ Below w.heap.size w w' := by
  have HS : Hid (Lanes w a0 len0 l) := hs
  clear hs
  have HB0 : Hid (Below w.heap.size w (w.alloc (.cells #[.int .i64 c, .int .i64 i, .slice a0 len0 cap0] 24))) := (Below.refl _ _).alloc (Nat.le_refl _) _
  go_enter Try.func3, Try.ntmps3
  go_wp2_with fail
  refine (szFlow_any c i a0 len0 cap0 1048576 _ (by omega) (by omega) hl).mono ?_
  rintro e x0 ⟨rfl, hb0⟩
  have HB1 : Hid (Below w.heap.size w x0) := HB0.out.trans (hb0.mono HB0.out.size)
  have HF1 : Hid (Box3 x0 w.heap.size 24 (.int .i64 c) (.int .i64 i) (.slice a0 len0 cap0)) := (Box3.new _ _ _ _ _).stays hb0
  clear hb0 HB0
  by_cases hbig : (1048576 : Int) - len0 < 0
  · rw [if_pos hbig]
    go_wp2_with fail
    go_ret
    exact ⟨rfl, HB1.out⟩
  rw [if_neg hbig]
  have hle : len0 ≤ 1048576 := by omega
  have hnn : ¬ (1048576 : Int) - (len0 : Int) < 0 := hbig
  generalize (1048576 : Int) - (len0 : Int) = left0 at *
  clear hbig
  have HP : Hid (∀ (a : Option Addr) (W : World), Lanes W a len0 l → Calls Try.prog 6 #[.agg #[.int .i64 c, .int .i64 i, .slice a len0 len0], .int .i64 id, .int .i64 n] W fun e w' => AnsF W.heap.size R e w' ∧ Below W.heap.size W w') := fun a W h => HSp a W hle h
  have HI : Hid (∀ (a : Option Addr) (W : World), Lanes W a len0 l → Calls Try.prog 8 #[.agg #[.int .i64 c, .int .i64 i, .slice a len0 len0], .int .i64 id, .int .i64 n] W fun e w' => AnsF W.heap.size R e w' ∧ Below W.heap.size W w') := fun a W h => HIm a W hle h
  obtain ⟨⟨rc, ri, rl⟩, rb⟩ := R
  obtain ⟨m, hml⟩ : ∃ m, rl.length = m := ⟨_, rfl⟩
  have hmb : m ≤ 2097152 := by rw [← hml]; exact hm hle
  unfold AnsF at HP HI
  dsimp only at HP HI
  rw [hml] at HP HI
  clear hml hm HSp HIm
  have HQ0 : Hid (∀ W, Below x0.heap.size x0 W → Box3 W w.heap.size 24 (.int .i64 c) (.int .i64 i) (.slice a0 len0 cap0) ∧ Below w.heap.size w W ∧ Lanes W a0 len0 l) := fun W h => by
    have h1 : Below w.heap.size w W := HB1.out.trans (h.mono HB1.out.size)
    exact ⟨HF1.out.stays h, h1, HS.out.below h1⟩
  have HZ0 : Hid (w.heap.size < x0.heap.size) := HF1.out.lt
  clear HF1 HB1
  obtain ⟨c0, c1, c2⟩ := (HQ0.out _ (Below.refl _ _)).1.cells
  go_wp2_with fail
  refine (toFlow_any c i a0 len0 cap0 l x0 (HQ0.out _ (Below.refl _ _)).2.2 hle).mono ?_
  rintro e x1 ⟨g1, rfl, _, ho1, hb1⟩
  have HL1 : Hid (Lanes x1 (some ⟨g1, 0, none⟩) len0 l) := ho1.lanes
  have HB1 : Hid (Below x0.heap.size x0 x1) := hb1
  clear ho1 hb1 c0 c1 c2
  go_wp2_with fail
  refine (HP.out _ _ HL1.out).mono ?_
  rintro e x2 ⟨⟨wa, wk, rfl, ow2⟩, hb2⟩
  have HAw : Hid (FAt (x2.alloc (.cells #[.int .i64 rc, .int .i64 ri, .slice wa m wk] 28)) x1.heap.size (x2.heap.size + 1) x2.heap.size rc ri wa m wk rl) := FAt.new ow2 hb2.size
  have HB2 : Hid (Below x0.heap.size x0 (x2.alloc (.cells #[.int .i64 rc, .int .i64 ri, .slice wa m wk] 28))) := (HB1.out.trans (hb2.mono HB1.out.size)).alloc (HB1.out.trans (hb2.mono HB1.out.size)).size _
  have HZ1 : Hid (x0.heap.size ≤ x1.heap.size ∧ x1.heap.size ≤ x2.heap.size) := ⟨HB1.out.size, hb2.size⟩
  clear ow2 hb2 HL1 HB1 HP
  go_upto_region 6 with fail
  obtain ⟨w2, hw2⟩ : ∃ w2, x2.alloc (.cells #[.int .i64 rc, .int .i64 ri, .slice wa m wk] 28) = w2 := ⟨_, rfl⟩
  have HZ2 : Hid (w2.heap.size = x2.heap.size + 1) := by show _ = _; rw [← hw2]; simp
  rw [hw2] at HAw HB2 ⊢
  clear hw2
  obtain ⟨c0, c1, c2⟩ := (HQ0.out _ HB2.out).1.cells
  go_wp2_with fail
  refine (toFlow_any c i a0 len0 cap0 l w2 (HQ0.out _ HB2.out).2.2 hle).mono ?_
  rintro e x3 ⟨g3, rfl, _, ho3, hb3⟩
  have HAx : Hid (FAt (x3.alloc (.cells #[.int .i64 c, .int .i64 i, .slice (some ⟨g3, 0, none⟩) len0 len0] 28)) w2.heap.size (x3.heap.size + 1) x3.heap.size c i (some ⟨g3, 0, none⟩) len0 len0 l) := FAt.new ho3 hb3.size
  have HBa : Hid (Below w2.heap.size w2 (x3.alloc (.cells #[.int .i64 c, .int .i64 i, .slice (some ⟨g3, 0, none⟩) len0 len0] 28))) := hb3.alloc hb3.size _
  have HZ3 : Hid (w2.heap.size ≤ x3.heap.size) := hb3.size
  clear ho3 hb3 c0 c1 c2
  go_upto_region 7 with fail
  obtain ⟨w3, hw3⟩ : ∃ w3, x3.alloc (.cells #[.int .i64 c, .int .i64 i, .slice (some ⟨g3, 0, none⟩) len0 len0] 28) = w3 := ⟨_, rfl⟩
  have HZ4 : Hid (w3.heap.size = x3.heap.size + 1) := by show _ = _; rw [← hw3]; simp
  rw [hw3] at HAx HBa ⊢
  clear hw3
  have HAw3 : Hid (FAt w3 x1.heap.size (x2.heap.size + 1) x2.heap.size rc ri wa m wk rl) := HAw.out.stays HBa.out
  have HB3 : Hid (Below x0.heap.size x0 w3) := HB2.out.trans (HBa.out.mono HB2.out.size)
  clear HAw HB2 HBa
  obtain ⟨d0, d1, d2⟩ := HAx.out.1.cells
  go_wp2_with fail
  refine (HI.out _ _ HAx.out.2.1.lanes).mono ?_
  rintro e x4 ⟨⟨ga, gc, rfl, og4⟩, hb4⟩
  have HAg : Hid (FAt (x4.alloc (.cells #[.int .i64 rc, .int .i64 ri, .slice ga m gc] 28)) w3.heap.size (x4.heap.size + 1) x4.heap.size rc ri ga m gc rl) := FAt.new og4 hb4.size
  have HBa : Hid (Below w3.heap.size w3 (x4.alloc (.cells #[.int .i64 rc, .int .i64 ri, .slice ga m gc] 28))) := hb4.alloc hb4.size _
  have HZ5 : Hid (w3.heap.size ≤ x4.heap.size) := hb4.size
  clear og4 hb4 d0 d1 d2
  go_upto_region 8 with fail
  obtain ⟨w4, hw4⟩ : ∃ w4, x4.alloc (.cells #[.int .i64 rc, .int .i64 ri, .slice ga m gc] 28) = w4 := ⟨_, rfl⟩
  rw [hw4] at HAg HBa ⊢
  clear hw4
  have HU : Hid (∀ W, Below w4.heap.size w4 W → (Box3 W w.heap.size 24 (.int .i64 c) (.int .i64 i) (.slice a0 len0 cap0) ∧ Below w.heap.size w W ∧ Lanes W a0 len0 l) ∧ FAt W x1.heap.size (x2.heap.size + 1) x2.heap.size rc ri wa m wk rl ∧ FAt W w2.heap.size (x3.heap.size + 1) x3.heap.size c i (some ⟨g3, 0, none⟩) len0 len0 l ∧ FAt W w3.heap.size (x4.heap.size + 1) x4.heap.size rc ri ga m gc rl) := fun W h => by
    have h3 : Below w3.heap.size w3 W := HBa.out.trans (h.mono HBa.out.size)
    exact ⟨HQ0.out W (HB3.out.trans (h3.mono HB3.out.size)), HAw3.out.stays h3, HAx.out.stays h3, HAg.out.stays h⟩
  clear HAw3 HAx HAg HBa HB3 HQ0
  have hbb : (rb != rb) = false := by simp
  obtain ⟨c0, c1, c2⟩ := (HU.out _ (Below.refl _ _)).2.1.1.cells
  obtain ⟨d0, d1, d2⟩ := (HU.out _ (Below.refl _ _)).2.2.2.1.cells
  go_wp2_with fail
  refine (eqFlow_same rc ri ga wa m gc wk rl _ (HU.out _ (Below.refl _ _)).2.2.2.2.1.lanes (HU.out _ (Below.refl _ _)).2.1.2.1.lanes (by omega)).mono ?_
  rintro e x5 ⟨rfl, hb5⟩
  have HB5 : Hid (Below w4.heap.size w4 x5) := hb5
  clear hb5 c0 c1 c2 d0 d1 d2
  obtain ⟨c0, c1, c2⟩ := (HU.out _ HB5.out).1.1.cells
  obtain ⟨d0, d1, d2⟩ := (HU.out _ HB5.out).2.2.1.1.cells
  go_upto_region 10 with fail
  go_cut [53] from 18 (fun v W => v = .bool false ∧ Hid (Below w4.heap.size w4 W))
  case first =>
    go_region_with (first
      | (go_at_call 7; refine (toFlow_any c i a0 len0 cap0 l _ (HU.out _ HB5.out.drew).1.2.2 hle).mono ?_; rintro e y1 ⟨g6, rfl, hg6, ho6, hb6⟩; have hb6' : Below w4.heap.size w4 y1 := HB5.out.drew.trans (hb6.mono HB5.out.drew.size); obtain ⟨k0, k1, k2⟩ := (HU.out _ hb6').2.2.1.1.cells)
      | (go_at_call 9; refine (eqFlow_same c i _ _ len0 len0 len0 l _ (HU.out _ hb6').2.2.1.2.1.lanes ho6.lanes (by omega)).mono ?_; rintro e y2 ⟨rfl, hb7⟩)
      | fail)
    all_goals
      have HB9 : Hid (Below w4.heap.size w4 y2) := by
        show Below _ _ _
        first
          | exact hb6'.trans (hb7.mono hb6'.size)
          | exact hb6'.drew.trans (hb7.mono hb6'.size)
      clear hb7 hb6 hb6' ho6 hg6 k0 k1 k2
      go_wp2_with fail
      go_meet
      exact ⟨rfl, HB9⟩
  case rest =>
  obtain ⟨rfl, HBc⟩ := hcut
  clear c0 c1 c2 d0 d1 d2 HB5
  obtain ⟨x6, hx6⟩ : ∃ x6, wc = x6 := ⟨_, rfl⟩
  rw [hx6] at HBc ⊢
  clear hx6
  obtain ⟨u1, u2, u3, u4⟩ := HU.out _ HBc.out
  have HQ6 : Hid (Box3 x6 w.heap.size 24 (.int .i64 c) (.int .i64 i) (.slice a0 len0 cap0) ∧ Below w.heap.size w x6) := ⟨u1.1, u1.2.1⟩
  have HA6 : Hid (FAt x6 x1.heap.size (x2.heap.size + 1) x2.heap.size rc ri wa m wk rl) := u2
  have HX6 : Hid (FAt x6 w2.heap.size (x3.heap.size + 1) x3.heap.size c i (some ⟨g3, 0, none⟩) len0 len0 l) := u3
  have HG6 : Hid (FAt x6 w3.heap.size (x4.heap.size + 1) x4.heap.size rc ri ga m gc rl) := u4
  have HZ : Hid (w.heap.size < x0.heap.size ∧ x0.heap.size ≤ x1.heap.size ∧ x1.heap.size ≤ x2.heap.size ∧ w2.heap.size = x2.heap.size + 1 ∧ w2.heap.size ≤ x3.heap.size ∧ w3.heap.size = x3.heap.size + 1) := ⟨HZ0.out, HZ1.out.1, HZ1.out.2, HZ2.out, HZ3.out, HZ4.out⟩
  clear u1 u2 u3 u4 HU HBc HZ0 HZ1 HZ2 HZ3 HZ4 HZ5
  obtain ⟨d0, d1, d2⟩ := HX6.out.1.cells
  go_wp2_with fail
  refine (markFlow_any c i w2.heap.size (some ⟨g3, 0, none⟩) len0 len0 1 l _ HX6.out.2.1 (by omega) (by omega)).mono ?_
  rintro e x7 ⟨rfl, _, on7⟩
  have hgr : x6.grownBy x7 (some g3) := on7
  have hg3 := HX6.out.row g3 rfl
  have hz := HZ.out
  have HQ7 : Hid (Box3 x7 w.heap.size 24 (.int .i64 c) (.int .i64 i) (.slice a0 len0 cap0) ∧ Below w.heap.size w x7) := ⟨HQ6.out.1.grown hgr (fun e => by injection e with e; omega), HQ6.out.2.grown hgr HQ6.out.2.size (fun q e => by injection e with e; omega)⟩
  have HA7 : Hid (FAt x7 x1.heap.size (x2.heap.size + 1) x2.heap.size rc ri wa m wk rl) := HA6.out.kept hgr (fun q e => by injection e with e; omega)
  have HG7 : Hid (FAt x7 w3.heap.size (x4.heap.size + 1) x4.heap.size rc ri ga m gc rl) := HG6.out.kept hgr (fun q e => by injection e with e; omega)
  clear on7 hgr hg3 hz HQ6 HA6 HG6 HX6 d0 d1 d2
  generalize hq8 : ((1 + 2 * len0 : Nat) : Int) = q8
  have hq8p : ¬ q8 < 0 := by omega
  have hq8d : decide (q8 < 0) = false := by simp; omega
  clear hq8
  obtain ⟨c0, c1, c2⟩ := HA7.out.1.cells
  obtain ⟨d0, d1, d2⟩ := HG7.out.1.cells
  go_wp2_with fail
  refine (eqFlow_same rc ri ga wa m gc wk rl _ HG7.out.2.1.lanes HA7.out.2.1.lanes (by omega)).mono ?_
  rintro e x8 ⟨rfl, hb8⟩
  have HQ8 : Hid (Box3 x8 w.heap.size 24 (.int .i64 c) (.int .i64 i) (.slice a0 len0 cap0) ∧ Below w.heap.size w x8) := ⟨HQ7.out.1.stays hb8, HQ7.out.2.trans (hb8.mono HQ7.out.2.size)⟩
  have HA8 : Hid (FAt x8 x1.heap.size (x2.heap.size + 1) x2.heap.size rc ri wa m wk rl) := HA7.out.stays hb8
  have HG8 : Hid (FAt x8 w3.heap.size (x4.heap.size + 1) x4.heap.size rc ri ga m gc rl) := HG7.out.stays hb8
  clear hb8 HQ7 HA7 HG7 c0 c1 c2 d0 d1 d2 hq8p hq8d
  obtain ⟨d0, d1, d2⟩ := HG8.out.1.cells
  go_wp2_with fail
  refine (markFlow_any rc ri w3.heap.size ga m gc 1 rl _ HG8.out.2.1 (by omega) (by omega)).mono ?_
  rintro e x9 ⟨rfl, om9, on9⟩
  have hgr : x8.grownBy x9 (ga.map (·.block)) := on9
  have hrow := HG8.out.row
  have hz := HZ.out
  have HQ9 : Hid (Box3 x9 w.heap.size 24 (.int .i64 c) (.int .i64 i) (.slice a0 len0 cap0) ∧ Below w.heap.size w x9) := ⟨HQ8.out.1.grown hgr (fun e => by have := hrow _ e; omega), HQ8.out.2.grown hgr HQ8.out.2.size (fun q e => by have := hrow _ e; omega)⟩
  have HA9 : Hid (FAt x9 x1.heap.size (x2.heap.size + 1) x2.heap.size rc ri wa m wk rl) := HA8.out.kept hgr (fun q e => by have := hrow _ e; omega)
  have HG9 : Hid (FAt x9 w3.heap.size (x4.heap.size + 1) x4.heap.size rc ri ga m gc (marksL 1 m)) := HG8.out.marked om9 on9
  clear om9 on9 hgr hrow hz HQ8 HA8 HG8 d0 d1 d2
  have HHG : Hid (∀ W : World, OwnL W w3.heap.size ga m gc (marksL 1 m) → Calls Try.prog 11 #[.agg #[.int .i64 rc, .int .i64 ri, .slice ga m gc], .int .i64 1] W fun e w' => e = .returned (.int .i64 ((1 + 2 * m : Nat) : Int)) ∧ Below W.heap.size W w') := fun W h => heldFlow_any rc ri w3.heap.size ga m gc 1 W h (by omega) (by omega)
  generalize hq10 : ((1 + 2 * m : Nat) : Int) = q10 at *
  have hq10p : ¬ q10 < 0 := by omega
  have hq10d : decide (q10 < 0) = false := by simp; omega
  have hq10e : (q10 != q10) = false := by simp
  clear hq10
  obtain ⟨d0, d1, d2⟩ := HG9.out.1.cells
  go_wp2_with fail
  refine (HHG.out _ HG9.out.2.1).mono ?_
  rintro e x10 ⟨rfl, hb10⟩
  have HQ10 : Hid (Box3 x10 w.heap.size 24 (.int .i64 c) (.int .i64 i) (.slice a0 len0 cap0) ∧ Below w.heap.size w x10) := ⟨HQ9.out.1.stays hb10, HQ9.out.2.trans (hb10.mono HQ9.out.2.size)⟩
  have HA10 : Hid (FAt x10 x1.heap.size (x2.heap.size + 1) x2.heap.size rc ri wa m wk rl) := HA9.out.stays hb10
  have HG10 : Hid (FAt x10 w3.heap.size (x4.heap.size + 1) x4.heap.size rc ri ga m gc (marksL 1 m)) := HG9.out.stays hb10
  clear hb10 HQ9 HA9 HG9 d0 d1 d2
  obtain ⟨c0, c1, c2⟩ := HQ10.out.1.cells
  go_wp2_with fail
  refine (toFlow_any c i a0 len0 cap0 l x10 (HS.out.below HQ10.out.2) hle).mono ?_
  rintro e x11 ⟨g11, rfl, _, ho11, hb11⟩
  have HL11 : Hid (Lanes x11 (some ⟨g11, 0, none⟩) len0 l) := ho11.lanes
  have HB11 : Hid (Below x10.heap.size x10 x11) := hb11
  clear ho11 hb11 c0 c1 c2
  go_wp2_with fail
  refine (HI.out _ _ HL11.out).mono ?_
  rintro e x12 ⟨⟨ha, hc, rfl, oh12⟩, hb12⟩
  have HAh : Hid (FAt (x12.alloc (.cells #[.int .i64 rc, .int .i64 ri, .slice ha m hc] 28)) x11.heap.size (x12.heap.size + 1) x12.heap.size rc ri ha m hc rl) := FAt.new oh12 hb12.size
  have HB12 : Hid (Below x10.heap.size x10 (x12.alloc (.cells #[.int .i64 rc, .int .i64 ri, .slice ha m hc] 28))) := (HB11.out.trans (hb12.mono HB11.out.size)).alloc (HB11.out.trans (hb12.mono HB11.out.size)).size _
  clear oh12 hb12 HL11 HB11 HI
  go_upto_region 25 with fail
  obtain ⟨w12, hw12⟩ : ∃ w12, x12.alloc (.cells #[.int .i64 rc, .int .i64 ri, .slice ha m hc] 28) = w12 := ⟨_, rfl⟩
  rw [hw12] at HAh HB12 ⊢
  clear hw12
  obtain ⟨c0, c1, c2⟩ := (HA10.out.stays HB12.out).1.cells
  obtain ⟨d0, d1, d2⟩ := HAh.out.1.cells
  go_wp2_with fail
  refine (eqFlow_same rc ri ha wa m hc wk rl _ HAh.out.2.1.lanes (HA10.out.stays HB12.out).2.1.lanes (by omega)).mono ?_
  rintro e x13 ⟨rfl, hb13⟩
  have HB13 : Hid (Below x10.heap.size x10 x13) := HB12.out.trans (hb13.mono HB12.out.size)
  clear hb13 c0 c1 c2 d0 d1 d2 HAh HB12
  have HG13 : Hid (FAt x13 w3.heap.size (x4.heap.size + 1) x4.heap.size rc ri ga m gc (marksL 1 m)) := HG10.out.stays HB13.out
  obtain ⟨d0, d1, d2⟩ := HG13.out.1.cells
  go_wp2_with fail
  refine (HHG.out _ HG13.out.2.1).mono ?_
  rintro e x14 ⟨rfl, hb14⟩
  have HE : Hid (Below w.heap.size w x14) := by
    have h1 : Below w.heap.size w x13 := HQ10.out.2.trans (HB13.out.mono HQ10.out.2.size)
    exact h1.trans (hb14.mono h1.size)
  clear hb14 d0 d1 d2
  go_wp2_with fail
  go_ret
  exact ⟨rfl, HE.out⟩

end Go.Proofs.Ytkicfiacnpifkaq
