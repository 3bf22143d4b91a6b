/- The walk of the law that ScanRecs answers as the specification's; under contracts of both functions. What the test of a range answers. -/
import Derived.Test.YtenkpgnkkkgdmasDoorM06
import Derived.Test.YtenkpgnkkkgdmasDoorM08
import Derived.Test.YtenkpgnkkkgdmasDoorM09
import Derived.Test.YtenkpgnkkkgdmasDoorM10
import Derived.Test.YtenkpgnkkkgdmasDoorM10
import Derived.Test.YtenkpgnkkkgdmasDoorM11
import Derived.Deep.RegionHeld3
import Derived.Test.YtenkpgnkkkgdmasDoorM01
namespace Go.Proofs.YtenkpgnkkkgdmasDoor
open Go.RowKit
set_option linter.unusedVariables false

set_option maxRecDepth 10000 in
set_option maxHeartbeats 3200000 in
theorem scanWalk (a0 : Option Addr) (n ca : Nat) (xs : List ByteArray) (a0' : Option Addr) (n' ca' : Nat) (ys : List ByteArray) (L : List R) (w : World) (hl : n ≤ maxLen) (hl' : n' ≤ maxLen) (h1 : Strs w a0 n xs) (h2 : Strs w a0' n' ys)
    (hLn : L.length ≤ n) (hLz : ∀ r ∈ L, r.zs.length ≤ 24)
    (HSp : ∀ (a a' : Option Addr) (W : World), n ≤ 1048576 → n' ≤ 1048576 → (∀ x ∈ xs, x.size ≤ 1048576) → Strs W a n xs → Strs W a' n' ys → Calls Tryd.prog 19 #[.agg #[.slice a n n, .slice a' n' n']] W fun e w' => (∃ v l, e = .returned v ∧ RcRow w' W.heap.size v l ∧ l.map RE.r = L) ∧ Below W.heap.size W w')
    (HIm : ∀ (a a' : Option Addr) (W : World), Below w.heap.size w W → n ≤ 1048576 → n' ≤ 1048576 → (∀ x ∈ xs, x.size ≤ 1048576) → Strs W a n xs → Strs W a' n' ys → Calls Tryd.prog 21 #[.agg #[.slice a n n, .slice a' n' n']] W fun e w' => (∃ v l, e = .returned v ∧ RcRow w' W.heap.size v l ∧ l.map RE.r = L) ∧ Below W.heap.size W w') :
    Calls Tryd.prog 6 #[.agg #[.slice a0 n ca, .slice a0' n' ca']] w fun e w' => e = .returned (.bool true) ∧ Below w.heap.size w w' := by
  have HS : Hid (∀ W, Below w.heap.size w W → Strs W a0 n xs ∧ Strs W a0' n' ys) := fun W h => ⟨h1.below h, h2.below h⟩
  clear h1 h2
  have HB0 : Hid (Below w.heap.size w (w.alloc (.cells #[.slice a0 n ca, .slice a0' n' ca'] 38))) := (Below.refl _ _).alloc (Nat.le_refl _) _
  go_enter Tryd.func6, Tryd.ntmps6
  go_wp2_with fail
  refine (szDisk_any a0 n ca xs a0' n' ca' ys 1048576 _ (HS.out _ HB0.out).1 (HS.out _ HB0.out).2 (by omega) (by omega) hl hl').mono ?_
  rintro e x0 ⟨⟨left0, rfl, hv1, hv⟩, hb0⟩
  have HB1 : Hid (Below w.heap.size w x0) := HB0.out.trans (hb0.mono HB0.out.size)
  have HF1 : Hid (Box2R x0 w.heap.size 38 (.slice a0 n ca) (.slice a0' n' ca')) := (Box2R.new _ _ _ _).stays hb0
  clear hb0 HB0
  by_cases hnn : left0 < 0
  · go_wp2_with fail
    go_ret
    exact ⟨rfl, HB1.out⟩
  have hle : n ≤ 1048576 := by have := hv (by omega); omega
  have hle' : n' ≤ 1048576 := by have := hv (by omega); omega
  have HSz : Hid (∀ x ∈ xs, x.size ≤ 1048576) := fun x hx => by have := hv (by omega); have := strBytes_mem xs x hx; omega
  clear hv hv1
  have HP : Hid (∀ (a a' : Option Addr) (W : World), Strs W a n xs → Strs W a' n' ys → Calls Tryd.prog 19 #[.agg #[.slice a n n, .slice a' n' n']] W fun e w' => (∃ v l, e = .returned v ∧ RcRow w' W.heap.size v l ∧ l.map RE.r = L) ∧ Below W.heap.size W w') := fun a a' W h h' => HSp a a' W hle hle' HSz.out h h'
  have HI : Hid (∀ (a a' : Option Addr) (W : World), Below w.heap.size w W → Strs W a n xs → Strs W a' n' ys → Calls Tryd.prog 21 #[.agg #[.slice a n n, .slice a' n' n']] W fun e w' => (∃ v l, e = .returned v ∧ RcRow w' W.heap.size v l ∧ l.map RE.r = L) ∧ Below W.heap.size W w') := fun a a' W hb h h' => HIm a a' W hb hle hle' HSz.out h h'
  obtain ⟨M, hM⟩ : ∃ M, L.length = M := ⟨_, rfl⟩
  have HM : Hid (∀ l : List RE, l.map RE.r = L → l.length = M) := fun l h => by rw [← hM, ← h, List.length_map]
  have hMb : M ≤ 1048576 := by omega
  have HLz : Hid (∀ r ∈ L, r.zs.length ≤ 24) := hLz
  clear hM HSp HIm hLz hLn
  have HQ0 : Hid (∀ W, Below x0.heap.size x0 W → Box2R W w.heap.size 38 (.slice a0 n ca) (.slice a0' n' ca') ∧ Below w.heap.size w W ∧ Strs W a0 n xs ∧ Strs W a0' n' ys) := fun W h => by
    have h1 : Below w.heap.size w W := HB1.out.trans (h.mono HB1.out.size)
    exact ⟨HF1.out.stays h, h1, HS.out _ h1⟩
  have HZ0 : Hid (w.heap.size < x0.heap.size) := HF1.out.lt
  clear HF1 HB1
  obtain ⟨c0, c1⟩ := (HQ0.out _ (Below.refl _ _)).1.cells
  go_wp2_with fail
  refine (toDisk_any a0 n ca xs a0' n' ca' ys x0 (HQ0.out _ (Below.refl _ _)).2.2.1 (HQ0.out _ (Below.refl _ _)).2.2.2 hle hle').mono ?_
  rintro e x1 ⟨g1, g1', rfl, _, ho1, ho1', hb1⟩
  have HL1 : Hid (Strs x1 (some ⟨g1, 0, none⟩) n xs ∧ Strs x1 (some ⟨g1', 0, none⟩) n' ys) := ⟨ho1.strs, ho1'.strs⟩
  have HB1 : Hid (Below x0.heap.size x0 x1) := hb1
  clear ho1 ho1' hb1 c0 c1
  go_wp2_with fail
  refine (HP.out _ _ _ HL1.out.1 HL1.out.2).mono ?_
  rintro e w2 ⟨⟨v, lw, rfl, hrw, hlw⟩, hb2⟩
  obtain ⟨wa, wc, rfl⟩ := hrw.shape
  rw [HM.out lw hlw] at hrw ⊢
  have HAw : Hid (RAt w2 x1.heap.size w2.heap.size (.slice wa M wc) lw) := RAt.new hrw
  have HLw : Hid (lw.map RE.r = L) := hlw
  have HB2 : Hid (Below x0.heap.size x0 w2) := HB1.out.trans (hb2.mono HB1.out.size)
  have HZ1 : Hid (x0.heap.size ≤ x1.heap.size ∧ x1.heap.size ≤ w2.heap.size) := ⟨HB1.out.size, hb2.size⟩
  clear hrw hlw hb2 HL1 HB1 HP
  obtain ⟨c0, c1⟩ := (HQ0.out _ HB2.out).1.cells
  go_wp2_with fail
  refine (toDisk_any a0 n ca xs a0' n' ca' ys w2 (HQ0.out _ HB2.out).2.2.1 (HQ0.out _ HB2.out).2.2.2 hle hle').mono ?_
  rintro e x3 ⟨g3, g3', rfl, hg33, ho3, ho3', hb3⟩
  have HAx : Hid (DAt (x3.alloc (.cells #[.slice (some ⟨g3, 0, none⟩) n n, .slice (some ⟨g3', 0, none⟩) n' n'] 42)) w2.heap.size x3.heap.size (some ⟨g3, 0, none⟩) n n xs (some ⟨g3', 0, none⟩) n' n' ys) := DAt.new ho3 ho3' (fun q e e2 => hg33 (by simp at e e2; omega)) hb3.size
  have HBa : Hid (Below w2.heap.size w2 (x3.alloc (.cells #[.slice (some ⟨g3, 0, none⟩) n n, .slice (some ⟨g3', 0, none⟩) n' n'] 42))) := hb3.alloc hb3.size _
  have HZ3 : Hid (w2.heap.size ≤ x3.heap.size) := hb3.size
  have HZ4 : Hid ((x3.alloc (.cells #[.slice (some ⟨g3, 0, none⟩) n n, .slice (some ⟨g3', 0, none⟩) n' n'] 42)).heap.size = x3.heap.size + 1) := by show _ = _; simp
  clear ho3 ho3' hb3 c0 c1
  obtain ⟨d0, d1⟩ := HAx.out.1.cells
  go_wp2_with fail
  obtain ⟨w3, hw3⟩ : ∃ w3, x3.alloc (.cells #[.slice (some ⟨g3, 0, none⟩) n n, .slice (some ⟨g3', 0, none⟩) n' n'] 42) = w3 := ⟨_, rfl⟩
  rw [hw3] at HAx HBa HZ4 ⊢
  clear hw3 d0 d1
  generalize x3.heap.size = bx at *
  have HAw3 : Hid (RAt w3 x1.heap.size w2.heap.size (.slice wa M wc) lw) := HAw.out.stays HBa.out
  have HB3 : Hid (Below x0.heap.size x0 w3) := HB2.out.trans (HBa.out.mono HB2.out.size)
  clear HAw HB2 HBa
  refine (HI.out _ _ _ (HQ0.out _ HB3.out).2.1 HAx.out.2.1.strs HAx.out.2.2.1.strs).mono ?_
  rintro e w4 ⟨⟨v, lg, rfl, hrg, hlg⟩, hb4⟩
  obtain ⟨ga, gc, rfl⟩ := hrg.shape
  rw [HM.out lg hlg] at hrg ⊢
  have HAg : Hid (RAt w4 w3.heap.size w4.heap.size (.slice ga M gc) lg) := RAt.new hrg
  have HLg : Hid (lg.map RE.r = L) := hlg
  have HU : Hid (∀ W, Below w4.heap.size w4 W → (Box2R W w.heap.size 38 (.slice a0 n ca) (.slice a0' n' ca') ∧ Below w.heap.size w W ∧ Strs W a0 n xs ∧ Strs W a0' n' ys) ∧ RAt W x1.heap.size w2.heap.size (.slice wa M wc) lw ∧ DAt W w2.heap.size bx (some ⟨g3, 0, none⟩) n n xs (some ⟨g3', 0, none⟩) n' n' ys ∧ RAt W w3.heap.size w4.heap.size (.slice ga M gc) lg) := fun W h => by
    have h3 : Below w3.heap.size w3 W := hb4.trans (h.mono hb4.size)
    exact ⟨HQ0.out W (HB3.out.trans (h3.mono HB3.out.size)), HAw3.out.stays h3, HAx.out.stays h3, HAg.out.stays h⟩
  have HZ5 : Hid (w3.heap.size ≤ w4.heap.size) := hb4.size
  clear hrg hlg hb4 HAw3 HAx HAg HB3 HQ0
  have HLL : Hid (lg.map RE.r = lw.map RE.r) := HLg.out.trans HLw.out.symm
  have HEq : Hid (∀ W, RcRow W w3.heap.size (.slice ga M gc) lg → RcRow W x1.heap.size (.slice wa M wc) lw → Calls Tryd.prog 22 #[.slice ga M gc, .slice wa M wc] W fun e w' => e = .returned (.bool true) ∧ Below W.heap.size W w') := fun W h1 h2 => eqRecS_same ga wa M gc wc _ _ lg lw W h1 h2 (HM.out lg HLg.out) (HM.out lw HLw.out) HLL.out (fun e he => by have := rows_short h1 HLg.out HLz.out e he; omega) (by omega)
  go_wp2_with fail
  refine (HEq.out _ (HU.out _ (Below.refl _ _)).2.2.2.1 (HU.out _ (Below.refl _ _)).2.1.1).mono ?_
  rintro e x5 ⟨rfl, hb5⟩
  have HB5 : Hid (Below w4.heap.size w4 x5) := hb5
  clear hb5
  obtain ⟨c0, c1⟩ := (HU.out _ HB5.out).1.1.cells
  obtain ⟨d0, d1⟩ := (HU.out _ HB5.out).2.2.1.1.cells
  go_wp2_with fail
  go_region_held3 (fun W => W.cell? ⟨w.heap.size, 0, none⟩ = some (.slice a0 n ca) ∧ W.cell? ⟨w.heap.size, 1, none⟩ = some (.slice a0' n' ca') ∧ W.cell? ⟨bx, 0, none⟩ = some (.slice (some ⟨g3, 0, none⟩) n n) ∧ W.cell? ⟨bx, 1, none⟩ = some (.slice (some ⟨g3', 0, none⟩) n' n')) (first | (refine ⟨?_, ?_, ?_, ?_⟩ <;> assumption) | go_keep) (first
    | (go_at_call 20; refine (toDisk_any a0 n ca xs a0' n' ca' ys _ (HU.out _ HB5.out.drew).1.2.2.1 (HU.out _ HB5.out.drew).1.2.2.2 hle hle').mono ?_; rintro e y1 ⟨g6, g6', rfl, _, ho6, ho6', hb6⟩; have hb6' : Below w4.heap.size w4 y1 := HB5.out.drew.trans (hb6.mono HB5.out.drew.size); obtain ⟨k0, k1⟩ := (HU.out _ hb6').2.2.1.1.cells; obtain ⟨j0, j1⟩ := (HU.out _ hb6').1.1.cells)
    | (go_at_call 23; refine (eqDisk_same _ _ n n n xs _ _ n' n' n' ys _ (HU.out _ hb6').2.2.1.2.1.strs ho6.strs (HU.out _ hb6').2.2.1.2.2.1.strs ho6'.strs (by omega) (by omega)).mono ?_; rintro e y2 ⟨rfl, hb7⟩; have hb7' : Below w4.heap.size w4 y2 := hb6'.trans (hb7.mono hb6'.size); obtain ⟨l0, l1⟩ := (HU.out _ hb7').2.2.1.1.cells; obtain ⟨m0, m1⟩ := (HU.out _ hb7').1.1.cells)
    | fail)
  have HBc : Hid (Below w4.heap.size w4 y2) := hb7'
  clear hb7 hb7' hb6 hb6' ho6 ho6' k0 k1 j0 j1 l0 l1 m0 m1 c0 c1 d0 d1 HB5
  obtain ⟨u1, u2, u3, u4⟩ := HU.out _ HBc.out
  have HQ6 : Hid (Box2R y2 w.heap.size 38 (.slice a0 n ca) (.slice a0' n' ca') ∧ Below w.heap.size w y2) := ⟨u1.1, u1.2.1⟩
  have HA6 : Hid (RAt y2 x1.heap.size w2.heap.size (.slice wa M wc) lw) := u2
  have HX6 : Hid (DAt y2 w2.heap.size bx (some ⟨g3, 0, none⟩) n n xs (some ⟨g3', 0, none⟩) n' n' ys) := u3
  have HG6 : Hid (RAt y2 w3.heap.size w4.heap.size (.slice ga M gc) lg) := u4
  have HZ : Hid (w.heap.size < x0.heap.size ∧ x0.heap.size ≤ x1.heap.size ∧ x1.heap.size ≤ w2.heap.size ∧ w2.heap.size ≤ bx ∧ w3.heap.size = bx + 1 ∧ w3.heap.size ≤ w4.heap.size) := ⟨HZ0.out, HZ1.out.1, HZ1.out.2, HZ3.out, HZ4.out, HZ5.out⟩
  have HS6 : Hid (w3.heap.size ≤ y2.heap.size) := Nat.le_trans HZ5.out HBc.out.size
  clear u1 u2 u3 u4 HU HBc HZ0 HZ1 HZ3 HZ4 HZ5
  obtain ⟨d0, d1⟩ := HX6.out.1.cells
  go_wp2_with fail
  refine (markDisk_any w2.heap.size (some ⟨g3, 0, none⟩) n n xs (some ⟨g3', 0, none⟩) n' n' ys 1 _ HX6.out.2.1 HX6.out.2.2.1 HX6.out.2.2.2.2.2.2 (by omega) (by omega) (by omega)).mono ?_
  rintro e x7 ⟨rfl, _, _, hgr⟩
  obtain ⟨hr1, hr2⟩ := HX6.out.row
  have hz := HZ.out
  have HQ7 : Hid (Box2R x7 w.heap.size 38 (.slice a0 n ca) (.slice a0' n' ca') ∧ Below w.heap.size w x7) := ⟨box_kept2 HQ6.out.1 hgr (fun e => by have := hr1 _ e; omega) (fun e => by have := hr2 _ e; omega), below_two HQ6.out.2 HQ6.out.2.size hgr (fun q e => by have := hr1 _ e; omega) (fun q e => by have := hr2 _ e; omega)⟩
  have HA7 : Hid (RAt x7 x1.heap.size w2.heap.size (.slice wa M wc) lw) := HA6.out.kept2 hgr (fun q e => by have := hr1 _ e; omega) (fun q e => by have := hr2 _ e; omega)
  have HG7 : Hid (RAt x7 w3.heap.size w4.heap.size (.slice ga M gc) lg) := HG6.out.kept2 hgr (fun q e => by have := hr1 _ e; omega) (fun q e => by have := hr2 _ e; omega)
  have HS7 : Hid (w3.heap.size ≤ x7.heap.size) := by
    obtain ⟨v1, k1, k2⟩ := hgr
    exact Nat.le_trans HS6.out (Nat.le_trans k1.size k2.size)
  clear hgr hr1 hr2 hz HQ6 HA6 HG6 HX6 d0 d1
  generalize hq8 : ((1 + n + n' : Nat) : Int) = q8
  have hq8p : ¬ q8 < 0 := by omega
  have hq8d : decide (q8 < 0) = false := by simp; omega
  clear hq8
  go_wp2_with fail
  refine (HEq.out _ HG7.out.1 HA7.out.1).mono ?_
  rintro e x8 ⟨rfl, hb8⟩
  have HQ8 : Hid (Box2R x8 w.heap.size 38 (.slice a0 n ca) (.slice a0' n' ca') ∧ Below w.heap.size w x8) := ⟨HQ7.out.1.stays hb8, HQ7.out.2.trans (hb8.mono HQ7.out.2.size)⟩
  have HA8 : Hid (RAt x8 x1.heap.size w2.heap.size (.slice wa M wc) lw) := HA7.out.stays hb8
  have HG8 : Hid (RAt x8 w3.heap.size w4.heap.size (.slice ga M gc) lg) := HG7.out.stays hb8
  have HS8 : Hid (w3.heap.size ≤ x8.heap.size) := Nat.le_trans HS7.out hb8.size
  clear hb8 HQ7 HA7 HG7 hq8p hq8d
  go_wp2_with fail
  have HEb : Hid (mkREnd 1 lg ≤ 2199023255552) := by
    have h1 := mkREnd_le 1 lg (rows_short HG8.out.1 HLg.out HLz.out)
    rw [HM.out lg HLg.out] at h1
    exact Nat.le_trans h1 (by omega)
  refine (markRcS_any w3.heap.size ga M gc 1 lg x8 HG8.out.1 (HM.out lg HLg.out) HEb.out (by omega) HS8.out).mono ?_
  rintro e x9 ⟨rfl, hm9, hbw9⟩
  have hz := HZ.out
  have HQ9 : Hid (Box2R x9 w.heap.size 38 (.slice a0 n ca) (.slice a0' n' ca') ∧ Below w.heap.size w x9) := ⟨box_under HQ8.out.1 hbw9 (by omega), HQ8.out.2.trans (hbw9.mono (by omega))⟩
  have HA9 : Hid (RAt x9 x1.heap.size w2.heap.size (.slice wa M wc) lw) := HA8.out.under hbw9 (by omega)
  have HG9 : Hid (RcRow x9 w3.heap.size (.slice ga M gc) (mkRc 1 lg)) := hm9
  clear hm9 hbw9 hz HQ8 HA8 HG8
  have HHG : Hid (∀ W : World, RcRow W w3.heap.size (.slice ga M gc) (mkRc 1 lg) → Calls Tryd.prog 26 #[.slice ga M gc, .int .i64 1] W fun e w' => e = .returned (.int .i64 (mkREnd 1 lg : Int)) ∧ Below W.heap.size W w') := fun W h => heldRcS_any w3.heap.size ga M gc 1 lg W h (HM.out lg HLg.out) HEb.out (by omega)
  generalize hq10 : (mkREnd 1 lg : Int) = q10 at *
  have hq10p : ¬ q10 < 0 := by omega
  have hq10d : decide (q10 < 0) = false := by simp; omega
  have hq10e : (q10 != q10) = false := by simp
  clear hq10
  go_wp2_with fail
  refine (HHG.out _ HG9.out).mono ?_
  rintro e x10 ⟨rfl, hb10⟩
  have HQ10 : Hid (Box2R x10 w.heap.size 38 (.slice a0 n ca) (.slice a0' n' ca') ∧ Below w.heap.size w x10) := ⟨HQ9.out.1.stays hb10, HQ9.out.2.trans (hb10.mono HQ9.out.2.size)⟩
  have HA10 : Hid (RAt x10 x1.heap.size w2.heap.size (.slice wa M wc) lw) := HA9.out.stays hb10
  have HG10 : Hid (RcRow x10 w3.heap.size (.slice ga M gc) (mkRc 1 lg)) := HG9.out.stays hb10
  clear hb10 HQ9 HA9 HG9
  obtain ⟨c0, c1⟩ := HQ10.out.1.cells
  go_wp2_with fail
  refine (toDisk_any a0 n ca xs a0' n' ca' ys x10 (HS.out _ HQ10.out.2).1 (HS.out _ HQ10.out.2).2 hle hle').mono ?_
  rintro e x11 ⟨g7, g7', rfl, _, ho7, ho7', hb11⟩
  have HL11 : Hid (Strs x11 (some ⟨g7, 0, none⟩) n xs ∧ Strs x11 (some ⟨g7', 0, none⟩) n' ys) := ⟨ho7.strs, ho7'.strs⟩
  have HB11 : Hid (Below w.heap.size w x11) := HQ10.out.2.trans (hb11.mono HQ10.out.2.size)
  have HA11 : Hid (RAt x11 x1.heap.size w2.heap.size (.slice wa M wc) lw) := HA10.out.stays hb11
  have HG11 : Hid (RcRow x11 w3.heap.size (.slice ga M gc) (mkRc 1 lg)) := HG10.out.stays hb11
  clear ho7 ho7' hb11 HQ10 HA10 HG10 c0 c1
  go_wp2_with fail
  refine (HI.out _ _ _ HB11.out HL11.out.1 HL11.out.2).mono ?_
  rintro e x12 ⟨⟨v, lh, rfl, hrh, hlh⟩, hb12⟩
  obtain ⟨ha, hc, rfl⟩ := hrh.shape
  rw [HM.out lh hlh] at hrh ⊢
  have HH12 : Hid (RcRow x12 x11.heap.size (.slice ha M hc) lh) := hrh
  have HLh : Hid (lh.map RE.r = L) := hlh
  have HB12 : Hid (Below w.heap.size w x12) := HB11.out.trans (hb12.mono HB11.out.size)
  have HA12 : Hid (RAt x12 x1.heap.size w2.heap.size (.slice wa M wc) lw) := HA11.out.stays hb12
  have HG12 : Hid (RcRow x12 w3.heap.size (.slice ga M gc) (mkRc 1 lg)) := HG11.out.stays hb12
  clear hrh hlh hb12 HB11 HA11 HG11 HL11 HI
  go_wp2_with fail
  refine (eqRecS_same ha wa M hc wc _ _ lh lw x12 HH12.out HA12.out.1 (HM.out lh HLh.out) (HM.out lw HLw.out) (HLh.out.trans HLw.out.symm) (fun e he => by have := rows_short HH12.out HLh.out HLz.out e he; omega) (by omega)).mono ?_
  rintro e x13 ⟨rfl, hb13⟩
  have HB13 : Hid (Below w.heap.size w x13) := HB12.out.trans (hb13.mono HB12.out.size)
  have HG13 : Hid (RcRow x13 w3.heap.size (.slice ga M gc) (mkRc 1 lg)) := HG12.out.stays hb13
  clear hb13 HH12 HA12 HG12 HB12
  go_wp2_with fail
  refine (HHG.out _ HG13.out).mono ?_
  rintro e x14 ⟨rfl, hb14⟩
  have HB14 : Hid (Below w.heap.size w x14) := HB13.out.trans (hb14.mono HB13.out.size)
  clear hb14 HG13 HB13
  go_wp2_with fail
  go_ret
  exact ⟨rfl, HB14.out⟩

end Go.Proofs.YtenkpgnkkkgdmasDoor

namespace Go.Proofs.YtenkpgnkkkgdmasDoor
open Go.RowKit
set_option linter.unusedVariables false

set_option maxHeartbeats 400000 in
theorem l1In_yes (x lo hi : Int) (w : World) (h1 : lo ≤ x) (h2 : x ≤ hi) : Calls Tryd.prog 28 #[.int .i64 x, .int .i64 lo, .int .i64 hi] w fun e w' => e = .returned (.bool true) ∧ w' = w := by
  go_enter Tryd.func28, Tryd.ntmps28
  go_wp2
  go_ret
  exact ⟨rfl, rfl⟩

set_option maxHeartbeats 400000 in
theorem l1In_no (x lo hi : Int) (w : World) (h : x < lo ∨ hi < x) : Calls Tryd.prog 28 #[.int .i64 x, .int .i64 lo, .int .i64 hi] w fun e w' => e = .returned (.bool false) ∧ w' = w := by
  by_cases h1 : x < lo
  · clear h
    go_enter Tryd.func28, Tryd.ntmps28
    go_wp2
    go_ret
    exact ⟨rfl, rfl⟩
  · have h2 : hi < x := by omega
    clear h
    go_enter Tryd.func28, Tryd.ntmps28
    go_wp2
    go_ret
    exact ⟨ret_bool (by simp; omega), rfl⟩

theorem l1In_any (x lo hi : Int) (w : World) : Calls Tryd.prog 28 #[.int .i64 x, .int .i64 lo, .int .i64 hi] w fun e w' => e = .returned (.bool (decide (lo ≤ x ∧ x ≤ hi))) ∧ w' = w := by
  by_cases h : lo ≤ x ∧ x ≤ hi
  · rw [decide_eq_true h]
    exact l1In_yes x lo hi w h.1 h.2
  · rw [decide_eq_false h]
    exact l1In_no x lo hi w (by omega)

end Go.Proofs.YtenkpgnkkkgdmasDoor
