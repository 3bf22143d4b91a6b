/- The walk of the law that PutSector answers as the specification's; under contracts of both functions. -/
import Derived.Test.YtnbmlkkjgecigarDskAt
import Derived.Deep.RegionHeld3
namespace Go.Proofs.Ytnbmlkkjgecigar
open Go.RowKit
set_option linter.unusedVariables false

set_option maxRecDepth 10000 in
set_option maxHeartbeats 6400000 in
theorem putWalk (a0 : Option Addr) (n ca : Nat) (xs : List ByteArray) (a0' : Option Addr) (n' ca' : Nat) (ys : List ByteArray) (i : Int) (s : ByteArray) (RX RY : List ByteArray) (rb : Bool) (w : World) (hl : n ≤ maxLen) (hl' : n' ≤ maxLen) (h1 : Strs w a0 n xs) (h2 : Strs w a0' n' ys) (hs : s.size ≤ maxLen)
    (hm : n ≤ 1048576 → n' ≤ 1048576 → RX.length ≤ 2097152 ∧ RY.length ≤ 2097152)
    (HSp : ∀ (a a' : Option Addr) (W : World), n ≤ 1048576 → n' ≤ 1048576 → Strs W a n xs → Strs W a' n' ys → Calls Try.prog 18 #[.agg #[.slice a n n, .slice a' n' n'], .int .i64 i, .string s] W fun e w' => (∃ v, e = .returned (.tuple #[v, .bool rb]) ∧ AnsD W.heap.size RX RY v w') ∧ Below W.heap.size W w')
    (HIm : ∀ (a a' : Option Addr) (W : World), n ≤ 1048576 → n' ≤ 1048576 → Strs W a n xs → Strs W a' n' ys → Calls Try.prog 19 #[.agg #[.slice a n n, .slice a' n' n'], .int .i64 i, .string s] W fun e w' => (∃ v, e = .returned (.tuple #[v, .bool rb]) ∧ AnsD W.heap.size RX RY v w') ∧ Below W.heap.size W w') :
    Calls Try.prog 6 #[.agg #[.slice a0 n ca, .slice a0' n' ca'], .int .i64 i, .string s] w fun e w' => e = .returned (.bool true) ∧ Below w.heap.size w w' := by
  by_cases hsb : 1048576 < s.size
  · have HB0 : Hid (Below w.heap.size w (w.alloc (.cells #[.slice a0 n ca, .slice a0' n' ca'] 29))) := (Below.refl _ _).alloc (Nat.le_refl _) _
    have hmm : maxLen < 9223372036854775808 := by decide
    have hsi : (1048576 : Int) < (s.size : Int) := by omega
    go_enter Try.func6, Try.ntmps6
    go_wp2_with fail
    go_ret
    exact ⟨rfl, HB0.out⟩
  have hsl : ¬ (1048576 : Int) < (s.size : Int) := by omega
  have HS : Hid (∀ W, Below w.heap.size w W → Strs W a0 n xs ∧ Strs W a0' n' ys) := fun W h => ⟨h1.below h, h2.below h⟩
  clear h1 h2
  have HB0 : Hid (Below w.heap.size w (w.alloc (.cells #[.slice a0 n ca, .slice a0' n' ca'] 29))) := (Below.refl _ _).alloc (Nat.le_refl _) _
  go_enter Try.func6, Try.ntmps6
  go_wp2_with fail
  refine (szDisk_any a0 n ca xs a0' n' ca' ys 1048576 _ (HS.out _ HB0.out).1 (HS.out _ HB0.out).2 (by omega) (by omega) hl hl').mono ?_
  rintro e x0 ⟨⟨left0, rfl, hv1, hv⟩, hb0⟩
  have HB1 : Hid (Below w.heap.size w x0) := HB0.out.trans (hb0.mono HB0.out.size)
  have HF1 : Hid (Box2R x0 w.heap.size 29 (.slice a0 n ca) (.slice a0' n' ca')) := (Box2R.new _ _ _ _).stays hb0
  clear hb0 HB0
  by_cases hnn : left0 < 0
  · go_wp2_with fail
    go_ret
    exact ⟨rfl, HB1.out⟩
  have hle : n ≤ 1048576 := by have := hv (by omega); omega
  have hle' : n' ≤ 1048576 := by have := hv (by omega); omega
  clear hv hv1
  have HP : Hid (∀ (a a' : Option Addr) (W : World), Strs W a n xs → Strs W a' n' ys → Calls Try.prog 18 #[.agg #[.slice a n n, .slice a' n' n'], .int .i64 i, .string s] W fun e w' => (∃ v, e = .returned (.tuple #[v, .bool rb]) ∧ AnsD W.heap.size RX RY v w') ∧ Below W.heap.size W w') := fun a a' W h h' => HSp a a' W hle hle' h h'
  have HI : Hid (∀ (a a' : Option Addr) (W : World), Strs W a n xs → Strs W a' n' ys → Calls Try.prog 19 #[.agg #[.slice a n n, .slice a' n' n'], .int .i64 i, .string s] W fun e w' => (∃ v, e = .returned (.tuple #[v, .bool rb]) ∧ AnsD W.heap.size RX RY v w') ∧ Below W.heap.size W w') := fun a a' W h h' => HIm a a' W hle hle' h h'
  obtain ⟨M, hM⟩ : ∃ M, RX.length = M := ⟨_, rfl⟩
  obtain ⟨M', hM'⟩ : ∃ M', RY.length = M' := ⟨_, rfl⟩
  have hMb : M ≤ 2097152 ∧ M' ≤ 2097152 := by rw [← hM, ← hM']; exact hm hle hle'
  unfold AnsD at HP HI
  rw [hM, hM'] at HP HI
  clear hM hM' hm HSp HIm
  have HQ0 : Hid (∀ W, Below x0.heap.size x0 W → Box2R W w.heap.size 29 (.slice a0 n ca) (.slice a0' n' ca') ∧ Below w.heap.size w W ∧ Strs W a0 n xs ∧ Strs W a0' n' ys) := fun W h => by
    have h1 : Below w.heap.size w W := HB1.out.trans (h.mono HB1.out.size)
    exact ⟨HF1.out.stays h, h1, HS.out _ h1⟩
  have HZ0 : Hid (w.heap.size < x0.heap.size) := HF1.out.lt
  clear HF1 HB1
  obtain ⟨c0, c1⟩ := (HQ0.out _ (Below.refl _ _)).1.cells
  go_wp2_with fail
  refine (toDisk_any a0 n ca xs a0' n' ca' ys x0 (HQ0.out _ (Below.refl _ _)).2.2.1 (HQ0.out _ (Below.refl _ _)).2.2.2 hle hle').mono ?_
  rintro e x1 ⟨g1, g1', rfl, _, ho1, ho1', hb1⟩
  have HL1 : Hid (Strs x1 (some ⟨g1, 0, none⟩) n xs ∧ Strs x1 (some ⟨g1', 0, none⟩) n' ys) := ⟨ho1.strs, ho1'.strs⟩
  have HB1 : Hid (Below x0.heap.size x0 x1) := hb1
  clear ho1 ho1' hb1 c0 c1
  go_wp2_with fail
  refine (HP.out _ _ _ HL1.out.1 HL1.out.2).mono ?_
  rintro e x2 ⟨⟨v, rfl, wa, wc, wa', wc', rfl, ow, ow', hapw⟩, hb2⟩
  have HAw : Hid (DAt (x2.alloc (.cells #[.slice wa M wc, .slice wa' M' wc'] 24)) x1.heap.size x2.heap.size wa M wc RX wa' M' wc' RY) := DAt.new ow ow' hapw hb2.size
  have HB2 : Hid (Below x0.heap.size x0 (x2.alloc (.cells #[.slice wa M wc, .slice wa' M' wc'] 24))) := (HB1.out.trans (hb2.mono HB1.out.size)).alloc (HB1.out.trans (hb2.mono HB1.out.size)).size _
  have HZ1 : Hid (x0.heap.size ≤ x1.heap.size ∧ x1.heap.size ≤ x2.heap.size) := ⟨HB1.out.size, hb2.size⟩
  have HZ2 : Hid ((x2.alloc (.cells #[.slice wa M wc, .slice wa' M' wc'] 24)).heap.size = x2.heap.size + 1) := by show _ = _; simp
  clear ow ow' hapw hb2 HL1 HB1 HP
  obtain ⟨c0, c1⟩ := (HQ0.out _ HB2.out).1.cells
  go_wp2_with fail
  obtain ⟨w2, hw2⟩ : ∃ w2, x2.alloc (.cells #[.slice wa M wc, .slice wa' M' wc'] 24) = w2 := ⟨_, rfl⟩
  rw [hw2] at HAw HB2 HZ2 ⊢
  clear hw2 c0 c1
  generalize x2.heap.size = bw at *
  refine (toDisk_any a0 n ca xs a0' n' ca' ys w2 (HQ0.out _ HB2.out).2.2.1 (HQ0.out _ HB2.out).2.2.2 hle hle').mono ?_
  rintro e x3 ⟨g3, g3', rfl, hg33, ho3, ho3', hb3⟩
  have HAx : Hid (DAt (x3.alloc (.cells #[.slice (some ⟨g3, 0, none⟩) n n, .slice (some ⟨g3', 0, none⟩) n' n'] 24)) w2.heap.size x3.heap.size (some ⟨g3, 0, none⟩) n n xs (some ⟨g3', 0, none⟩) n' n' ys) := DAt.new ho3 ho3' (fun q e e2 => hg33 (by simp at e e2; omega)) hb3.size
  have HBa : Hid (Below w2.heap.size w2 (x3.alloc (.cells #[.slice (some ⟨g3, 0, none⟩) n n, .slice (some ⟨g3', 0, none⟩) n' n'] 24))) := hb3.alloc hb3.size _
  have HZ3 : Hid (w2.heap.size ≤ x3.heap.size) := hb3.size
  have HZ4 : Hid ((x3.alloc (.cells #[.slice (some ⟨g3, 0, none⟩) n n, .slice (some ⟨g3', 0, none⟩) n' n'] 24)).heap.size = x3.heap.size + 1) := by show _ = _; simp
  clear ho3 ho3' hb3
  obtain ⟨d0, d1⟩ := HAx.out.1.cells
  go_wp2_with fail
  obtain ⟨w3, hw3⟩ : ∃ w3, x3.alloc (.cells #[.slice (some ⟨g3, 0, none⟩) n n, .slice (some ⟨g3', 0, none⟩) n' n'] 24) = w3 := ⟨_, rfl⟩
  rw [hw3] at HAx HBa HZ4 ⊢
  clear hw3 d0 d1
  generalize x3.heap.size = bx at *
  have HAw3 : Hid (DAt w3 x1.heap.size bw wa M wc RX wa' M' wc' RY) := HAw.out.stays HBa.out
  have HB3 : Hid (Below x0.heap.size x0 w3) := HB2.out.trans (HBa.out.mono HB2.out.size)
  clear HAw HB2 HBa
  refine (HI.out _ _ _ HAx.out.2.1.strs HAx.out.2.2.1.strs).mono ?_
  rintro e x4 ⟨⟨v, rfl, ga, gc, ga', gc', rfl, og, og', hapg⟩, hb4⟩
  have HAg : Hid (DAt (x4.alloc (.cells #[.slice ga M gc, .slice ga' M' gc'] 24)) w3.heap.size x4.heap.size ga M gc RX ga' M' gc' RY) := DAt.new og og' hapg hb4.size
  have HBa : Hid (Below w3.heap.size w3 (x4.alloc (.cells #[.slice ga M gc, .slice ga' M' gc'] 24))) := hb4.alloc hb4.size _
  clear og og' hapg hb4
  have hbb : (rb != rb) = false := by simp
  have HAw4 : Hid (DAt (x4.alloc (.cells #[.slice ga M gc, .slice ga' M' gc'] 24)) x1.heap.size bw wa M wc RX wa' M' wc' RY) := HAw3.out.stays HBa.out
  obtain ⟨c0, c1⟩ := HAw4.out.1.cells
  obtain ⟨d0, d1⟩ := HAg.out.1.cells
  go_wp2_with fail
  obtain ⟨w4, hw4⟩ : ∃ w4, x4.alloc (.cells #[.slice ga M gc, .slice ga' M' gc'] 24) = w4 := ⟨_, rfl⟩
  rw [hw4] at HAg HBa HAw4 ⊢
  clear hw4 c0 c1 d0 d1 HAw4
  generalize x4.heap.size = bg at *
  have HU : Hid (∀ W, Below w4.heap.size w4 W → (Box2R W w.heap.size 29 (.slice a0 n ca) (.slice a0' n' ca') ∧ Below w.heap.size w W ∧ Strs W a0 n xs ∧ Strs W a0' n' ys) ∧ DAt W x1.heap.size bw wa M wc RX wa' M' wc' RY ∧ DAt W w2.heap.size bx (some ⟨g3, 0, none⟩) n n xs (some ⟨g3', 0, none⟩) n' n' ys ∧ DAt W w3.heap.size bg ga M gc RX ga' M' gc' RY) := fun W h => by
    have h3 : Below w3.heap.size w3 W := HBa.out.trans (h.mono HBa.out.size)
    exact ⟨HQ0.out W (HB3.out.trans (h3.mono HB3.out.size)), HAw3.out.stays h3, HAx.out.stays h3, HAg.out.stays h⟩
  clear HAw3 HAx HAg HBa HB3 HQ0
  refine (eqDisk_same ga wa M gc wc RX ga' wa' M' gc' wc' RY _ (HU.out _ (Below.refl _ _)).2.2.2.2.1.strs (HU.out _ (Below.refl _ _)).2.1.2.1.strs (HU.out _ (Below.refl _ _)).2.2.2.2.2.1.strs (HU.out _ (Below.refl _ _)).2.1.2.2.1.strs (by omega) (by omega)).mono ?_
  rintro e x5 ⟨rfl, hb5⟩
  have HB5 : Hid (Below w4.heap.size w4 x5) := hb5
  clear hb5
  obtain ⟨c0, c1⟩ := (HU.out _ HB5.out).1.1.cells
  obtain ⟨d0, d1⟩ := (HU.out _ HB5.out).2.2.1.1.cells
  go_wp2_with fail
  go_region_held3 (fun W => W.cell? ⟨w.heap.size, 0, none⟩ = some (.slice a0 n ca) ∧ W.cell? ⟨w.heap.size, 1, none⟩ = some (.slice a0' n' ca') ∧ W.cell? ⟨bx, 0, none⟩ = some (.slice (some ⟨g3, 0, none⟩) n n) ∧ W.cell? ⟨bx, 1, none⟩ = some (.slice (some ⟨g3', 0, none⟩) n' n')) (first | (refine ⟨?_, ?_, ?_, ?_⟩ <;> assumption) | go_keep) (first
    | (go_at_call 14; refine (toDisk_any a0 n ca xs a0' n' ca' ys _ (HU.out _ HB5.out.drew).1.2.2.1 (HU.out _ HB5.out.drew).1.2.2.2 hle hle').mono ?_; rintro e y1 ⟨g6, g6', rfl, _, ho6, ho6', hb6⟩; have hb6' : Below w4.heap.size w4 y1 := HB5.out.drew.trans (hb6.mono HB5.out.drew.size); obtain ⟨k0, k1⟩ := (HU.out _ hb6').2.2.1.1.cells; obtain ⟨j0, j1⟩ := (HU.out _ hb6').1.1.cells)
    | (go_at_call 9; refine (eqDisk_same _ _ n n n xs _ _ n' n' n' ys _ (HU.out _ hb6').2.2.1.2.1.strs ho6.strs (HU.out _ hb6').2.2.1.2.2.1.strs ho6'.strs (by omega) (by omega)).mono ?_; rintro e y2 ⟨rfl, hb7⟩; have hb7' : Below w4.heap.size w4 y2 := hb6'.trans (hb7.mono hb6'.size); obtain ⟨l0, l1⟩ := (HU.out _ hb7').2.2.1.1.cells; obtain ⟨m0, m1⟩ := (HU.out _ hb7').1.1.cells)
    | fail)
  have HBc : Hid (Below w4.heap.size w4 y2) := hb7'
  clear hb7 hb7' hb6 hb6' ho6 ho6' k0 k1 j0 j1 l0 l1 m0 m1 c0 c1 d0 d1 HB5
  obtain ⟨u1, u2, u3, u4⟩ := HU.out _ HBc.out
  have HQ6 : Hid (Box2R y2 w.heap.size 29 (.slice a0 n ca) (.slice a0' n' ca') ∧ Below w.heap.size w y2) := ⟨u1.1, u1.2.1⟩
  have HA6 : Hid (DAt y2 x1.heap.size bw wa M wc RX wa' M' wc' RY) := u2
  have HX6 : Hid (DAt y2 w2.heap.size bx (some ⟨g3, 0, none⟩) n n xs (some ⟨g3', 0, none⟩) n' n' ys) := u3
  have HG6 : Hid (DAt y2 w3.heap.size bg ga M gc RX ga' M' gc' RY) := u4
  have HZ : Hid (w.heap.size < x0.heap.size ∧ x0.heap.size ≤ x1.heap.size ∧ x1.heap.size ≤ bw ∧ w2.heap.size = bw + 1 ∧ w2.heap.size ≤ bx ∧ w3.heap.size = bx + 1) := ⟨HZ0.out, HZ1.out.1, HZ1.out.2, HZ2.out, HZ3.out, HZ4.out⟩
  clear u1 u2 u3 u4 HU HBc HZ0 HZ1 HZ2 HZ3 HZ4
  obtain ⟨d0, d1⟩ := HX6.out.1.cells
  go_wp2_with fail
  refine (markDisk_any w2.heap.size (some ⟨g3, 0, none⟩) n n xs (some ⟨g3', 0, none⟩) n' n' ys 1 _ HX6.out.2.1 HX6.out.2.2.1 HX6.out.2.2.2.2.2.2 (by omega) (by omega) (by omega)).mono ?_
  rintro e x7 ⟨rfl, _, _, hgr⟩
  obtain ⟨hr1, hr2⟩ := HX6.out.row
  have hz := HZ.out
  have HQ7 : Hid (Box2R x7 w.heap.size 29 (.slice a0 n ca) (.slice a0' n' ca') ∧ Below w.heap.size w x7) := ⟨box_kept2 HQ6.out.1 hgr (fun e => by have := hr1 _ e; omega) (fun e => by have := hr2 _ e; omega), below_two HQ6.out.2 HQ6.out.2.size hgr (fun q e => by have := hr1 _ e; omega) (fun q e => by have := hr2 _ e; omega)⟩
  have HA7 : Hid (DAt x7 x1.heap.size bw wa M wc RX wa' M' wc' RY) := HA6.out.kept2 hgr (fun q e => by have := hr1 _ e; omega) (fun q e => by have := hr2 _ e; omega)
  have HG7 : Hid (DAt x7 w3.heap.size bg ga M gc RX ga' M' gc' RY) := HG6.out.kept2 hgr (fun q e => by have := hr1 _ e; omega) (fun q e => by have := hr2 _ e; omega)
  clear hgr hr1 hr2 hz HQ6 HA6 HG6 HX6 d0 d1
  generalize hq8 : ((1 + n + n' : Nat) : Int) = q8
  have hq8p : ¬ q8 < 0 := by omega
  have hq8d : decide (q8 < 0) = false := by simp; omega
  clear hq8
  obtain ⟨c0, c1⟩ := HA7.out.1.cells
  obtain ⟨d0, d1⟩ := HG7.out.1.cells
  go_wp2_with fail
  refine (eqDisk_same ga wa M gc wc RX ga' wa' M' gc' wc' RY _ HG7.out.2.1.strs HA7.out.2.1.strs HG7.out.2.2.1.strs HA7.out.2.2.1.strs (by omega) (by omega)).mono ?_
  rintro e x8 ⟨rfl, hb8⟩
  have HQ8 : Hid (Box2R x8 w.heap.size 29 (.slice a0 n ca) (.slice a0' n' ca') ∧ Below w.heap.size w x8) := ⟨HQ7.out.1.stays hb8, HQ7.out.2.trans (hb8.mono HQ7.out.2.size)⟩
  have HA8 : Hid (DAt x8 x1.heap.size bw wa M wc RX wa' M' wc' RY) := HA7.out.stays hb8
  have HG8 : Hid (DAt x8 w3.heap.size bg ga M gc RX ga' M' gc' RY) := HG7.out.stays hb8
  clear hb8 HQ7 HA7 HG7 c0 c1 d0 d1 hq8p hq8d
  obtain ⟨d0, d1⟩ := HG8.out.1.cells
  go_wp2_with fail
  refine (markDisk_any w3.heap.size ga M gc RX ga' M' gc' RY 1 _ HG8.out.2.1 HG8.out.2.2.1 HG8.out.2.2.2.2.2.2 (by omega) (by omega) (by omega)).mono ?_
  rintro e x9 ⟨rfl, om9, om9', hgr⟩
  obtain ⟨hr1, hr2⟩ := HG8.out.row
  have hz := HZ.out
  have HQ9 : Hid (Box2R x9 w.heap.size 29 (.slice a0 n ca) (.slice a0' n' ca') ∧ Below w.heap.size w x9) := ⟨box_kept2 HQ8.out.1 hgr (fun e => by have := hr1 _ e; omega) (fun e => by have := hr2 _ e; omega), below_two HQ8.out.2 HQ8.out.2.size hgr (fun q e => by have := hr1 _ e; omega) (fun q e => by have := hr2 _ e; omega)⟩
  have HA9 : Hid (DAt x9 x1.heap.size bw wa M wc RX wa' M' wc' RY) := HA8.out.kept2 hgr (fun q e => by have := hr1 _ e; omega) (fun q e => by have := hr2 _ e; omega)
  have HG9 : Hid (DAt x9 w3.heap.size bg ga M gc (marksS 1 M) ga' M' gc' (marksS (1 + M) M')) := HG8.out.marked om9 om9' hgr
  clear om9 om9' hgr hr1 hr2 hz HQ8 HA8 HG8 d0 d1
  have HHG : Hid (∀ W : World, Strs W ga M (marksS 1 M) → Strs W ga' M' (marksS (1 + M) M') → Calls Try.prog 11 #[.agg #[.slice ga M gc, .slice ga' M' gc'], .int .i64 1] W fun e w' => e = .returned (.int .i64 ((1 + M + M' : Nat) : Int)) ∧ Below W.heap.size W w') := fun W h h' => heldDisk_any ga M gc ga' M' gc' 1 W h h' (by omega) (by omega) (by omega)
  generalize hq10 : ((1 + M + M' : Nat) : Int) = q10 at *
  have hq10p : ¬ q10 < 0 := by omega
  have hq10d : decide (q10 < 0) = false := by simp; omega
  have hq10e : (q10 != q10) = false := by simp
  clear hq10
  obtain ⟨d0, d1⟩ := HG9.out.1.cells
  go_wp2_with fail
  refine (HHG.out _ HG9.out.2.1.strs HG9.out.2.2.1.strs).mono ?_
  rintro e x10 ⟨rfl, hb10⟩
  have HQ10 : Hid (Box2R x10 w.heap.size 29 (.slice a0 n ca) (.slice a0' n' ca') ∧ Below w.heap.size w x10) := ⟨HQ9.out.1.stays hb10, HQ9.out.2.trans (hb10.mono HQ9.out.2.size)⟩
  have HA10 : Hid (DAt x10 x1.heap.size bw wa M wc RX wa' M' wc' RY) := HA9.out.stays hb10
  have HG10 : Hid (DAt x10 w3.heap.size bg ga M gc (marksS 1 M) ga' M' gc' (marksS (1 + M) M')) := HG9.out.stays hb10
  clear hb10 HQ9 HA9 HG9 d0 d1
  obtain ⟨c0, c1⟩ := HQ10.out.1.cells
  go_wp2_with fail
  refine (toDisk_any a0 n ca xs a0' n' ca' ys x10 (HS.out _ HQ10.out.2).1 (HS.out _ HQ10.out.2).2 hle hle').mono ?_
  rintro e x11 ⟨g11, g11', rfl, _, ho11, ho11', hb11⟩
  have HL11 : Hid (Strs x11 (some ⟨g11, 0, none⟩) n xs ∧ Strs x11 (some ⟨g11', 0, none⟩) n' ys) := ⟨ho11.strs, ho11'.strs⟩
  have HB11 : Hid (Below x10.heap.size x10 x11) := hb11
  clear ho11 ho11' hb11 c0 c1
  go_wp2_with fail
  refine (HI.out _ _ _ HL11.out.1 HL11.out.2).mono ?_
  rintro e x12 ⟨⟨v, rfl, ha, hc, ha', hc', rfl, oh, oh', haph⟩, hb12⟩
  have HAh : Hid (DAt (x12.alloc (.cells #[.slice ha M hc, .slice ha' M' hc'] 24)) x11.heap.size x12.heap.size ha M hc RX ha' M' hc' RY) := DAt.new oh oh' haph hb12.size
  have HB12 : Hid (Below x10.heap.size x10 (x12.alloc (.cells #[.slice ha M hc, .slice ha' M' hc'] 24))) := (HB11.out.trans (hb12.mono HB11.out.size)).alloc (HB11.out.trans (hb12.mono HB11.out.size)).size _
  clear oh oh' haph hb12 HL11 HB11 HI
  obtain ⟨c0, c1⟩ := (HA10.out.stays HB12.out).1.cells
  obtain ⟨d0, d1⟩ := HAh.out.1.cells
  go_wp2_with fail
  obtain ⟨w12, hw12⟩ : ∃ w12, x12.alloc (.cells #[.slice ha M hc, .slice ha' M' hc'] 24) = w12 := ⟨_, rfl⟩
  rw [hw12] at HAh HB12 ⊢
  clear hw12 c0 c1 d0 d1
  refine (eqDisk_same ha wa M hc wc RX ha' wa' M' hc' wc' RY _ HAh.out.2.1.strs (HA10.out.stays HB12.out).2.1.strs HAh.out.2.2.1.strs (HA10.out.stays HB12.out).2.2.1.strs (by omega) (by omega)).mono ?_
  rintro e x13 ⟨rfl, hb13⟩
  have HB13 : Hid (Below x10.heap.size x10 x13) := HB12.out.trans (hb13.mono HB12.out.size)
  clear hb13 HAh HB12
  have HG13 : Hid (DAt x13 w3.heap.size bg ga M gc (marksS 1 M) ga' M' gc' (marksS (1 + M) M')) := HG10.out.stays HB13.out
  obtain ⟨d0, d1⟩ := HG13.out.1.cells
  go_wp2_with fail
  refine (HHG.out _ HG13.out.2.1.strs HG13.out.2.2.1.strs).mono ?_
  rintro e x14 ⟨rfl, hb14⟩
  have HE : Hid (Below w.heap.size w x14) := by
    have h1 : Below w.heap.size w x13 := HQ10.out.2.trans (HB13.out.mono HQ10.out.2.size)
    exact h1.trans (hb14.mono h1.size)
  clear hb14 d0 d1
  go_wp2_with fail
  go_ret
  exact ⟨rfl, HE.out⟩

end Go.Proofs.Ytnbmlkkjgecigar
