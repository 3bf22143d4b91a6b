/- The specification's copy of a flow. -/
import Derived.Test.YtkicfiacnpifkadTabStep
import Derived.Test.YtkicfiacnpifkadLaneSrc
import Derived.Deep.CutBlock
namespace Go.Proofs.Ytkicfiacnpifkad
open Go.RowKit
set_option linter.unusedVariables false

set_option maxRecDepth 10000 in
set_option maxHeartbeats 1600000 in
theorem specFcopy_any (s : Int) (en : Int) (a : Option Addr) (len cap : Nat) (zs : List Lane) (w : World) (hs : Lanes w a len zs) (hl : len ≤ 1048576) :
    Calls Try.prog 37 #[.agg #[.int .i64 s, .int .i64 en, .slice a len cap]] w fun e w' => ∃ a' cap', e = .returned (.agg #[.int .i64 s, .int .i64 en, .slice a' len cap']) ∧ OwnL w' w.heap.size a' len cap' zs ∧ Below w.heap.size w w' := by
  obtain ⟨i0, hi, hz0, hz1, hz2⟩ := info_parts info_lane
  have HS : Hid (Lanes w a len zs) := hs
  have hzl := hs.1
  have HN : Hid (a = none → len = 0) := lanes_nil hs
  clear hs
  go_enter Try.func37, Try.ntmps37
  go_upto_region 1 with fail
  obtain ⟨W2, hW2⟩ : ∃ W2, (w.alloc (.cells #[.int .i64 s, .int .i64 en, .slice a len cap] 36)).alloc (.cells #[.int .i64 0, .int .i64 0, .slice none 0 0] 36) = W2 := ⟨_, rfl⟩
  have q1 : Box3 W2 w.heap.size 36 (.int .i64 s) (.int .i64 en) (.slice a len cap) := by rw [← hW2]; exact (Box3.new _ _ _ _ _).alloc _
  have q2 : Box3 W2 (w.heap.size + 1) 36 (.int .i64 0) (.int .i64 0) (.slice none 0 0) := by
    rw [← hW2]
    have := Box3.new (w.alloc (.cells #[.int .i64 s, .int .i64 en, .slice a len cap] 36)) 36 (.int .i64 0) (.int .i64 0) (.slice none 0 0)
    rwa [World.size_alloc] at this
  have HB2 : Hid (Below w.heap.size w W2) := by show Below _ _ _; rw [← hW2]; exact ((Below.refl _ _).alloc (Nat.le_refl _) _).alloc (by simp) _
  have HW2 : Hid (W2.heap.size = w.heap.size + 2) := by show _ = _; rw [← hW2]; simp
  have HQ : Hid (∀ W, Below W2.heap.size W2 W → Box3 W w.heap.size 36 (.int .i64 s) (.int .i64 en) (.slice a len cap) ∧ Box3 W (w.heap.size + 1) 36 (.int .i64 0) (.int .i64 0) (.slice none 0 0)) := fun W h => ⟨q1.stays h, q2.stays h⟩
  rw [hW2]
  clear hW2 q1 q2
  have hbA : Below W2.heap.size W2 (W2.alloc (.cells #[] 47)) := (Below.refl _ _).alloc (Nat.le_refl _) _
  have HO1 : Hid ((W2.alloc (.cells #[] 47)).ownsRow W2.heap.size 47 2 (.slice (some ⟨W2.heap.size, 0, none⟩) 0 0) 0 []) := World.ownsRow_lit W2 #[] 0 (Nat.le_refl _) (Nat.zero_le _) rfl
  have HSA : Hid (Lanes (W2.alloc (.cells #[] 47)) a len zs) := HS.out.below (HB2.out.trans (hbA.mono HB2.out.size))
  obtain ⟨c0, c1, c2⟩ := (HQ.out _ hbA).1.cells
  clear hbA
  go_wp2_with (first | (refine wpList_plain rfl fun K hK => ?_; refine wp_append_src (.tmp 3) (.tmp 5) 34 rfl W2.heap.size 47 i0 (.agg #[.int .i64 0, .int .i64 0]) 2 16 Try.underlying34 hi hz0 hz1 hz2 rfl (by decide) W2.heap.size 0 0 [] rfl HO1.out a len cap (laneCells zs) rfl HN.out (by rw [laneCells_len]; omega) (lanes_src HSA.out) (laneCells_one zs) (by unfold maxLen; omega) (by omega) (by simp) ?_; intro v4 W4 hown4 hgrow4; obtain ⟨a4, k4, rfl⟩ := ownL_shape hown4; refine Hid.out ?_) | fail)
  refine hidden ?_
  have hb4 : Below W2.heap.size W2 W4 := ((Below.refl _ _).alloc (Nat.le_refl _) _).grown hgrow4 (by simp) (by simp)
  have HG4 : Hid (OwnL W4 W2.heap.size a4 len k4 zs) := ⟨by rw [Nat.zero_add] at hown4; simpa using hown4, HS.out.2.1⟩
  have h2 := HW2.out
  have hbw : Below w.heap.size w W4 := HB2.out.trans (hb4.mono HB2.out.size)
  obtain ⟨p1, p2⟩ := HQ.out _ hb4
  have hn0 : a4.map (·.block) ≠ some w.heap.size := fun e => by have h3 := (HG4.out.lt _ e).1; omega
  have hn1 : a4.map (·.block) ≠ some (w.heap.size + 1) := fun e => by have h3 := (HG4.out.lt _ e).1; omega
  obtain ⟨c0, c1, c2⟩ := p1.cells
  have f2 := p1.frozen 2
  have p3 := box3_set2 p1 (.slice a4 len k4)
  have p4 : Box3 (W4.setCell ⟨w.heap.size, 2, none⟩ (.slice a4 len k4)) (w.heap.size + 1) 36 (.int .i64 0) (.int .i64 0) (.slice none 0 0) := box3_other p2 (by omega)
  have HG5 : Hid (OwnL (W4.setCell ⟨w.heap.size, 2, none⟩ (.slice a4 len k4)) W2.heap.size a4 len k4 zs) := ownL_set HG4.out hn0
  have HB5 : Hid (Below w.heap.size w (W4.setCell ⟨w.heap.size, 2, none⟩ (.slice a4 len k4))) := hbw.setCell (p := ⟨w.heap.size, 2, none⟩) (Nat.le_refl _) _
  obtain ⟨W5, hW5⟩ : ∃ W5, W4.setCell ⟨w.heap.size, 2, none⟩ (.slice a4 len k4) = W5 := ⟨_, rfl⟩
  rw [hW5] at p3 p4 HG5 HB5
  have HX5 : Hid (Box3 W5 w.heap.size 36 (.int .i64 s) (.int .i64 en) (.slice a4 len k4) ∧ Box3 W5 (w.heap.size + 1) 36 (.int .i64 0) (.int .i64 0) (.slice none 0 0)) := ⟨p3, p4⟩
  have HE5 : Hid (W4.setCell ⟨w.heap.size, 2, none⟩ (.slice a4 len k4) = W5) := hW5
  refine hK _ _ ?_
  clear hK hown4 hgrow4 hb4 hbw p1 p2 p3 p4 HG4 hW5
  go_upto_region 2 with fail
  rw [HE5.out]
  clear c0 c1 c2 f2 HE5
  obtain ⟨c0, c1, c2⟩ := HX5.out.1.cells
  obtain ⟨g0, g1, g2⟩ := HX5.out.2.cells
  have f0 := HX5.out.2.frozen 0
  have f1 := HX5.out.2.frozen 1
  have f2 := HX5.out.2.frozen 2
  have HO6 : Hid (OwnL (((W5.setCell ⟨w.heap.size + 1, 0, none⟩ (.int .i64 s)).setCell ⟨w.heap.size + 1, 1, none⟩ (.int .i64 en)).setCell ⟨w.heap.size + 1, 2, none⟩ (.slice a4 len k4)) w.heap.size a4 len k4 zs ∧ Below w.heap.size w (((W5.setCell ⟨w.heap.size + 1, 0, none⟩ (.int .i64 s)).setCell ⟨w.heap.size + 1, 1, none⟩ (.int .i64 en)).setCell ⟨w.heap.size + 1, 2, none⟩ (.slice a4 len k4))) := by
    refine ⟨(ownL_set (ownL_set (ownL_set HG5.out hn1) hn1) hn1).low (by omega), ?_⟩
    exact ((HB5.out.setCell (p := ⟨w.heap.size + 1, 0, none⟩) (by show w.heap.size ≤ w.heap.size + 1; omega) _).setCell (p := ⟨w.heap.size + 1, 1, none⟩) (by show w.heap.size ≤ w.heap.size + 1; omega) _).setCell (p := ⟨w.heap.size + 1, 2, none⟩) (by show w.heap.size ≤ w.heap.size + 1; omega) _
  clear HG5 HB5 HX5 hn0 hn1 h2
  go_wp2
  refine bodyPost_ret (v := .agg #[.int .i64 s, .int .i64 en, .slice a4 len k4]) (by simp [results, Try.f37, go_sem, g0, g1, g2]) rfl ?_
  exact ⟨_, _, rfl, HO6.out.1, HO6.out.2⟩

end Go.Proofs.Ytkicfiacnpifkad
