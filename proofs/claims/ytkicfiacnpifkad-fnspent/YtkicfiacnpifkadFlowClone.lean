/- The library's Clone of lanes, and the program's copy of a flow: the same in memory of its own. -/
import Derived.Lib.SliceRun
import Derived.Deep.RegionHeld3
import Derived.Test.YtkicfiacnpifkadLaneCut
import Derived.Test.YtkicfiacnpifkadBox3
import Derived.Test.YtkicfiacnpifkadTabStep
namespace Go.Proofs.Ytkicfiacnpifkad
open Go.RowKit
set_option linter.unusedVariables false

set_option maxRecDepth 10000 in
set_option maxHeartbeats 400000 in
theorem cloneL_any (a : Option Addr) (len cap : Nat) (l : List Lane) (w : World) (hs : Lanes w a len l) (hl : len ≤ 1048576) :
    Calls Try.prog 51 #[.slice a len cap] w fun e w' => ∃ a' cap', e = .returned (.slice a' len cap') ∧ OwnL w' w.heap.size a' len cap' l ∧ Below w.heap.size w w' := by
  obtain ⟨i0, hi, hz0, hz1, hz2⟩ := info_parts info_lane
  have qT : ∀ (w : World) (a : Option Addr) (n c n' c' : Nat), (binOp .eql 34 (.slice a n c) (.slice none n' c')).run Try.prog w = .ok (.bool a.isNone) w := fun w a n c n' c' => Lib.run_eql_slice_nil w _ _ a n c n' c' Try.underlying34
  cases a with
  | none =>
    have h0 := lanes_nil hs rfl
    subst h0
    obtain rfl : l = [] := List.eq_nil_of_length_eq_zero hs.1
    go_enter Try.func51, Try.ntmps51
    go_wp2
    go_ret
    exact ⟨none, 0, rfl, ⟨World.ownsRow_nil _ _ _ _, by simp⟩, Below.refl _ _⟩
  | some ad =>
    have hzl : l.length = len := hs.1
    have HR : Hid (∀ s ∈ l, i64b s.1 ∧ i64b s.2) := hs.2.1
    have HS1 : Hid (Lanes (w.alloc (.cells #[] 47)) (some ad) len l) := hs.below ((Below.refl _ _).alloc (Nat.le_refl _) _)
    have HO1 : Hid ((w.alloc (.cells #[] 47)).ownsRow w.heap.size 47 2 (.slice (some ⟨w.heap.size, 0, none⟩) 0 0) 0 []) := World.ownsRow_lit w #[] 0 (Nat.le_refl _) (Nat.zero_le _) rfl
    clear hs
    go_enter Try.func51, Try.ntmps51
    go_wp2_with (at_builtin; refine wpList_append_own _ rfl _ _ 34 rfl w.heap.size 47 i0 (.agg #[.int .i64 0, .int .i64 0]) 2 16 Try.underlying34 hi hz0 hz1 hz2 rfl (by decide) (.slice (some ⟨w.heap.size, 0, none⟩) 0 0) 0 [] rfl HO1.out ad len cap (laneCells l) rfl (by rw [laneCells_len, hzl]) (lanes_src HS1.out ad rfl) (laneCells_one l) (by unfold maxLen; omega) (by omega) (by simp) ?_; intro v1 w1 hown1 hgrow1 _; refine Hid.out ?_)
    refine hidden ?_
    have HB1 : Hid (Below w.heap.size w w1) := ((Below.refl _ _).alloc (Nat.le_refl _) _).grown hgrow1 (by simp) (by simp [Value.ownBlock])
    obtain ⟨a1, c1, rfl⟩ := ownL_shape hown1
    have HO2 : Hid (w1.ownsRow w.heap.size 47 2 (.slice a1 len c1) len (laneCells l)) := by
      show World.ownsRow _ _ _ _ _ _ _
      have h := hown1
      rw [Nat.zero_add] at h
      simpa using h
    have hll : 0 + len = len := Nat.zero_add _
    rw [hll]
    clear hown1 hgrow1
    go_wp2_with fail
    go_ret
    exact ⟨_, _, rfl, ⟨HO2.out, HR.out⟩, HB1.out⟩

theorem cell_kept {Y : World} {b b' i k : Nat} {v u : Value} (hne : b ≠ b') (h : Y.cell? ⟨b, i, none⟩ = some v) : (Y.setCell ⟨b', k, none⟩ u).cell? ⟨b, i, none⟩ = some v := by
  have e := set_block_ne Y b b' k u hne
  simp only [World.cell?] at h ⊢
  rw [e]
  exact h

set_option maxRecDepth 10000 in
set_option maxHeartbeats 1600000 in
theorem implFcopy_any (s : Int) (en : Int) (a : Option Addr) (len cap : Nat) (zs : List Lane) (w : World) (hs : Lanes w a len zs) (hl : len ≤ 1048576) :
    Calls Try.prog 34 #[.agg #[.int .i64 s, .int .i64 en, .slice a len cap]] w fun e w' => ∃ a' cap', e = .returned (.agg #[.int .i64 s, .int .i64 en, .slice a' len cap']) ∧ OwnL w' w.heap.size a' len cap' zs ∧ Below w.heap.size w w' := by
  have HS : Hid (Lanes w a len zs) := hs
  clear hs
  go_enter Try.func34, Try.ntmps34
  go_wp2_with fail
  obtain ⟨W2, hW2⟩ : ∃ W2, (w.alloc (.cells #[.int .i64 s, .int .i64 en, .slice a len cap] 36)).alloc (.cells #[.int .i64 0, .int .i64 0, .slice none 0 0] 36) = W2 := ⟨_, rfl⟩
  have q1 : Box3 W2 w.heap.size 36 (.int .i64 s) (.int .i64 en) (.slice a len cap) := by rw [← hW2]; exact (Box3.new _ _ _ _ _).alloc _
  have q2 : Box3 W2 (w.heap.size + 1) 36 (.int .i64 0) (.int .i64 0) (.slice none 0 0) := by
    rw [← hW2]
    have := Box3.new (w.alloc (.cells #[.int .i64 s, .int .i64 en, .slice a len cap] 36)) 36 (.int .i64 0) (.int .i64 0) (.slice none 0 0)
    rwa [World.size_alloc] at this
  have HB2 : Hid (Below w.heap.size w W2) := by show Below _ _ _; rw [← hW2]; exact ((Below.refl _ _).alloc (Nat.le_refl _) _).alloc (by simp) _
  have HW2 : Hid (W2.heap.size = w.heap.size + 2) := by show _ = _; rw [← hW2]; simp
  have HQ : Hid (∀ W, Below W2.heap.size W2 W → Box3 W w.heap.size 36 (.int .i64 s) (.int .i64 en) (.slice a len cap) ∧ Box3 W (w.heap.size + 1) 36 (.int .i64 0) (.int .i64 0) (.slice none 0 0)) := fun W h => ⟨q1.stays h, q2.stays h⟩
  rw [hW2]
  clear hW2
  obtain ⟨c0, c1, c2⟩ := q1.cells
  clear q1 q2
  have hne : w.heap.size ≠ w.heap.size + 1 := by omega
  go_region_held3 (fun W => W.cell? ⟨w.heap.size, 0, none⟩ = some (.int .i64 s) ∧ W.cell? ⟨w.heap.size, 1, none⟩ = some (.int .i64 en) ∧ W.cell? ⟨w.heap.size, 2, none⟩ = some (.slice a len cap)) (refine ⟨?_, ?_, ?_⟩ <;> first | assumption | (exact cell_kept hne (cell_kept hne (cell_kept hne (by assumption))))) (first
    | (go_at_call 51; refine (cloneL_any a len cap zs _ (HS.out.below HB2.out.drew) (by omega)).mono ?_; rintro e Y ⟨a4, k4, rfl, og, hb4⟩
       have hb4' : Below W2.heap.size W2 Y := (Below.refl W2.heap.size W2).drew.trans (hb4.mono (Nat.le_refl _))
       obtain ⟨e0, e1, e2⟩ := (HQ.out _ hb4').1.cells
       obtain ⟨g0, g1, g2⟩ := (HQ.out _ hb4').2.cells
       have f0 := (HQ.out _ hb4').2.frozen 0
       have f1 := (HQ.out _ hb4').2.frozen 1
       have f2 := (HQ.out _ hb4').2.frozen 2)
    | fail)
  all_goals
    have h2 := HW2.out
    have hbx := (HQ.out _ hb4').2
    have hbw : Below w.heap.size w Y := HB2.out.trans (hb4'.mono HB2.out.size)
    have hnb : a4.map (·.block) ≠ some (w.heap.size + 1) := fun e => by have h3 := (og.lt _ e).1; have h4 : W2.heap.size ≤ w.heap.size + 1 := h3; omega
    have HO5 : Hid (OwnL (((Y.setCell ⟨w.heap.size + 1, 0, none⟩ (.int .i64 s)).setCell ⟨w.heap.size + 1, 1, none⟩ (.int .i64 en)).setCell ⟨w.heap.size + 1, 2, none⟩ (.slice a4 len k4)) w.heap.size a4 len k4 zs ∧ Below w.heap.size w (((Y.setCell ⟨w.heap.size + 1, 0, none⟩ (.int .i64 s)).setCell ⟨w.heap.size + 1, 1, none⟩ (.int .i64 en)).setCell ⟨w.heap.size + 1, 2, none⟩ (.slice a4 len k4))) := by
      refine ⟨(ownL_set (ownL_set (ownL_set og hnb) hnb) hnb).low (by show w.heap.size ≤ W2.heap.size; omega), ?_⟩
      exact ((hbw.setCell (p := ⟨w.heap.size + 1, 0, none⟩) (by show w.heap.size ≤ w.heap.size + 1; omega) _).setCell (p := ⟨w.heap.size + 1, 1, none⟩) (by show w.heap.size ≤ w.heap.size + 1; omega) _).setCell (p := ⟨w.heap.size + 1, 2, none⟩) (by show w.heap.size ≤ w.heap.size + 1; omega) _
    clear og hb4 hb4' h2 hbw hnb
    go_wp2
    refine bodyPost_ret (v := .agg #[.int .i64 s, .int .i64 en, .slice a4 len k4]) (by simp [results, Try.f34, go_sem, g0, g1, g2]) rfl ?_
    exact ⟨_, _, rfl, HO5.out.1, HO5.out.2⟩

end Go.Proofs.Ytkicfiacnpifkad
