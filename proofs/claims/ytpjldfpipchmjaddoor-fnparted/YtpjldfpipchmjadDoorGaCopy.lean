/- The program's copy of what is gathered. -/
import Derived.Test.YtpjldfpipchmjadDoorBox4Set
import Derived.Test.YtpjldfpipchmjadDoorCloneB
import Derived.Deep.RegionHeld3
namespace Go.Proofs.YtpjldfpipchmjadDoor
open Go.RowKit
set_option linter.unusedVariables false

theorem cell_kept {Y : World} {b b' i k : Nat} {v u : Value} (hne : b ≠ b') (h : Y.cell? ⟨b, i, none⟩ = some v) : (Y.setCell ⟨b', k, none⟩ u).cell? ⟨b, i, none⟩ = some v := by
  have e := set_block_ne Y b b' k u hne
  simp only [World.cell?] at h ⊢
  rw [e]
  exact h

set_option maxRecDepth 10000 in
set_option maxHeartbeats 1600000 in
theorem copyGa_any (s : Int) (en : Bool) (a : Option Addr) (len cap : Nat) (zs : List Int) (w : World) (hs : Seg w a len zs) (hl : len ≤ 1048576) :
    Calls Tryd.prog 36 #[.agg #[.int .i64 s, .bool en, .slice a len cap]] w fun e w' => ∃ a' cap', e = .returned (.agg #[.int .i64 s, .bool en, .slice a' len cap']) ∧ Owns w' w.heap.size a' len cap' zs ∧ Below w.heap.size w w' := by
  have HS : Hid (Seg w a len zs) := hs
  clear hs
  go_enter Tryd.func36, Tryd.ntmps36
  go_wp2_with fail
  obtain ⟨W2, hW2⟩ : ∃ W2, (w.alloc (.cells #[.int .i64 s, .bool en, .slice a len cap] 30)).alloc (.cells #[.int .i64 0, .bool false, .slice none 0 0] 30) = W2 := ⟨_, rfl⟩
  have q1 : Box3 W2 w.heap.size 30 (.int .i64 s) (.bool en) (.slice a len cap) := by rw [← hW2]; exact (Box3.new _ _ _ _ _).alloc _
  have q2 : Box3 W2 (w.heap.size + 1) 30 (.int .i64 0) (.bool false) (.slice none 0 0) := by
    rw [← hW2]
    have := Box3.new (w.alloc (.cells #[.int .i64 s, .bool en, .slice a len cap] 30)) 30 (.int .i64 0) (.bool false) (.slice none 0 0)
    rwa [World.size_alloc] at this
  have HB2 : Hid (Below w.heap.size w W2) := by show Below _ _ _; rw [← hW2]; exact ((Below.refl _ _).alloc (Nat.le_refl _) _).alloc (by simp) _
  have HW2 : Hid (W2.heap.size = w.heap.size + 2) := by show _ = _; rw [← hW2]; simp
  have HQ : Hid (∀ W, Below W2.heap.size W2 W → Box3 W w.heap.size 30 (.int .i64 s) (.bool en) (.slice a len cap) ∧ Box3 W (w.heap.size + 1) 30 (.int .i64 0) (.bool false) (.slice none 0 0)) := fun W h => ⟨q1.stays h, q2.stays h⟩
  rw [hW2]
  clear hW2
  obtain ⟨c0, c1, c2⟩ := q1.cells
  clear q1 q2
  have hne : w.heap.size ≠ w.heap.size + 1 := by omega
  go_region_held3 (fun W => W.cell? ⟨w.heap.size, 0, none⟩ = some (.int .i64 s) ∧ W.cell? ⟨w.heap.size, 1, none⟩ = some (.bool en) ∧ W.cell? ⟨w.heap.size, 2, none⟩ = some (.slice a len cap)) (refine ⟨?_, ?_, ?_⟩ <;> first | assumption | (exact cell_kept hne (cell_kept hne (cell_kept hne (by assumption))))) (first
    | (go_at_call 29; refine (cloneB_any a len cap zs _ (HS.out.below HB2.out.drew) (by omega)).mono ?_; rintro e Y ⟨a4, k4, rfl, og, hb4⟩
       have hb4' : Below W2.heap.size W2 Y := (Below.refl W2.heap.size W2).drew.trans (hb4.mono (Nat.le_refl _))
       obtain ⟨e0, e1, e2⟩ := (HQ.out _ hb4').1.cells
       obtain ⟨g0, g1, g2⟩ := (HQ.out _ hb4').2.cells
       have f0 := (HQ.out _ hb4').2.frozen 0
       have f1 := (HQ.out _ hb4').2.frozen 1
       have f2 := (HQ.out _ hb4').2.frozen 2)
    | fail)
  all_goals
    have h2 := HW2.out
    have hbx := (HQ.out _ hb4').2
    have hbw : Below w.heap.size w Y := HB2.out.trans (hb4'.mono HB2.out.size)
    have hnb : a4.map (·.block) ≠ some (w.heap.size + 1) := fun e => by have h3 := (og.lt _ e).1; have h4 : W2.heap.size ≤ w.heap.size + 1 := h3; omega
    have HO5 : Hid (Owns (((Y.setCell ⟨w.heap.size + 1, 0, none⟩ (.int .i64 s)).setCell ⟨w.heap.size + 1, 1, none⟩ (.bool en)).setCell ⟨w.heap.size + 1, 2, none⟩ (.slice a4 len k4)) w.heap.size a4 len k4 zs ∧ Below w.heap.size w (((Y.setCell ⟨w.heap.size + 1, 0, none⟩ (.int .i64 s)).setCell ⟨w.heap.size + 1, 1, none⟩ (.bool en)).setCell ⟨w.heap.size + 1, 2, none⟩ (.slice a4 len k4))) := by
      refine ⟨(owns_set (owns_set (owns_set og hnb) hnb) hnb).low (by show w.heap.size ≤ W2.heap.size; omega), ?_⟩
      exact ((hbw.setCell (p := ⟨w.heap.size + 1, 0, none⟩) (by show w.heap.size ≤ w.heap.size + 1; omega) _).setCell (p := ⟨w.heap.size + 1, 1, none⟩) (by show w.heap.size ≤ w.heap.size + 1; omega) _).setCell (p := ⟨w.heap.size + 1, 2, none⟩) (by show w.heap.size ≤ w.heap.size + 1; omega) _
    clear og hb4 hb4' h2 hbw hnb
    go_wp2
    refine bodyPost_ret (v := .agg #[.int .i64 s, .bool en, .slice a4 len k4]) (by simp [results, Tryd.f36, go_sem, g0, g1, g2]) rfl ?_
    exact ⟨_, _, rfl, HO5.out.1, HO5.out.2⟩

end Go.Proofs.YtpjldfpipchmjadDoor
