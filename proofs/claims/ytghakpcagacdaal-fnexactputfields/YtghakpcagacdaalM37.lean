/- The specification's copy of a table. -/
import Derived.Test.YtghakpcagacdaalM13
import Derived.Test.YtghakpcagacdaalM19
namespace Go.Proofs.Ytghakpcagacdaal
open Go.RowKit
set_option linter.unusedVariables false

set_option maxRecDepth 10000 in
set_option maxHeartbeats 1600000 in
theorem specCopy_any (m : Int) (a : Option Addr) (len ca : Nat) (xs : List Fld) (w : World) (hx : Flds w a len xs) (hl : len ≤ 2097152) :
    Calls Try.prog 49 #[.agg #[.int .i64 m, .slice a len ca]] w fun e w' => ∃ v, e = .returned (.agg #[.int .i64 m, v]) ∧ OwnF w' w.heap.size v len xs ∧ Below w.heap.size w w' := by
  obtain ⟨i0, hi, hz0, hz1, hz2⟩ := info_parts info_field
  have HX : Hid (Flds w a len xs) := hx
  have hlen := hx.1
  have hnil := fun h => hx.none_nil h
  have HNil : Hid (a = none → len = 0) := hnil
  clear hx hnil
  have HA : Hid (0 + len ≤ maxLen ∧ (0 + len) * 32 ≤ 140737488355328 ∧ (fieldCells xs).length = len * 2) := ⟨by unfold maxLen; omega, by omega, by rw [fieldCells_len]; omega⟩
  go_enter Try.func49, Try.ntmps49
  go_wp2_with fail
  obtain ⟨w2, hw2⟩ : ∃ w2, (w.alloc (.cells #[.int .i64 m, .slice a len ca] 40)).alloc (.cells #[.int .i64 0, .slice none 0 0] 40) = w2 := ⟨_, rfl⟩
  have hq1 : w2.heap[w.heap.size]? = some (.cells #[.int .i64 m, .slice a len ca] 40 (0, 0)) := by
    rw [← hw2]
    have h1 := heap_alloc_new w (.cells #[.int .i64 m, .slice a len ca] 40)
    have hlt : w.heap.size < (w.alloc (.cells #[.int .i64 m, .slice a len ca] 40)).heap.size := by simp
    exact (((Below.refl _ _).alloc (Nat.le_refl _) (.cells #[.int .i64 0, .slice none 0 0] 40)).block _ hlt).trans h1
  have hq2 : w2.heap[w.heap.size + 1]? = some (.cells #[.int .i64 0, .slice none 0 0] 40 (0, 0)) := by
    rw [← hw2]
    have h1 := heap_alloc_new (w.alloc (.cells #[.int .i64 m, .slice a len ca] 40)) (.cells #[.int .i64 0, .slice none 0 0] 40)
    simpa using h1
  have HB2 : Hid (Below w.heap.size w w2) := by show Below _ _ _; rw [← hw2]; exact ((Below.refl _ _).alloc (Nat.le_refl _) _).alloc (by simp) _
  have hs2 : w2.heap.size = w.heap.size + 2 := by rw [← hw2]; simp
  have HW2 : Hid (w2.heap.size = w.heap.size + 2) := hs2
  rw [hw2]
  clear hw2 hs2
  have HO : Hid ((w2.alloc (.cells #[] 44)).drew.ownsRow w2.heap.size 44 2 (.slice (some ⟨w2.heap.size, 0, none⟩) 0 0) 0 []) := World.ownsRow_lit w2 #[] 0 (Nat.le_refl _) (Nat.zero_le _) rfl
  have HB3 : Hid (Below w2.heap.size w2 (w2.alloc (.cells #[] 44)).drew) := below_drewN ((Below.refl _ _).alloc (Nat.le_refl _) _) 1
  have HF3 : Hid (Flds (w2.alloc (.cells #[] 44)).drew a len xs) := HX.out.below (HB2.out.trans (HB3.out.mono HB2.out.size))
  have HS3 : Hid (w2.heap.size ≤ (w2.alloc (.cells #[] 44)).drew.heap.size) := HB3.out.size
  have hu1 : (w2.alloc (.cells #[] 44)).heap[w.heap.size]? = some (.cells #[.int .i64 m, .slice a len ca] 40 (0, 0)) := (HB3.out.block _ (by have := HW2.out; omega)).trans hq1
  have hu2 : (w2.alloc (.cells #[] 44)).heap[w.heap.size + 1]? = some (.cells #[.int .i64 0, .slice none 0 0] 40 (0, 0)) := (HB3.out.block _ (by have := HW2.out; omega)).trans hq2
  have HU : Hid (∀ W, (w2.alloc (.cells #[] 44)).drew.grownBy W (some w2.heap.size) → W.heap[w.heap.size]? = some (.cells #[.int .i64 m, .slice a len ca] 40 (0, 0)) ∧ W.heap[w.heap.size + 1]? = some (.cells #[.int .i64 0, .slice none 0 0] 40 (0, 0))) := by
    intro W hg
    have h2 := HW2.out
    have h3 := HS3.out
    exact ⟨(hg.block _ (by omega) (by intro e; injection e with e; omega)).trans hu1, (hg.block _ (by omega) (by intro e; injection e with e; omega)).trans hu2⟩
  obtain ⟨c0, c1, _, _⟩ := two_cells hq1
  obtain ⟨d0, d1, _, _⟩ := two_cells hu1
  clear hq1 hq2 hu1 hu2
  go_region_law (first
    | (refine step_append_src rfl (.tmp 5) (.tmp 7) 38 rfl w2.heap.size 44 i0 (.agg #[.string ⟨#[]⟩, .string ⟨#[]⟩]) 2 32 Try.underlying38 hi hz0 hz1 hz2 rfl (by decide) w2.heap.size 0 0 [] rfl HO.out a len ca (fieldCells xs) rfl HNil.out HA.out.2.2 HF3.out.cells (fieldCells_one xs) HA.out.1 HA.out.2.1 HS3.out ?_; intro v4 w4 hown hgrow; obtain ⟨a4, cap4, rfl⟩ := own_shape hown; obtain ⟨e0, e1, _, _⟩ := two_cells (HU.out w4 hgrow).1; obtain ⟨g0, g1, g2, g3⟩ := two_cells (HU.out w4 hgrow).2))
  all_goals
    rw [Nat.zero_add, List.nil_append] at hown
    have h2 := HW2.out
    have HO4 : Hid (OwnF ((w4.setCell ⟨w.heap.size + 1, 0, none⟩ (.int .i64 m)).setCell ⟨w.heap.size + 1, 1, none⟩ (.slice a4 len cap4)) w.heap.size (.slice a4 len cap4) len xs) :=
      ⟨own_down (ownsRow_setCell_below (ownsRow_setCell_below hown (a := ⟨w.heap.size + 1, 0, none⟩) (by dsimp only; omega) _) (a := ⟨w.heap.size + 1, 1, none⟩) (by dsimp only; omega) _) (by omega), HX.out.2.1⟩
    have HB4 : Hid (Below w.heap.size w ((w4.setCell ⟨w.heap.size + 1, 0, none⟩ (.int .i64 m)).setCell ⟨w.heap.size + 1, 1, none⟩ (.slice a4 len cap4))) := by
      have h1 : Below w.heap.size w w4 := (HB2.out.trans (HB3.out.mono HB2.out.size)).grown hgrow (by have := HS3.out; omega) (fun k hk => by injection hk with hk; omega)
      exact (h1.setCell (p := ⟨w.heap.size + 1, 0, none⟩) (by dsimp only; omega) _).setCell (p := ⟨w.heap.size + 1, 1, none⟩) (by dsimp only; omega) _
    clear hown hgrow h2
    go_wp2
    refine bodyPost_ret (v := .agg #[.int .i64 m, .slice a4 len cap4]) (by simp [results, Try.f49, go_sem, g0, g1]) rfl ?_
    exact ⟨_, rfl, HO4.out, HB4.out⟩

end Go.Proofs.Ytghakpcagacdaal
