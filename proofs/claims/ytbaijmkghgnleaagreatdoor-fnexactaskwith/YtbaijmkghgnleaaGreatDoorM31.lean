/- The specification's field that is put into a table. -/
import Derived.Test.YtbaijmkghgnleaaGreatDoorM30
import Derived.Test.YtbaijmkghgnleaaGreatDoorM14
import Derived.Shelf.Abstract
namespace Go.Proofs.YtbaijmkghgnleaaGreatDoor
open Go.RowKit
set_option linter.unusedVariables false

set_option maxRecDepth 10000 in
set_option maxHeartbeats 6400000 in
theorem specAdd4_any (m : Int) (a : Option Addr) (len ca : Nat) (xs : List Fld) (x y : ByteArray) (w : World) (hx : Flds w a len xs) (hm : 0 ≤ m) (hm2 : m ≤ 4096) (hf : x.size ≤ maxLen ∧ y.size ≤ maxLen) (hl : 1 + len + (x.size + y.size) + fldBytes xs ≤ 2097152) :
    Calls Tryz.prog 70 #[.agg #[.int .i64 m, .slice a len ca], .agg #[.string x, .string y]] w fun e w' => ∃ v k, e = .returned (.agg #[.int .i64 m, v]) ∧ FitN m.toNat ((x, y) :: xs) k ∧ OwnF w' w.heap.size v k (((x, y) :: xs).take k) ∧ Below w.heap.size w w' := by
  obtain ⟨i0, hi, hz0, hz1, hz2⟩ := info_parts info_field
  have HX : Hid (Flds w a len xs) := hx
  have hlen := hx.1
  have HNil : Hid (a = none → len = 0) := fun h => hx.none_nil h
  clear hx
  have HA : Hid (1 + len ≤ maxLen ∧ (1 + len) * 32 ≤ 140737488355328 ∧ (fieldCells xs).length = len * 2) := ⟨by unfold maxLen; omega, by omega, by rw [fieldCells_len]; omega⟩
  have HFl : Hid (∀ f ∈ (x, y) :: xs, f.1.size ≤ maxLen ∧ f.2.size ≤ maxLen) := by
    intro f hf'
    rcases List.mem_cons.1 hf' with rfl | h
    · exact hf
    · exact HX.out.2.1 f h
  have HSz : Hid (1 + len + fldBytes ((x, y) :: xs) ≤ 2097152) := by
    show _ ≤ _
    simp [fldBytes] at hl ⊢
    omega
  clear hf hl
  go_enter Tryz.func70, Tryz.ntmps70
  go_wp2_with fail
  obtain ⟨w3, hw3⟩ : ∃ w3, ((w.alloc (.cells #[.int .i64 m, .slice a len ca] 32)).alloc (.cells #[.string x, .string y] 69)).alloc (.cells #[.int .i64 0, .slice none 0 0] 32) = w3 := ⟨_, rfl⟩
  have hq1 : w3.heap[w.heap.size]? = some (.cells #[.int .i64 m, .slice a len ca] 32 (0, 0)) := by
    rw [← hw3]
    exact kept_alloc (kept_alloc (heap_alloc_new w _) _) _
  have hq2 : w3.heap[w.heap.size + 1]? = some (.cells #[.string x, .string y] 69 (0, 0)) := by
    rw [← hw3]
    have h1 := kept_alloc (heap_alloc_new (w.alloc (.cells #[.int .i64 m, .slice a len ca] 32)) (.cells #[.string x, .string y] 69)) (.cells #[.int .i64 0, .slice none 0 0] 32)
    rw [World.size_alloc] at h1
    exact h1
  have hq3 : w3.heap[w.heap.size + 1 + 1]? = some (.cells #[.int .i64 0, .slice none 0 0] 32 (0, 0)) := by
    rw [← hw3]
    have h1 := heap_alloc_new ((w.alloc (.cells #[.int .i64 m, .slice a len ca] 32)).alloc (.cells #[.string x, .string y] 69)) (.cells #[.int .i64 0, .slice none 0 0] 32)
    rw [World.size_alloc, World.size_alloc] at h1
    exact h1
  have HB3 : Hid (Below w.heap.size w w3) := by show Below _ _ _; rw [← hw3]; exact (((Below.refl _ _).alloc (Nat.le_refl _) _).alloc (by simp) _).alloc (by simp; omega) _
  have HW3 : Hid (w3.heap.size = w.heap.size + 3) := by show _ = _; rw [← hw3]; simp
  rw [hw3]
  clear hw3
  obtain ⟨W4, hW4⟩ : ∃ W4, w3.alloc (.cells #[.string x, .string y] 69) = W4 := ⟨_, rfl⟩
  have HO : Hid (W4.drew.ownsRow w3.heap.size 69 2 (.slice (some ⟨w3.heap.size, 0, none⟩) 1 1) 1 (fieldCells [(x, y)])) := by
    show World.ownsRow _ _ _ _ _ _ _
    rw [← hW4]
    exact World.ownsRow_lit w3 #[.string x, .string y] 1 (Nat.le_refl _) (by unfold maxLen; omega) rfl
  have HB4 : Hid (Below w3.heap.size w3 W4.drew) := by show Below _ _ _; rw [← hW4]; exact below_drewN ((Below.refl _ _).alloc (Nat.le_refl _) _) 1
  have HF4 : Hid (Flds W4.drew a len xs) := HX.out.below (HB3.out.trans (HB4.out.mono HB3.out.size))
  have HS4 : Hid (w3.heap.size < W4.drew.heap.size) := by show _ < _; rw [← hW4]; simp
  have hu1 : W4.heap[w.heap.size]? = some (.cells #[.int .i64 m, .slice a len ca] 32 (0, 0)) := by rw [← hW4]; exact kept_alloc hq1 _
  have hu2 : W4.heap[w.heap.size + 1]? = some (.cells #[.string x, .string y] 69 (0, 0)) := by rw [← hW4]; exact kept_alloc hq2 _
  have hu3 : W4.heap[w.heap.size + 1 + 1]? = some (.cells #[.int .i64 0, .slice none 0 0] 32 (0, 0)) := by rw [← hW4]; exact kept_alloc hq3 _
  have HU : Hid (∀ W, W4.drew.grownBy W (some w3.heap.size) → W.heap[w.heap.size]? = some (.cells #[.int .i64 m, .slice a len ca] 32 (0, 0)) ∧ W.heap[w.heap.size + 1 + 1]? = some (.cells #[.int .i64 0, .slice none 0 0] 32 (0, 0)) ∧ Below w.heap.size w W ∧ w3.heap.size < W.heap.size) := by
    intro W hg
    have h2 := HW3.out
    have h3 := HS4.out
    exact ⟨(hg.block _ (by omega) (by intro e; injection e with e; omega)).trans hu1, (hg.block _ (by omega) (by intro e; injection e with e; omega)).trans hu3, (HB3.out.trans (HB4.out.mono HB3.out.size)).grown hg (by omega) (fun k hk => by injection hk with hk; omega), Nat.lt_of_lt_of_le h3 hg.size⟩
  have HEnt : Hid (∀ args w, (callFunc 82 args).run Tryz.prog w = .ok (.enter 82 args) w) := Go.Proofs.enters_of Tryz.func82 (by kernel_rfl) rfl
  have HFC : Hid (∀ (a5 : Option Addr) (cap5 : Nat) (w5 : World), w5.ownsRow w3.heap.size 69 2 (.slice a5 (1 + len) cap5) (1 + len) (fieldCells [(x, y)] ++ fieldCells xs) → Calls Tryz.prog 82 #[.agg #[.int .i64 m, .slice a5 (1 + len) cap5]] w5 fun e w' => ∃ k, e = .returned (.agg #[.int .i64 m, .slice a5 k cap5]) ∧ FitN m.toNat ((x, y) :: xs) k ∧ Below w5.heap.size w5 w') := by
    intro a5 cap5 w5 ho
    have hof : OwnF w5 w3.heap.size (.slice a5 (1 + len) cap5) (1 + len) ((x, y) :: xs) := ⟨ho, HFl.out⟩
    exact specFit_any m a5 (1 + len) cap5 ((x, y) :: xs) w5 hof.flds hm hm2 (own_cap ho) HSz.out
  obtain ⟨c0, c1, _, _⟩ := two_cells hq1
  obtain ⟨c2, c3, _, _⟩ := two_cells hq2
  obtain ⟨d0, d1, _, _⟩ := two_cells hu1
  obtain ⟨d2, d3, _, _⟩ := two_cells hu2
  clear hq1 hq2 hq3 hu1 hu2 hu3
  have HW : Hid (w3.alloc (.cells #[.string x, .string y] 69) = W4) := hW4
  go_region_law (first
    | (refine step_append_src rfl (.tmp 8) (.tmp 10) 30 rfl w3.heap.size 69 i0 (.agg #[.string ⟨#[]⟩, .string ⟨#[]⟩]) 2 32 Tryz.underlying30 hi hz0 hz1 hz2 rfl (by decide) w3.heap.size 1 1 (fieldCells [(x, y)]) rfl HO.out a len ca (fieldCells xs) rfl HNil.out HA.out.2.2 HF4.out.cells (fieldCells_one xs) HA.out.1 HA.out.2.1 (Nat.le_of_lt HS4.out) ?_; intro v5 w5 hown hgrow; obtain ⟨a5, cap5, rfl⟩ := own_shape hown; obtain ⟨e0, e1, _, _⟩ := two_cells (HU.out w5 hgrow).1)
    | (refine step_call_any rfl 82 (.tmp 12) 32 rfl HEnt.out (.agg #[.int .i64 m, .slice a5 (1 + len) cap5]) rfl _ (HFC.out a5 cap5 w5 hown) ?_; rintro e w6 ⟨k, rfl, hfit, hb6⟩; refine ⟨_, rfl, ?_⟩; obtain ⟨g0, g1, g2, g3⟩ := two_cells ((hb6.block _ (Array.getElem?_eq_some_iff.1 (HU.out w5 hgrow).2.1).1).trans (HU.out w5 hgrow).2.1)))
  all_goals
    obtain ⟨t1, t2, t3, t4⟩ := HU.out w5 hgrow
    have h3 := HW3.out
    have hne := own_some hown (by omega)
    have hof : OwnF w6 w3.heap.size (.slice a5 (1 + len) cap5) (1 + len) ((x, y) :: xs) := ⟨own_stays hown hb6, HFl.out⟩
    have hfk := hfit.1
    rw [List.length_cons, hlen] at hfk
    have hok := hof.take k (by omega) hne
    have HO6 : Hid (OwnF ((w6.setCell ⟨w.heap.size + 1 + 1, 0, none⟩ (.int .i64 m)).setCell ⟨w.heap.size + 1 + 1, 1, none⟩ (.slice a5 k cap5)) w.heap.size (.slice a5 k cap5) k (((x, y) :: xs).take k)) :=
      ⟨own_down (ownsRow_setCell_below (ownsRow_setCell_below hok.1 (a := ⟨w.heap.size + 1 + 1, 0, none⟩) (by dsimp only; omega) _) (a := ⟨w.heap.size + 1 + 1, 1, none⟩) (by dsimp only; omega) _) (by omega), hok.2⟩
    have HB6 : Hid (Below w.heap.size w ((w6.setCell ⟨w.heap.size + 1 + 1, 0, none⟩ (.int .i64 m)).setCell ⟨w.heap.size + 1 + 1, 1, none⟩ (.slice a5 k cap5))) :=
      ((t3.trans (hb6.mono t3.size)).setCell (p := ⟨w.heap.size + 1 + 1, 0, none⟩) (by dsimp only; omega) _).setCell (p := ⟨w.heap.size + 1 + 1, 1, none⟩) (by dsimp only; omega) _
    have HFit : Hid (FitN m.toNat ((x, y) :: xs) k) := hfit
    clear t1 t2 t3 t4 h3 hne hof hfk hok hown hgrow hb6 hfit e0 e1
    go_wp2
    refine bodyPost_ret (v := .agg #[.int .i64 m, .slice a5 k cap5]) (by simp [results, Tryz.f70, go_sem, g0, g1]) rfl ?_
    exact ⟨_, k, rfl, HFit.out, HO6.out, HB6.out⟩

end Go.Proofs.YtbaijmkghgnleaaGreatDoor
