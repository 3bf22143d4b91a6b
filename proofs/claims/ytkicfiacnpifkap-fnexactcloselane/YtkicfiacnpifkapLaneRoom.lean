/- A row of lanes in a block with room behind them: copies into it, an append of one lane, an append of zeros; a row that is cut and cleared. No program in it but its table of types. -/
import Derived.Test.YtkicfiacnpifkapLaneCut
import Derived.Test.YtkicfiacnpifkapStrStep
import Derived.Test.YtkicfiacnpifkapBox3
import Derived.Lib.AppendZerosOnto
import Derived.Lib.SliceRun
namespace Go.Proofs.Ytkicfiacnpifkap
open Go.RowKit
set_option linter.unusedVariables false

/-- A block of lanes, with all its cells. -/
def RowL (w : World) (g C : Nat) (cs : List Value) : Prop := w.heap[g]? = some (.cells cs.toArray 43 (0, 0)) ∧ cs.length = C * 2

theorem OwnL.row {w : World} {base g n C : Nat} {l : List Lane} (h : OwnL w base (some ⟨g, 0, none⟩) n C l) : ∃ rest, RowL w g C (laneCells l ++ rest) ∧ base ≤ g ∧ n ≤ C ∧ C ≤ maxLen := by
  rcases h.1.2 with ⟨h0, _⟩ | ⟨g', cap', cur, he, hb, hg, hn, hm, hc, ht⟩
  · cases h0
  · injection he with e1 e2 e3
    injection e1 with e1
    injection e1 with e1
    subst e1
    subst e3
    refine ⟨cur.toList.drop (n * 2), ⟨?_, ?_⟩, hb, hn, hm⟩
    · rw [← ht, List.take_append_drop]
      simpa using hg
    · rw [← ht, List.take_append_drop]
      simpa using hc

theorem RowL.own {w : World} {base g n C : Nat} {l : List Lane} {rest : List Value} (h : RowL w g C (laneCells l ++ rest)) (hb : base ≤ g) (hc : C ≤ maxLen) (hl : l.length = n) (hi : ∀ s ∈ l, i64b s.1 ∧ i64b s.2) : OwnL w base (some ⟨g, 0, none⟩) n C l := by
  have h2 := h.2
  rw [List.length_append, laneCells_len] at h2
  refine ⟨⟨by rw [laneCells_len, hl], .inr ⟨g, C, _, rfl, hb, h.1, by omega, hc, by simpa using h.2, ?_⟩⟩, hi⟩
  have : n * 2 = (laneCells l).length := by rw [laneCells_len, hl]
  rw [this]
  simp

theorem RowL.cell {w : World} {g C : Nat} {cs : List Value} (h : RowL w g C cs) (j : Nat) : w.cell? ⟨g, j, none⟩ = cs[j]? := by
  rw [cell_of_row w g j _ _ (0, 0) h.1]
  simp

theorem RowL.frozen {w : World} {g C : Nat} {cs : List Value} (h : RowL w g C cs) (j : Nat) : w.frozen? ⟨g, j, none⟩ = false := by simp [World.frozen?, h.1]

theorem RowL.lt {w : World} {g C : Nat} {cs : List Value} (h : RowL w g C cs) : g < w.heap.size := (Array.getElem?_eq_some_iff.1 h.1).1

theorem RowL.kept {w w' : World} {g C : Nat} {cs : List Value} {r : Option Nat} (h : RowL w g C cs) (hg : w.grownBy w' r) (hr : r ≠ some g) : RowL w' g C cs := ⟨(hg.block g h.lt (Ne.symm hr)).trans h.1, h.2⟩

/-- 'copy' of lanes into a row. -/
theorem copyL_run (w : World) (dT sT ty : TypeId) (hu : Try.prog.underlying dT = some (.slice 43)) (g C o dLen dCap : Nat) (P T S : List Value) (a : Addr) (sLen sCap : Nat) (zs : List Lane)
    (hr : RowL w g C (P ++ T ++ S)) (hT : T.length = zs.length * 2) (ho : P.length = o) (hk : zs.length = Nat.min sLen dLen) (hsrc : ∀ j v, (laneCells zs)[j]? = some v → w.cell? (a.add j) = some v) :
    ∃ w2, (Builtin.copy_ #[dT, sT] ty #[.slice (some ⟨g, o, none⟩) dLen dCap, .slice (some a) sLen sCap]).run Try.prog w = .ok (goInt zs.length) w2 ∧ RowL w2 g C (P ++ laneCells zs ++ S) ∧ w.grownBy w2 (some g) := by
  obtain ⟨i0, hi, hz0, hz1, hz2⟩ := info_parts info_lane
  have hl := run_loadCells_list (P := Try.prog) w a (laneCells zs) hsrc
  have hst := run_storeCells_at Try.prog g o _ (laneCells zs) 0 _ w hr.1 (by simp [laneCells_len, hT]; omega) (laneCells_one zs)
  have hzl := laneCells_len zs
  refine ⟨w.setRow g (P ++ laneCells zs ++ S).toArray, ?_, ⟨setRow_heap w g _ _ _ _ hr.1, ?_⟩, ⟨rfl, rfl, rfl, by simp, fun k _ hk => setRow_other w g k _ (fun e => hk (by simp [e]))⟩⟩
  · have e1 : ((P ++ T ++ S).toArray.toList.take (o + 0) ++ laneCells zs ++ (P ++ T ++ S).toArray.toList.drop (o + 0 + (laneCells zs).length)).toArray = (P ++ laneCells zs ++ S).toArray := by
      subst ho
      rw [hzl, ← hT]
      simp [List.drop_append]
    rw [e1] at hst
    rw [hzl] at hl
    simp [Builtin.copy_, run_underlying hu, Builtin.lenOf, Builtin.firstCells, sizeOf, typeInfo, hi, hz1, ← hk, hl, hst]
  · have := hr.2
    simp only [List.length_append] at this ⊢
    omega

/-- An append of one lane onto a row of the call's own, or onto none. -/
theorem appL_run (w : World) (base : Nat) (t tx ty : TypeId) (ht : Try.prog.underlying t = some (.slice 43)) (a : Option Addr) (n cap : Nat) (l : List Lane) (hown : OwnL w base a n cap l)
    (x : Value) (m : Nat) (zs : List Lane) (hs : Src Try.prog 2 tx x m (laneCells zs) w) (hzi : ∀ s ∈ zs, i64b s.1 ∧ i64b s.2) (hm : 0 < m) (h63 : n + m ≤ 2097152) (hbase : base ≤ w.heap.size) :
    ∃ A' C' w', (Builtin.append_ #[t, tx] ty #[.slice a n cap, x]).run Try.prog w = .ok (.slice A' (n + m) C') w' ∧ OwnL w' base A' (n + m) C' (l ++ zs) ∧ w.grownBy w' (a.map (·.block)) := by
  obtain ⟨i0, hi, hz0, hz1, hz2⟩ := info_parts info_lane
  have hll : ∀ s ∈ l ++ zs, i64b s.1 ∧ i64b s.2 := fun s hs => by
    rcases List.mem_append.1 hs with h | h
    · exact hown.2 s h
    · exact hzi s h
  rcases hown.1.2 with ⟨h0, hn0⟩ | ⟨g, cap', cur, he, hb, hg, hn, hmx, hc, htk⟩
  · injection h0 with e1 e2 e3
    subst e1 e2 e3
    have hl0 : l = [] := List.eq_nil_of_length_eq_zero hown.len
    subst hl0
    have hs' : Src Try.prog i0.size tx x m (laneCells zs) w := by rw [hz1]; exact hs
    have hr := run_append_grow_src (P := Try.prog) w t tx ty 43 i0 _ ht hi hz0 none 0 0 [] (run_firstCells_none w.drew i0.size 0 0 0) x m (laneCells zs) hs' (by omega) (by omega) (growslice_fits (by omega) (by rw [hz2]; omega))
    have hge := grownCap_ge w (0 + m) 0 43
    have hcm' : grownCap w (0 + m) 0 43 ≤ maxLen := grownCap_le_maxLen w (0 + m) 0 _ (by unfold maxLen; omega)
    have hl2 := hs.newsLen
    refine ⟨_, _, _, hr, ⟨⟨by rw [List.nil_append, hl2]; omega, .inr ⟨w.heap.size, _, _, rfl, hbase, heap_alloc_new w.drew _, hge, hcm', ?_, ?_⟩⟩, hll⟩, ⟨rfl, rfl, rfl, by simp, fun k hk _ => heap_alloc_old w.drew _ hk⟩⟩
    · simp only [Array.size_append, List.size_toArray, List.nil_append, size_zeroCells, hl2]
      show m * 2 + (_ - _) * 2 = _
      omega
    · simp only [Array.toList_append, List.nil_append]
      have : (0 + m) * 2 = (laneCells zs).length := by rw [hl2]; omega
      rw [this]
      exact List.take_left
  · injection he with e1 e2 e3
    subst e1 e3
    obtain ⟨v', w', hr, ho', hg'⟩ := run_append_any (P := Try.prog) w base t tx ty 43 i0 _ 2 16 ht hi hz0 hz1 hz2 rfl (by decide) g n cap (laneCells l) hown.1 x m (laneCells zs) hs (by unfold maxLen; omega) (by omega) hbase
    obtain ⟨A', C', rfl⟩ := ownL_shape ho'
    exact ⟨A', C', w', hr, ⟨by rw [laneCells_append]; exact ho', hll⟩, hg'⟩

end Go.Proofs.Ytkicfiacnpifkap
