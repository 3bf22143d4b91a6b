/- A row of uploads in a block with room behind them: copies into it, an append of one; a row that is cut and cleared. No program in it but its table of types. -/
import Derived.Test.YtogopmngbjkcjauUpSnoc
import Derived.Test.YtogopmngbjkcjauStrStep
import Derived.Test.YtogopmngbjkcjauBox3
import Derived.Lib.AppendZerosOnto
import Derived.Lib.SliceRun
import Derived.Deep.AppendSrc
namespace Go.Proofs.Ytogopmngbjkcjau
open Go.RowKit
set_option linter.unusedVariables false

/-- A row of uploads of the call's own: its cells alone. -/
def OwnU (w : World) (base : Nat) (a : Option Addr) (n cap : Nat) (l : List UE) : Prop := w.ownsRow base 31 4 (.slice a n cap) n (ueCells l)

theorem OwnU.len {w : World} {base n cap : Nat} {a : Option Addr} {l : List UE} (h : OwnU w base a n cap l) : l.length = n := by
  have h1 : (ueCells l).length = n * 4 := h.1
  rw [ueCells_len] at h1
  omega

theorem OwnU.below {w w' : World} {base n cap : Nat} {a : Option Addr} {l : List UE} (h : OwnU w base a n cap l) (hb : Below w.heap.size w w') : OwnU w' base a n cap l := own_below h hb

theorem OwnU.lt {w : World} {base n cap : Nat} {a : Option Addr} {l : List UE} (h : OwnU w base a n cap l) : ∀ q, a.map (·.block) = some q → base ≤ q ∧ q < w.heap.size := fun q hq => World.ownsRow.lt h q (by rw [ownBlock_sU]; exact hq)

theorem OwnU.kept {w w' : World} {base n cap : Nat} {a : Option Addr} {l : List UE} {r : Option Nat} (h : OwnU w base a n cap l) (hg : w.grownBy w' r) (hr : ∀ q, r = some q → a.map (·.block) ≠ some q) : OwnU w' base a n cap l := by
  refine World.ownsRow.kept h hg ?_
  rw [ownBlock_sU]
  cases e : a.map (·.block) with
  | none => exact .inl rfl
  | some k => exact .inr (fun h2 => hr k h2.symm e)

/-- A block of uploads, with all its cells. -/
def RowU (w : World) (g C : Nat) (cs : List Value) : Prop := w.heap[g]? = some (.cells cs.toArray 31 (0, 0)) ∧ cs.length = C * 4

theorem OwnU.row {w : World} {base g n C : Nat} {l : List UE} (h : OwnU w base (some ⟨g, 0, none⟩) n C l) : ∃ rest, RowU w g C (ueCells l ++ rest) ∧ base ≤ g ∧ n ≤ C ∧ C ≤ maxLen := by
  rcases h.2 with ⟨h0, _⟩ | ⟨g', cap', cur, he, hb, hg, hn, hm, hc, ht⟩
  · cases h0
  · injection he with e1 e2 e3
    injection e1 with e1
    injection e1 with e1
    subst e1
    subst e3
    refine ⟨cur.toList.drop (n * 4), ⟨?_, ?_⟩, hb, hn, hm⟩
    · rw [← ht, List.take_append_drop]
      simpa using hg
    · rw [← ht, List.take_append_drop]
      simpa using hc

theorem RowU.own {w : World} {base g n C : Nat} {l : List UE} {rest : List Value} (h : RowU w g C (ueCells l ++ rest)) (hb : base ≤ g) (hc : C ≤ maxLen) (hl : l.length = n) : OwnU w base (some ⟨g, 0, none⟩) n C l := by
  have h2 := h.2
  rw [List.length_append, ueCells_len] at h2
  refine ⟨by rw [ueCells_len, hl], .inr ⟨g, C, _, rfl, hb, h.1, by omega, hc, by simpa using h.2, ?_⟩⟩
  have : n * 4 = (ueCells l).length := by rw [ueCells_len, hl]
  rw [this]
  simp

theorem RowU.cell {w : World} {g C : Nat} {cs : List Value} (h : RowU w g C cs) (j : Nat) : w.cell? ⟨g, j, none⟩ = cs[j]? := by
  rw [cell_of_row w g j _ _ (0, 0) h.1]
  simp

theorem RowU.lt {w : World} {g C : Nat} {cs : List Value} (h : RowU w g C cs) : g < w.heap.size := (Array.getElem?_eq_some_iff.1 h.1).1

theorem ueCells_drop (l : List UE) (i : Nat) : ueCells (l.drop i) = (ueCells l).drop (i * 4) := by
  by_cases h : i ≤ l.length
  · have e : ueCells l = ueCells (l.take i) ++ ueCells (l.drop i) := by rw [← ueCells_append, List.take_append_drop]
    have hl : (ueCells (l.take i)).length = i * 4 := by rw [ueCells_len, List.length_take]; omega
    rw [e, ← hl, List.drop_left]
  · rw [List.drop_of_length_le (by omega), List.drop_of_length_le (by rw [ueCells_len]; omega)]
    rfl

/-- The cells of a row from the i-th upload on. -/
theorem OwnU.src {w : World} {base g n C : Nat} {l : List UE} (h : OwnU w base (some ⟨g, 0, none⟩) n C l) (i : Nat) : ∀ j v, (ueCells (l.drop i))[j]? = some v → w.cell? ((⟨g, i * 4, none⟩ : Addr).add j) = some v := by
  intro j v hj
  rw [ueCells_drop, List.getElem?_drop] at hj
  have hlt := (List.getElem?_eq_some_iff.1 hj).1
  have hc := World.ownsRow.cellAt h (i * 4 + j) (by rw [ueCells_len] at hlt; have := h.len; omega)
  rw [Addr.add_lit]
  exact hc.trans hj

theorem OwnU.src0 {w : World} {base g n C : Nat} {l : List UE} (h : OwnU w base (some ⟨g, 0, none⟩) n C l) (i : Nat) : ∀ j v, (ueCells (l.take i))[j]? = some v → w.cell? ((⟨g, 0, none⟩ : Addr).add j) = some v := by
  intro j v hj
  have e : ueCells l = ueCells (l.take i) ++ ueCells (l.drop i) := by rw [← ueCells_append, List.take_append_drop]
  have hlt := (List.getElem?_eq_some_iff.1 hj).1
  have hj2 : (ueCells l)[j]? = some v := by rw [e, List.getElem?_append_left hlt]; exact hj
  have hlt2 := (List.getElem?_eq_some_iff.1 hj2).1
  have hc := World.ownsRow.cellAt h j (by rw [ueCells_len] at hlt2; have := h.len; omega)
  rw [Addr.add_lit, Nat.zero_add]
  exact hc.trans hj2

/-- 'copy' of uploads into a row. -/
theorem copyU_run (w : World) (dT sT ty : TypeId) (hu : Try.prog.underlying dT = some (.slice 31)) (g C o dLen dCap : Nat) (P T S : List Value) (a : Addr) (sLen sCap : Nat) (zs : List UE)
    (hr : RowU w g C (P ++ T ++ S)) (hT : T.length = zs.length * 4) (ho : P.length = o) (hk : zs.length = Nat.min sLen dLen) (hsrc : ∀ j v, (ueCells zs)[j]? = some v → w.cell? (a.add j) = some v) :
    ∃ w2, (Builtin.copy_ #[dT, sT] ty #[.slice (some ⟨g, o, none⟩) dLen dCap, .slice (some a) sLen sCap]).run Try.prog w = .ok (goInt zs.length) w2 ∧ RowU w2 g C (P ++ ueCells zs ++ S) ∧ w.grownBy w2 (some g) := by
  obtain ⟨i0, hi, hz0, hz1, hz2⟩ := info_parts info_up
  have hl := run_loadCells_list (P := Try.prog) w a (ueCells zs) hsrc
  have hst := run_storeCells_at Try.prog g o _ (ueCells zs) 0 _ w hr.1 (by simp [ueCells_len, hT]; omega) (ueCells_one zs)
  have hzl := ueCells_len zs
  refine ⟨w.setRow g (P ++ ueCells zs ++ S).toArray, ?_, ⟨setRow_heap w g _ _ _ _ hr.1, ?_⟩, ⟨rfl, rfl, rfl, by simp, fun k _ hk => setRow_other w g k _ (fun e => hk (by simp [e]))⟩⟩
  · have e1 : ((P ++ T ++ S).toArray.toList.take (o + 0) ++ ueCells zs ++ (P ++ T ++ S).toArray.toList.drop (o + 0 + (ueCells zs).length)).toArray = (P ++ ueCells zs ++ S).toArray := by
      subst ho
      rw [hzl, ← hT]
      simp [List.drop_append]
    rw [e1] at hst
    rw [hzl] at hl
    simp [Builtin.copy_, run_underlying hu, Builtin.lenOf, Builtin.firstCells, sizeOf, typeInfo, hi, hz1, ← hk, hl, hst]
  · have := hr.2
    simp only [List.length_append] at this ⊢
    omega

/-- An append of uploads onto a row of the call's own, or onto none. -/
theorem appU_run (w : World) (base : Nat) (t tx ty : TypeId) (ht : Try.prog.underlying t = some (.slice 31)) (a : Option Addr) (n cap : Nat) (l : List UE) (hown : OwnU w base a n cap l)
    (x : Value) (m : Nat) (zs : List UE) (hs : Src Try.prog 4 tx x m (ueCells zs) w) (hm : 0 < m) (h63 : n + m ≤ 2097152) (hbase : base ≤ w.heap.size) :
    ∃ A' C' w', (Builtin.append_ #[t, tx] ty #[.slice a n cap, x]).run Try.prog w = .ok (.slice A' (n + m) C') w' ∧ OwnU w' base A' (n + m) C' (l ++ zs) ∧ w.grownBy w' (a.map (·.block)) := by
  obtain ⟨i0, hi, hz0, hz1, hz2⟩ := info_parts info_up
  rcases hown.2 with ⟨h0, hn0⟩ | ⟨g, cap', cur, he, hb, hg, hn, hmx, hc, htk⟩
  · injection h0 with e1 e2 e3
    subst e1 e2 e3
    have hl0 : l = [] := List.eq_nil_of_length_eq_zero hown.len
    subst hl0
    have hs' : Src Try.prog i0.size tx x m (ueCells zs) w := by rw [hz1]; exact hs
    have hr := run_append_grow_src (P := Try.prog) w t tx ty 31 i0 _ ht hi hz0 none 0 0 [] (run_firstCells_none w.drew i0.size 0 0 0) x m (ueCells zs) hs' (by omega) (by omega) (growslice_fits (by omega) (by rw [hz2]; omega))
    have hge := grownCap_ge w (0 + m) 0 31
    have hcm' : grownCap w (0 + m) 0 31 ≤ maxLen := grownCap_le_maxLen w (0 + m) 0 _ (by unfold maxLen; omega)
    have hl2 := hs.newsLen
    refine ⟨_, _, _, hr, ⟨by rw [List.nil_append, hl2]; omega, .inr ⟨w.heap.size, _, _, rfl, hbase, heap_alloc_new w.drew _, hge, hcm', ?_, ?_⟩⟩, ⟨rfl, rfl, rfl, by simp, fun k hk _ => heap_alloc_old w.drew _ hk⟩⟩
    · simp only [Array.size_append, List.size_toArray, List.nil_append, size_zeroCells, hl2]
      show m * 4 + (_ - _) * 4 = _
      omega
    · simp only [Array.toList_append, List.nil_append]
      have : (0 + m) * 4 = (ueCells zs).length := by rw [hl2]; omega
      rw [this]
      exact List.take_left
  · injection he with e1 e2 e3
    subst e1 e3
    obtain ⟨v', w', hr, ho', hg'⟩ := run_append_any (P := Try.prog) w base t tx ty 31 i0 _ 4 56 ht hi hz0 hz1 hz2 rfl (by decide) g n cap (ueCells l) hown x m (ueCells zs) hs (by unfold maxLen; omega) (by omega) hbase
    obtain ⟨A', C', rfl⟩ : ∃ A' C', v' = .slice A' (n + m) C' := by
      rcases ho'.2 with ⟨rfl, h0⟩ | ⟨g, cap, cur, rfl, _⟩
      · rw [h0]; exact ⟨_, _, rfl⟩
      · exact ⟨_, _, rfl⟩
    exact ⟨A', C', w', hr, by rw [OwnU, ueCells_append]; exact ho', hg'⟩

/-- 'clear' of uploads in a row. -/
theorem clearU_run (w : World) (t ty : TypeId) (hu : Try.prog.underlying t = some (.slice 31)) (g C o m c : Nat) (P T S : List Value) (hr : RowU w g C (P ++ T ++ S)) (hT : T.length = m * 4) (ho : P.length = o) (hm : 0 < m) :
    ∃ w2 Z, (Builtin.clear_ #[t] ty #[.slice (some ⟨g, o, none⟩) m c]).run Try.prog w = .ok (.tuple #[]) w2 ∧ RowU w2 g C (P ++ Z) ∧ w.grownBy w2 (some g) := by
  obtain ⟨i0, hi, hz0, hz1, hz2⟩ := info_parts info_up
  have hv : ∀ w, (zeroValue 31).run Try.prog w = .ok (.agg #[.string ⟨#[]⟩, .int .i64 0, .slice none 0 0, .bool false]) w := fun w => by simp [zeroValue, typeInfo, hi, hz0]
  obtain ⟨cs, hcs⟩ : ∃ cs, (Builtin.zeroCells (Value.agg #[.string ⟨#[]⟩, .int .i64 0, .slice none 0 0, .bool false]).cells m) = cs := ⟨_, rfl⟩
  have hcl : cs.size = m * 4 := by
    rw [← hcs, size_zeroCells]
    rfl
  have h1 : ∀ v ∈ cs.toList, v.oneCell' = true := by
    intro v hv'
    rw [← hcs] at hv'
    simp only [Builtin.zeroCells, Value.cells, Array.toList_map, List.mem_map] at hv'
    obtain ⟨k, _, hk⟩ := hv'
    rw [← hk]
    have : k % 4 = 0 ∨ k % 4 = 1 ∨ k % 4 = 2 ∨ k % 4 = 3 := by omega
    rcases this with h | h | h | h <;> simp [h, Value.oneCell']
  have hst := run_storeCells_at Try.prog g o _ cs.toList 0 _ w hr.1 (by simp [hcl, hT]; omega) h1
  obtain ⟨m', rfl⟩ : ∃ m', m = m' + 1 := ⟨m - 1, by omega⟩
  refine ⟨w.setRow g (P ++ (cs.toList ++ S)).toArray, cs.toList ++ S, ?_, ⟨setRow_heap w g _ _ _ _ hr.1, ?_⟩, ⟨rfl, rfl, rfl, by simp, fun k _ hk => setRow_other w g k _ (fun e => hk (by simp [e]))⟩⟩
  · have e1 : ((P ++ T ++ S).toArray.toList.take (o + 0) ++ cs.toList ++ (P ++ T ++ S).toArray.toList.drop (o + 0 + cs.toList.length)).toArray = (P ++ (cs.toList ++ S)).toArray := by
      have e2 : cs.toList.length = T.length := by rw [Array.length_toList, hcl, hT]
      subst ho
      rw [e2]
      simp [List.drop_append]
    rw [e1] at hst
    simp [Builtin.clear_, run_underlying hu, hv, hcs, hst]
  · have := hr.2
    simp only [List.length_append, Array.length_toList] at this ⊢
    omega

end Go.Proofs.Ytogopmngbjkcjau
