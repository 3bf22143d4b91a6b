/- Arrays by value: a literal of many whole numbers, a new variable, whole loads and stores; the cells are never walked one by one. No program in it. -/
import Derived.Laws.Rows
import Derived.Laws.Tables
import Derived.Deep.WholeRow
import Derived.Test.YtbaijmkghgnleaaGreatDoorM05
namespace Go.Proofs.YtbaijmkghgnleaaGreatDoor
open Go.RowKit
set_option linter.unusedVariables false

/-- A table of whole numbers, as the cells of an array. -/
def tabV (L : List Int) : Array Value := (L.map (Value.int .i64)).toArray
theorem tabV_size (L : List Int) : (tabV L).size = L.length := by simp [tabV]
theorem tabV_one (L : List Int) : (tabV L).all (·.oneCell') = true := by
  rw [Array.all_eq_true_iff_forall_mem]
  intro v hv
  simp only [tabV, List.mem_toArray, List.mem_map] at hv
  obtain ⟨x, _, rfl⟩ := hv
  rfl
theorem tabV_at (L : List Int) (k : Nat) (hk : k < L.length) : (tabV L)[k]? = some (.int .i64 (L.getD k 0)) := by
  simp [tabV, List.getD_eq_getElem?_getD, hk]
theorem tabV_set (L : List Int) (k : Nat) (x : Int) : (tabV L).setIfInBounds k (.int .i64 x) = tabV (L.set k x) := by
  simp [tabV, List.map_set]
theorem tabV_rep (n : Nat) : tabV (List.replicate n 0) = Array.replicate n (.int .i64 0) := by
  rw [tabV, List.map_replicate, List.toArray_replicate]

theorem heap_kept {w : World} {g : Nat} {x : Obj} (h : w.heap[g]? = some x) (o : Obj) : (w.alloc o).heap[g]? = some x := by
  have hl := (Array.getElem?_eq_some_iff.1 h).1
  show (w.heap.push o)[g]? = _
  rw [Array.getElem?_push, if_neg (by omega)]
  exact h

/-- A block that holds such a table. -/
def Arr (w : World) (g : Nat) (t : TypeId) (L : List Int) : Prop := w.heap[g]? = some (.cells (tabV L) t (0, 0))
theorem Arr.lt {w : World} {g : Nat} {t : TypeId} {L : List Int} (h : Arr w g t L) : g < w.heap.size := (Array.getElem?_eq_some_iff.1 h).1
theorem Arr.cell {w : World} {g : Nat} {t : TypeId} {L : List Int} (h : Arr w g t L) (k : Nat) (hk : k < L.length) : w.cell? ⟨g, k, none⟩ = some (.int .i64 (L.getD k 0)) := by
  rw [cell_of_row w g k _ t (0, 0) h, tabV_at L k hk]
theorem Arr.frozen {w : World} {g : Nat} {t : TypeId} {L : List Int} (h : Arr w g t L) (k : Nat) : w.frozen? ⟨g, k, none⟩ = false := by
  have h' : w.heap[g]? = some (.cells (tabV L) t (0, 0)) := h
  simp [World.frozen?, h']
theorem Arr.below {w w' : World} {g B : Nat} {t : TypeId} {L : List Int} (h : Arr w g t L) (hb : Below B w w') (hg : g < B) : Arr w' g t L := (hb.block g hg).trans h
theorem Arr.stays {w w' : World} {g : Nat} {t : TypeId} {L : List Int} (h : Arr w g t L) (hb : Below w.heap.size w w') : Arr w' g t L := h.below hb h.lt
theorem Arr.new (w : World) (t : TypeId) (L : List Int) : Arr (w.alloc (.cells (tabV L) t)) w.heap.size t L := heap_alloc_last w _
theorem Arr.set {w : World} {g : Nat} {t : TypeId} {L : List Int} (h : Arr w g t L) (k : Nat) (x : Int) : Arr (w.setCell ⟨g, k, none⟩ (.int .i64 x)) g t (L.set k x) := by
  show _ = _
  rw [setCell_eq_setRow w g k (tabV L) t (0, 0) _ h, setRow_heap w g (tabV L) _ t (0, 0) h, tabV_set]
theorem Arr.set_other {w : World} {g g' : Nat} {t : TypeId} {L : List Int} (h : Arr w g t L) (k : Nat) (v : Value) (hne : g ≠ g') : Arr (w.setCell ⟨g', k, none⟩ v) g t L := by
  show _ = _
  have h' : w.heap[g]? = some (.cells (tabV L) t (0, 0)) := h
  simp [World.setCell, Array.getElem?_modify, Ne.symm hne, h']
theorem Arr.alloc {w : World} {g : Nat} {t : TypeId} {L : List Int} (h : Arr w g t L) (o : Obj) : Arr (w.alloc o) g t L := by
  have hl := h.lt
  show (w.heap.push o)[g]? = _
  rw [Array.getElem?_push, if_neg (by omega)]
  exact h

theorem below_setRow {w w' : World} {B g : Nat} (h : Below B w w') (hg : B ≤ g) (cs : Array Value) : Below B w (w'.setRow g cs) :=
  h.trans ⟨rfl, rfl, rfl, by simp, fun k hk => setRow_other _ _ _ _ (by omega)⟩

/-- Three variables that were made one behind the other. -/
theorem three_new (w w3 : World) (A : Array Value) (t1 t2 t3 : TypeId) (Z Y : List Int) (hw : w3 = ((w.alloc (.cells A t1)).alloc (.cells (tabV Z) t2)).alloc (.cells (tabV Y) t3)) :
    w3.heap[w.heap.size]? = some (.cells A t1 (0, 0)) ∧ Arr w3 (w.heap.size + 1) t2 Z ∧ Arr w3 (w.heap.size + 2) t3 Y ∧ Below w.heap.size w w3 := by
  subst hw
  refine ⟨heap_kept (heap_kept (heap_alloc_last w _) _) _, ?_, ?_, (((Below.refl _ _).alloc (Nat.le_refl _) _).alloc (by simp) _).alloc (by simp; omega) _⟩
  · have := (Arr.new (w.alloc (.cells A t1)) t2 Z).alloc (.cells (tabV Y) t3)
    simpa using this
  · have := Arr.new ((w.alloc (.cells A t1)).alloc (.cells (tabV Z) t2)) t3 Y
    simpa using this

/-- The body of a function that answers a literal of an array. -/
def arrBody (t : TypeId) (parts : Array (Nat × Operand)) (p0 p1 : String) : Code :=
  (Code.region 0 #[{ dst := some 0, op := .alloc t, type := 0, pos := p0, after := #[], guard := none }] false).seq
    ((Code.region 1 #[{ dst := some 1, op := .build t parts, type := t, pos := p1, after := #[], guard := none },
      { dst := none, op := .store t (.tmp 0) (.tmp 1), type := 0, pos := p1, after := #[{ on := 0, ground := .data }, { on := 0, ground := .phase }], guard := none }] false).seq .ret)

theorem arr_calls {P : Program} {f : FuncId} {fn : Func} (hf : P.funcs[f]? = some fn) (t e : TypeId) (n : Nat) (L : List Int) (p0 p1 : String) (cells z : Array Value)
    (hb : fn.body = some (arrBody t (litParts L).toArray p0 p1)) (hn : fn.ntmps = 2) (hr : fn.results = #[.cell 0 t])
    (hu : P.underlying t = some (.array n e)) (hz : ∀ w, (zeroValue t).run P w = .ok (.agg z) w) (hsz : z.size = cells.size) (hi : (P.info? t).map (·.size) = some cells.size)
    (h1 : cells.all (·.oneCell') = true) (hbt : P.built t (litVals L) = some cells) (w : World) :
    Calls P f #[] w fun e w' => e = .returned (.agg cells) ∧ w' = w.alloc (.cells cells t) := by
  have hbu : ∀ a : Act, P.built t (((litParts L).toArray.map fun (i, x) => (i, a.eval x)).toList) = some cells := fun a => by rw [eval_parts]; exact hbt
  generalize hpp : (litParts L).toArray = parts at *
  refine calls_of_wp hf hb ?_
  unfold arrBody
  simp only [hn, List.size_toArray, List.length_nil, Nat.reduceSub, Array.replicate_succ, Array.replicate_zero, List.push_toArray, List.append_toArray, List.nil_append, List.cons_append]
  go_wp2_with (first
    | (refine wpList_build rfl _ _ rfl (by rw [hbu]; rfl) ?_; rw [hbu, Option.getD_some])
    | (refine wpList_store_row rfl t _ _ rfl w.heap.size cells rfl rfl t z (heap_alloc_last w _) hi hsz h1 ?_; rw [World.setRow_alloc_new]))
  exact bodyPost_ret (results_cell_row hr _ _ w.heap.size t cells (0, 0) _ rfl (heap_alloc_last w _) hu rfl hi) rfl ⟨rfl, rfl⟩

end Go.Proofs.YtbaijmkghgnleaaGreatDoor
