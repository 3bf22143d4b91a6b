/- A function that only answers a literal of many whole numbers: a new row, whatever their number; the parts are never walked one by one. No program in it. Arrays by value: a literal of many whole numbers, a new variable, whole loads and stores; the cells are never walked one by one. No program in it. The rows of the lengths, the codes and the symbols in the order of their codes, as the program makes them, step by step; no program in it. The program's table of the lengths, an array by value; the zero values of its arrays. The program's rows of the lengths. -/
import Derived.WalkKit
import Derived.Laws.Rows
import Derived.Laws.Tables
import Derived.Deep.WholeRow
import Derived.Test.YtckpacifimpkgacGreatM02
import Derived.Test.YtckpacifimpkgacGreatM04
namespace Go.Proofs.YtckpacifimpkgacGreat
open Go.RowKit
set_option linter.unusedVariables false

theorem run_lit {P : Program} (w : World) (t e : TypeId) (len : Nat) (parts : Array (Nat × Value)) (cells : Array Value) (i : TypeInfo) (z : Value)
    (h1 : P.underlying t = some (.slice e)) (h2 : P.info? e = some i) (h3 : i.size = 1) (h4 : i.zero = some z) (hlen : len ≤ 1000) (h0 : 1 ≤ len)
    (hf : Instr.fill (fun i => some (i * 1, 1)) ((Array.range (len * 1)).map (z.cells[· % z.cells.size]!)) parts.toList = some cells) :
    (Instr.buildSlice t len parts).run P w = .ok (.slice (some ⟨w.heap.size, 0, none⟩) len len) (w.alloc (.cells cells e)) := by
  have hs : ∀ w, (sizeOf e).run P w = .ok 1 w := fun w => by simp [sizeOf, typeInfo, h2, h3]
  have hz : ∀ w, (zeroValue e).run P w = .ok z w := fun w => by simp [zeroValue, typeInfo, h2, h4]
  have hn : ¬ (len * 1 > 2 ^ 24) := by omega
  have hn0 : ¬ (len * 1 = 0) := by omega
  unfold Instr.buildSlice
  simp only [Sem.run_bind, run_underlying h1, Result.andThen_ok, hs, hn, if_false, hn0, hz, Sem.run_pure, hf]
  simp [newRow]

theorem wpList_lit {P : Program} {w w' : World} {ops : Array Oper} {rest : List Oper} {o : Oper} {a : Act} {Q : Exit → Act → World → Prop} (hg : o.guard = none) (t : TypeId) (len : Nat) (parts : Array (Nat × Operand)) (hop : o.op = .buildSlice t len parts) (v : Value)
    (hrun : (Instr.buildSlice t len (parts.map fun (i, x) => (i, a.eval x))).run P w = .ok v w') (hK : wpList P ops Q rest (a.put o.dst v) w') : wpList P ops Q (o :: rest) a w := by
  refine wpList_plain hg fun K hK' => ?_
  unfold Oper.wp execOp
  simp only [hop, Sem.run_bind, hrun, Result.andThen_ok]
  exact hK' _ _ hK

/-- The body of such a function. -/
def litBody (t : TypeId) (len : Nat) (parts : Array (Nat × Operand)) (p0 p1 : String) : Code :=
  (Code.region 0 #[{ dst := some 0, op := .assign (.const (.slice none 0 0)), type := t, pos := p0, after := #[], guard := none }] false).seq
    ((Code.region 1 #[{ dst := some 1, op := .buildSlice t len parts, type := t, pos := p1, after := #[], guard := none },
      { dst := some 0, op := .assign (.tmp 1), type := t, pos := p1, after := #[{ on := 0, ground := .data }, { on := 0, ground := .phase }], guard := none }] false).seq .ret)

/-- The parts of a literal of these numbers. -/
def litParts (L : List Int) : List (Nat × Operand) := L.zipIdx.map fun (x, i) => (i, .const (.int .i64 x))
def litVals (L : List Int) : List (Nat × Value) := L.zipIdx.map fun (x, i) => (i, .int .i64 x)

theorem eval_parts (a : Act) (L : List Int) : ((litParts L).toArray.map fun (i, x) => (i, a.eval x)).toList = litVals L := by
  simp [litParts, litVals, Act.eval]

theorem lit_calls {P : Program} {f : FuncId} {fn : Func} (hf : P.funcs[f]? = some fn) (t : TypeId) (L : List Int) (p0 p1 : String) (cells : Array Value) (i : TypeInfo)
    (hb : fn.body = some (litBody t L.length (litParts L).toArray p0 p1)) (hn : fn.ntmps = 2) (hr : fn.results = #[.tmp 0])
    (h1 : P.underlying t = some (.slice 3)) (h2 : P.info? 3 = some i) (h3 : i.size = 1) (h4 : i.zero = some (.int .i64 0)) (hlen : L.length ≤ 1000) (h0 : 1 ≤ L.length)
    (hfl : Instr.fill (fun i => some (i * 1, 1)) ((Array.range (L.length * 1)).map ((Value.int .i64 0).cells[· % (Value.int .i64 0).cells.size]!)) (litVals L) = some cells) (w : World) :
    Calls P f #[] w fun e w' => e = .returned (.slice (some ⟨w.heap.size, 0, none⟩) L.length L.length) ∧ w' = w.alloc (.cells cells 3) := by
  have hrun : ∀ (w : World) (a : Act), (Instr.buildSlice t L.length ((litParts L).toArray.map fun (i, x) => (i, a.eval x))).run P w = .ok (.slice (some ⟨w.heap.size, 0, none⟩) L.length L.length) (w.alloc (.cells cells 3)) :=
    fun w a => run_lit w t 3 L.length _ cells i (.int .i64 0) h1 h2 h3 h4 hlen h0 (by rw [eval_parts]; exact hfl)
  generalize L.length = len at *
  generalize hpp : (litParts L).toArray = parts at *
  refine calls_of_wp hf hb ?_
  unfold litBody
  simp only [hn, List.size_toArray, List.length_nil, Nat.reduceSub, Array.replicate_succ, Array.replicate_zero, List.push_toArray, List.append_toArray, List.nil_append, List.cons_append]
  go_wp2_with (refine wpList_lit rfl _ _ _ rfl _ (hrun _ _) ?_)
  refine bodyPost_ret (results_tmp hr _ _ _) rfl ?_
  exact ⟨rfl, rfl⟩

end Go.Proofs.YtckpacifimpkgacGreat

namespace Go.Proofs.YtckpacifimpkgacGreat
open Go.RowKit
set_option linter.unusedVariables false

/-- A table of whole numbers, as the cells of an array. -/
def tabV (L : List Int) : Array Value := (L.map (Value.int .i64)).toArray
theorem tabV_size (L : List Int) : (tabV L).size = L.length := by simp [tabV]
theorem tabV_one (L : List Int) : (tabV L).all (·.oneCell') = true := by
  rw [Array.all_eq_true_iff_forall_mem]
  intro v hv
  simp only [tabV, List.mem_toArray, List.mem_map] at hv
  obtain ⟨x, _, rfl⟩ := hv
  rfl
theorem tabV_at (L : List Int) (k : Nat) (hk : k < L.length) : (tabV L)[k]? = some (.int .i64 (L.getD k 0)) := by
  simp [tabV, List.getD_eq_getElem?_getD, hk]
theorem tabV_set (L : List Int) (k : Nat) (x : Int) : (tabV L).setIfInBounds k (.int .i64 x) = tabV (L.set k x) := by
  simp [tabV, List.map_set]
theorem tabV_rep (n : Nat) : tabV (List.replicate n 0) = Array.replicate n (.int .i64 0) := by
  rw [tabV, List.map_replicate, List.toArray_replicate]

theorem heap_kept {w : World} {g : Nat} {x : Obj} (h : w.heap[g]? = some x) (o : Obj) : (w.alloc o).heap[g]? = some x := by
  have hl := (Array.getElem?_eq_some_iff.1 h).1
  show (w.heap.push o)[g]? = _
  rw [Array.getElem?_push, if_neg (by omega)]
  exact h

/-- A block that holds such a table. -/
def Arr (w : World) (g : Nat) (t : TypeId) (L : List Int) : Prop := w.heap[g]? = some (.cells (tabV L) t (0, 0))
theorem Arr.lt {w : World} {g : Nat} {t : TypeId} {L : List Int} (h : Arr w g t L) : g < w.heap.size := (Array.getElem?_eq_some_iff.1 h).1
theorem Arr.cell {w : World} {g : Nat} {t : TypeId} {L : List Int} (h : Arr w g t L) (k : Nat) (hk : k < L.length) : w.cell? ⟨g, k, none⟩ = some (.int .i64 (L.getD k 0)) := by
  rw [cell_of_row w g k _ t (0, 0) h, tabV_at L k hk]
theorem Arr.frozen {w : World} {g : Nat} {t : TypeId} {L : List Int} (h : Arr w g t L) (k : Nat) : w.frozen? ⟨g, k, none⟩ = false := by
  have h' : w.heap[g]? = some (.cells (tabV L) t (0, 0)) := h
  simp [World.frozen?, h']
theorem Arr.below {w w' : World} {g B : Nat} {t : TypeId} {L : List Int} (h : Arr w g t L) (hb : Below B w w') (hg : g < B) : Arr w' g t L := (hb.block g hg).trans h
theorem Arr.stays {w w' : World} {g : Nat} {t : TypeId} {L : List Int} (h : Arr w g t L) (hb : Below w.heap.size w w') : Arr w' g t L := h.below hb h.lt
theorem Arr.new (w : World) (t : TypeId) (L : List Int) : Arr (w.alloc (.cells (tabV L) t)) w.heap.size t L := heap_alloc_last w _
theorem Arr.set {w : World} {g : Nat} {t : TypeId} {L : List Int} (h : Arr w g t L) (k : Nat) (x : Int) : Arr (w.setCell ⟨g, k, none⟩ (.int .i64 x)) g t (L.set k x) := by
  show _ = _
  rw [setCell_eq_setRow w g k (tabV L) t (0, 0) _ h, setRow_heap w g (tabV L) _ t (0, 0) h, tabV_set]
theorem Arr.set_other {w : World} {g g' : Nat} {t : TypeId} {L : List Int} (h : Arr w g t L) (k : Nat) (v : Value) (hne : g ≠ g') : Arr (w.setCell ⟨g', k, none⟩ v) g t L := by
  show _ = _
  have h' : w.heap[g]? = some (.cells (tabV L) t (0, 0)) := h
  simp [World.setCell, Array.getElem?_modify, Ne.symm hne, h']
theorem Arr.alloc {w : World} {g : Nat} {t : TypeId} {L : List Int} (h : Arr w g t L) (o : Obj) : Arr (w.alloc o) g t L := by
  have hl := h.lt
  show (w.heap.push o)[g]? = _
  rw [Array.getElem?_push, if_neg (by omega)]
  exact h

theorem below_setRow {w w' : World} {B g : Nat} (h : Below B w w') (hg : B ≤ g) (cs : Array Value) : Below B w (w'.setRow g cs) :=
  h.trans ⟨rfl, rfl, rfl, by simp, fun k hk => setRow_other _ _ _ _ (by omega)⟩

/-- Three variables that were made one behind the other. -/
theorem three_new (w w3 : World) (A : Array Value) (t1 t2 t3 : TypeId) (Z Y : List Int) (hw : w3 = ((w.alloc (.cells A t1)).alloc (.cells (tabV Z) t2)).alloc (.cells (tabV Y) t3)) :
    w3.heap[w.heap.size]? = some (.cells A t1 (0, 0)) ∧ Arr w3 (w.heap.size + 1) t2 Z ∧ Arr w3 (w.heap.size + 2) t3 Y ∧ Below w.heap.size w w3 := by
  subst hw
  refine ⟨heap_kept (heap_kept (heap_alloc_last w _) _) _, ?_, ?_, (((Below.refl _ _).alloc (Nat.le_refl _) _).alloc (by simp) _).alloc (by simp; omega) _⟩
  · have := (Arr.new (w.alloc (.cells A t1)) t2 Z).alloc (.cells (tabV Y) t3)
    simpa using this
  · have := Arr.new ((w.alloc (.cells A t1)).alloc (.cells (tabV Z) t2)) t3 Y
    simpa using this

/-- The body of a function that answers a literal of an array. -/
def arrBody (t : TypeId) (parts : Array (Nat × Operand)) (p0 p1 : String) : Code :=
  (Code.region 0 #[{ dst := some 0, op := .alloc t, type := 0, pos := p0, after := #[], guard := none }] false).seq
    ((Code.region 1 #[{ dst := some 1, op := .build t parts, type := t, pos := p1, after := #[], guard := none },
      { dst := none, op := .store t (.tmp 0) (.tmp 1), type := 0, pos := p1, after := #[{ on := 0, ground := .data }, { on := 0, ground := .phase }], guard := none }] false).seq .ret)

theorem arr_calls {P : Program} {f : FuncId} {fn : Func} (hf : P.funcs[f]? = some fn) (t e : TypeId) (n : Nat) (L : List Int) (p0 p1 : String) (cells z : Array Value)
    (hb : fn.body = some (arrBody t (litParts L).toArray p0 p1)) (hn : fn.ntmps = 2) (hr : fn.results = #[.cell 0 t])
    (hu : P.underlying t = some (.array n e)) (hz : ∀ w, (zeroValue t).run P w = .ok (.agg z) w) (hsz : z.size = cells.size) (hi : (P.info? t).map (·.size) = some cells.size)
    (h1 : cells.all (·.oneCell') = true) (hbt : P.built t (litVals L) = some cells) (w : World) :
    Calls P f #[] w fun e w' => e = .returned (.agg cells) ∧ w' = w.alloc (.cells cells t) := by
  have hbu : ∀ a : Act, P.built t (((litParts L).toArray.map fun (i, x) => (i, a.eval x)).toList) = some cells := fun a => by rw [eval_parts]; exact hbt
  generalize hpp : (litParts L).toArray = parts at *
  refine calls_of_wp hf hb ?_
  unfold arrBody
  simp only [hn, List.size_toArray, List.length_nil, Nat.reduceSub, Array.replicate_succ, Array.replicate_zero, List.push_toArray, List.append_toArray, List.nil_append, List.cons_append]
  go_wp2_with (first
    | (refine wpList_build rfl _ _ rfl (by rw [hbu]; rfl) ?_; rw [hbu, Option.getD_some])
    | (refine wpList_store_row rfl t _ _ rfl w.heap.size cells rfl rfl t z (heap_alloc_last w _) hi hsz h1 ?_; rw [World.setRow_alloc_new]))
  exact bodyPost_ret (results_cell_row hr _ _ w.heap.size t cells (0, 0) _ rfl (heap_alloc_last w _) hu rfl hi) rfl ⟨rfl, rfl⟩

end Go.Proofs.YtckpacifimpkgacGreat

namespace Go.Proofs.YtckpacifimpkgacGreat
open Go.RowKit
set_option linter.unusedVariables false

/-- For each length 0 .. 30: how many codes it has, the least of them, how many codes are shorter. -/
def rowsI : List Int := [
  0, 0, 0, 0, 0, 0, 0, 0, 0, 0, 0, 0, 0, 0, 0, 10, 0, 0, 26, 20, 10, 32, 92, 36,
  6, 248, 68, 0, 508, 74, 5, 1016, 74, 3, 2042, 79, 2, 4090, 82, 6, 8184, 84, 2, 16380, 90, 3, 32764, 92,
  0, 65534, 95, 0, 131068, 95, 0, 262136, 95, 3, 524272, 95, 8, 1048550, 98, 13, 2097116, 106, 26, 4194258, 119, 29, 8388568, 145,
  12, 16777194, 174, 4, 33554412, 186, 15, 67108832, 190, 19, 134217694, 205, 29, 268435426, 224, 0, 536870910, 253, 4, 1073741820, 253]

/-- The symbols in the order of their codes. -/
def rankI : List Int := [
  48, 49, 50, 97, 99, 101, 105, 111, 115, 116, 32, 37, 45, 46, 47, 51, 52, 53, 54, 55, 56, 57, 61, 65,
  95, 98, 100, 102, 103, 104, 108, 109, 110, 112, 114, 117, 58, 66, 67, 68, 69, 70, 71, 72, 73, 74, 75, 76,
  77, 78, 79, 80, 81, 82, 83, 84, 85, 86, 87, 89, 106, 107, 113, 118, 119, 120, 121, 122, 38, 42, 44, 59,
  88, 90, 33, 34, 40, 41, 63, 39, 43, 124, 35, 62, 0, 36, 64, 91, 93, 126, 94, 125, 60, 96, 123, 92,
  195, 208, 128, 130, 131, 162, 184, 194, 224, 226, 153, 161, 167, 172, 176, 177, 179, 209, 216, 217, 227, 229, 230, 129,
  132, 133, 134, 136, 146, 154, 156, 160, 163, 164, 169, 170, 173, 178, 181, 185, 186, 187, 189, 190, 196, 198, 228, 232,
  233, 1, 135, 137, 138, 139, 140, 141, 143, 147, 149, 150, 151, 152, 155, 157, 158, 165, 166, 168, 174, 175, 180, 182,
  183, 188, 191, 197, 231, 239, 9, 142, 144, 145, 148, 159, 171, 206, 215, 225, 236, 237, 199, 207, 234, 235, 192, 193,
  200, 201, 202, 205, 210, 213, 218, 219, 238, 240, 242, 243, 255, 203, 204, 211, 212, 214, 221, 222, 223, 241, 244, 245,
  246, 247, 248, 250, 251, 252, 253, 254, 2, 3, 4, 5, 6, 7, 8, 11, 12, 14, 15, 16, 17, 18, 19, 20,
  21, 23, 24, 25, 26, 27, 28, 29, 30, 31, 127, 220, 249, 10, 13, 22, 256]

theorem rowsI_len : rowsI.length = 93 := by decide +kernel
theorem rankI_len : rankI.length = 257 := by decide +kernel

/-- One length more is counted. -/
def rone (l : Int) (R : List Int) : List Int := R.set (l.toNat * 3) (wrap64 (R.getD (l.toNat * 3) 0 + 1))
def rcnt : List Int → List Int → List Int
  | [], R => R
  | l :: ls, R => rcnt ls (rone l R)
theorem rcnt_snoc (l : Int) (ls : List Int) : ∀ R, rcnt (ls ++ [l]) R = rone l (rcnt ls R) := by
  induction ls with
  | nil => intro R; rfl
  | cons a ls ih => intro R; rw [List.cons_append, rcnt, ih, rcnt]
theorem rone_len (l : Int) (R : List Int) : (rone l R).length = R.length := by simp [rone]
theorem rcnt_len (ls : List Int) : ∀ R, (rcnt ls R).length = R.length := by
  induction ls with
  | nil => intro R; rfl
  | cons a ls ih => intro R; rw [rcnt, ih, rone_len]

/-- The row behind row m. -/
def rstep (m : Nat) (R : List Int) : List Int :=
  (R.set ((m + 1) * 3 + 1) (wrap64 (wrap64 (R.getD (m * 3 + 1) 0 + R.getD (m * 3) 0) * 2))).set ((m + 1) * 3 + 2) (wrap64 (R.getD (m * 3 + 2) 0 + R.getD (m * 3) 0))
def rmade : Nat → List Int
  | 0 => rcnt lensI (List.replicate 93 0)
  | m + 1 => rstep m (rmade m)
theorem rmade_len (m : Nat) : (rmade m).length = 93 := by
  induction m with
  | zero => rw [rmade, rcnt_len, List.length_replicate]
  | succ m ih => rw [rmade, rstep, List.length_set, List.length_set, ih]

set_option maxRecDepth 100000 in
theorem rows_all : rmade 30 = rowsI := by decide +kernel

/-- The rows and the codes, one symbol more. -/
def cstep (l : Int) (i : Nat) (s : List Int × List Int) : List Int × List Int :=
  (s.1.set (l.toNat * 3 + 1) (wrap64 (s.1.getD (l.toNat * 3 + 1) 0 + 1)), s.2.set i (s.1.getD (l.toNat * 3 + 1) 0))
def cmade : List Int → Nat → List Int × List Int → List Int × List Int
  | [], _, s => s
  | l :: ls, i, s => cmade ls (i + 1) (cstep l i s)
theorem cmade_snoc (l : Int) (ls : List Int) : ∀ (i : Nat) (s : List Int × List Int), cmade (ls ++ [l]) i s = cstep l (i + ls.length) (cmade ls i s) := by
  induction ls with
  | nil => intro i s; rfl
  | cons a ls ih =>
    intro i s
    rw [List.cons_append, cmade, ih, cmade, List.length_cons]
    congr 1
    omega
theorem cmade_len (ls : List Int) : ∀ (i : Nat) (s : List Int × List Int), (cmade ls i s).1.length = s.1.length ∧ (cmade ls i s).2.length = s.2.length := by
  induction ls with
  | nil => intro i s; exact ⟨rfl, rfl⟩
  | cons a ls ih =>
    intro i s
    rw [cmade]
    have := ih (i + 1) (cstep a i s)
    simpa [cstep] using this

set_option maxRecDepth 100000 in
theorem codes_made : (cmade lensI 0 (rowsI, List.replicate 257 0)).2 = codesI := by decide +kernel

/-- The rows and the symbols in their order, one symbol more. -/
def kstep (l : Int) (i : Nat) (s : List Int × List Int) : List Int × List Int :=
  (s.1.set (l.toNat * 3 + 2) (wrap64 (s.1.getD (l.toNat * 3 + 2) 0 + 1)), s.2.set (s.1.getD (l.toNat * 3 + 2) 0).toNat (i : Int))
def kmade : List Int → Nat → List Int × List Int → List Int × List Int
  | [], _, s => s
  | l :: ls, i, s => kmade ls (i + 1) (kstep l i s)
def kin : List Int → Nat → List Int × List Int → Bool
  | [], _, _ => true
  | l :: ls, i, s => decide (0 ≤ s.1.getD (l.toNat * 3 + 2) 0 ∧ s.1.getD (l.toNat * 3 + 2) 0 < 257) && kin ls (i + 1) (kstep l i s)
theorem kmade_snoc (l : Int) (ls : List Int) : ∀ (i : Nat) (s : List Int × List Int), kmade (ls ++ [l]) i s = kstep l (i + ls.length) (kmade ls i s) := by
  induction ls with
  | nil => intro i s; rfl
  | cons a ls ih =>
    intro i s
    rw [List.cons_append, kmade, ih, kmade, List.length_cons]
    congr 1
    omega
theorem kmade_len (ls : List Int) : ∀ (i : Nat) (s : List Int × List Int), (kmade ls i s).1.length = s.1.length ∧ (kmade ls i s).2.length = s.2.length := by
  induction ls with
  | nil => intro i s; exact ⟨rfl, rfl⟩
  | cons a ls ih =>
    intro i s
    rw [kmade]
    have := ih (i + 1) (kstep a i s)
    simpa [kstep] using this
theorem kin_at (l : Int) (bs : List Int) (ls : List Int) : ∀ (i : Nat) (s : List Int × List Int), kin (ls ++ l :: bs) i s = true → 0 ≤ (kmade ls i s).1.getD (l.toNat * 3 + 2) 0 ∧ (kmade ls i s).1.getD (l.toNat * 3 + 2) 0 < 257 := by
  induction ls with
  | nil =>
    intro i s h
    rw [List.nil_append, kin, Bool.and_eq_true] at h
    exact of_decide_eq_true h.1
  | cons a ls ih =>
    intro i s h
    rw [List.cons_append, kin, Bool.and_eq_true] at h
    exact ih _ _ h.2

set_option maxRecDepth 100000 in
theorem ranks_made : (kmade lensI 0 (rowsI, List.replicate 257 0)).2 = rankI := by decide +kernel
set_option maxRecDepth 100000 in
theorem ranks_in : kin lensI 0 (rowsI, List.replicate 257 0) = true := by decide +kernel

theorem lens_split (k : Nat) (hk : k < lensI.length) : lensI = lensI.take k ++ lensI.getD k 0 :: lensI.drop (k + 1) := by
  conv => lhs; rw [← List.take_append_drop k lensI, List.drop_eq_getElem_cons hk]
  simp [List.getD_eq_getElem?_getD, hk]

theorem rank_at (k : Nat) (hk : k < 257) : 0 ≤ (kmade (lensI.take k) 0 (rowsI, List.replicate 257 0)).1.getD ((lensI.getD k 0).toNat * 3 + 2) 0 ∧ (kmade (lensI.take k) 0 (rowsI, List.replicate 257 0)).1.getD ((lensI.getD k 0).toNat * 3 + 2) 0 < 257 := by
  have h := ranks_in
  rw [lens_split k (by rw [lens_len]; exact hk)] at h
  exact kin_at _ _ _ _ _ h

/-- The least code of n bits, how many there are, how many codes are shorter. -/
def firstN (n : Nat) : Nat := (rowsI.getD (n * 3 + 1) 0).toNat
def countN (n : Nat) : Nat := (rowsI.getD (n * 3) 0).toNat
def shortN (n : Nat) : Nat := (rowsI.getD (n * 3 + 2) 0).toNat

set_option maxRecDepth 100000 in
theorem rows_nat : ∀ k : Nat, k < 93 → 0 ≤ rowsI.getD k 0 ∧ rowsI.getD k 0 ≤ 1073741824 := by decide +kernel
set_option maxRecDepth 100000 in
theorem first_next : ∀ n : Nat, n < 30 → firstN (n + 1) = 2 * (firstN n + countN n) := by decide +kernel
theorem first_all : firstN 30 + countN 30 = 1073741824 := by decide +kernel
set_option maxRecDepth 100000 in
theorem rank_sym : ∀ n : Nat, n < 31 → ∀ j : Nat, j < countN n → shortN n + j < 257 ∧ 0 ≤ rankI.getD (shortN n + j) 0 ∧ rankI.getD (shortN n + j) 0 < 257 ∧ lensI.getD (rankI.getD (shortN n + j) 0).toNat 0 = (n : Int) ∧ codesI.getD (rankI.getD (shortN n + j) 0).toNat 0 = ((firstN n + j : Nat) : Int) := by decide +kernel
set_option maxRecDepth 100000 in
theorem codes_top : ∀ k : Nat, k < 257 → (codesI.getD k 0).toNat < firstN (lensI.getD k 0).toNat + countN (lensI.getD k 0).toNat := by decide +kernel

end Go.Proofs.YtckpacifimpkgacGreat

namespace Go.Proofs.YtckpacifimpkgacGreat
open Go.RowKit
set_option linter.unusedVariables false

theorem Tryz.infoA : (Tryz.prog.info? 136).map (fun i => (i.zero, i.size)) = some (some (.agg (Array.replicate 257 (.int .i64 0))), 257) := by kernel_rfl
theorem Tryz.infoR : (Tryz.prog.info? 148).map (fun i => (i.zero, i.size)) = some (some (.agg (Array.replicate 93 (.int .i64 0))), 93) := by kernel_rfl

theorem zeroA (w : World) : (zeroValue 136).run Tryz.prog w = .ok (.agg (tabV (List.replicate 257 0))) w := by rw [tabV_rep]; exact (zero_of_info Tryz.infoA).1 w
theorem zeroR (w : World) : (zeroValue 148).run Tryz.prog w = .ok (.agg (tabV (List.replicate 93 0))) w := by rw [tabV_rep]; exact (zero_of_info Tryz.infoR).1 w
theorem sizeA {L : List Int} (h : L.length = 257) : (Tryz.prog.info? 136).map (·.size) = some (tabV L).size := by rw [tabV_size, h]; exact (zero_of_info Tryz.infoA).2
theorem sizeR {L : List Int} (h : L.length = 93) : (Tryz.prog.info? 148).map (·.size) = some (tabV L).size := by rw [tabV_size, h]; exact (zero_of_info Tryz.infoR).2

set_option maxRecDepth 100000 in
theorem lens_built : Tryz.prog.built 136 (litVals lensI) = some (tabV lensI) := by kernel_rfl

theorem implLens_any (w : World) : Calls Tryz.prog 91 #[] w fun e w' => e = .returned (.agg (tabV lensI)) ∧ w' = w.alloc (.cells (tabV lensI) 136) :=
  arr_calls Tryz.func91 136 3 257 lensI "l03_huff.go:145" "l03_huff.go:146" (tabV lensI) (tabV (List.replicate 257 0)) (by kernel_rfl) rfl rfl Tryz.underlying136 zeroA (by rw [tabV_size, tabV_size, lens_len, List.length_replicate]) (sizeA lens_len) (tabV_one _) lens_built w

theorem index_arr (A : Array Value) (j : Nat) (hj : j < 257) (v : Int) (h : A[j]? = some (.int .i64 v)) (w : World) : (Instr.index 136 (.agg A) (.int .i64 (j : Int))).run Tryz.prog w = .ok (.int .i64 v) w := by
  have h0 : (0 : Int) ≤ (j : Int) ∧ (j : Int) < ((257 : Nat) : Int) := by omega
  have hs : (sizeOf 3).run Tryz.prog w = .ok 1 w := by simp [go_sem]
  have ha : (isAgg 3).run Tryz.prog w = .ok false w := by simp [go_sem]
  simp only [Instr.index, asIntOf, Sem.run_bind, Sem.run_pure, Result.andThen_ok, run_underlying Tryz.underlying136, h0, and_self, if_true, hs, part, ha, Int.toNat_natCast, Nat.mul_one, h]
  rfl

end Go.Proofs.YtckpacifimpkgacGreat

namespace Go.Proofs.YtckpacifimpkgacGreat
open Go.RowKit
set_option linter.unusedVariables false

theorem len_nat (j : Nat) (hj : j < 257) : ∃ l : Nat, lensI.getD j 0 = (l : Int) ∧ 5 ≤ l ∧ l ≤ 30 := by
  have h := lens_range j hj
  exact ⟨(lensI.getD j 0).toNat, by omega, by omega, by omega⟩

set_option maxRecDepth 10000 in
set_option maxHeartbeats 1600000 in
theorem implRows_any (w : World) : Calls Tryz.prog 101 #[.agg (tabV lensI)] w fun e w' => e = .returned (.agg (tabV rowsI)) ∧ Below w.heap.size w w' := by
  obtain ⟨LV, hLV⟩ : ∃ LV, LV = tabV lensI := ⟨_, rfl⟩
  have HL : Hid (∀ k, k < 257 → LV[k]? = some (.int .i64 (lensI.getD k 0))) := by
    intro k hk
    rw [hLV, tabV_at lensI k (by rw [lens_len]; exact hk)]
  have hLs : (Tryz.prog.info? 136).map (·.size) = some LV.size := by rw [hLV]; exact sizeA lens_len
  obtain ⟨Z, hZ⟩ : ∃ Z : List Int, List.replicate 93 0 = Z := ⟨_, rfl⟩
  have hz : ∀ w, (zeroValue 148).run Tryz.prog w = .ok (.agg (tabV Z)) w := by rw [← hZ]; exact zeroR
  have HZ : Hid (List.replicate 93 0 = Z) := hZ
  have HZl : Hid (Z.length = 93) := by show _ = _; rw [← hZ, List.length_replicate]
  rw [← hLV]
  clear hLV hZ
  obtain ⟨w3, hw3⟩ : ∃ w3, w3 = ((w.alloc (.cells LV 136)).alloc (.cells (tabV Z) 148)).alloc (.cells (tabV Z) 148) := ⟨_, rfl⟩
  obtain ⟨hg3, ha1, ha2, hb3⟩ := three_new w w3 LV _ _ _ Z Z hw3
  have HA1 : Hid (Arr w3 (w.heap.size + 1) 148 Z) := ha1
  have HA2 : Hid (Arr w3 (w.heap.size + 2) 148 (rcnt (lensI.take 0) Z)) := ha2
  have HB3 : Hid (Below w.heap.size w w3) := hb3
  clear ha1 ha2 hb3
  rw [hw3] at hg3
  go_enter Tryz.func101, Tryz.ntmps101
  go_wp2_with (refine wpList_load_row rfl 136 _ rfl _ rfl 136 LV (0, 0) _ hg3 Tryz.underlying136 rfl hLs ?_; refine Hid.out ?_)
  refine hidden ?_
  rw [← hw3]
  clear hw3 hg3 hz
  obtain ⟨h, hh⟩ : ∃ h, w.heap.size = h := ⟨_, rfl⟩
  rw [hh] at HA1 HA2 HB3 ⊢
  go_wp2_with fail
  go_loopw [9] (fun i wr => ∃ j : Nat, j ≤ 257 ∧ i = .int .i64 j ∧ Hid (Arr wr (h + 2) 148 (rcnt (lensI.take j) Z)) ∧ Hid (Below (h + 2) w3 wr)) (fun i _ => 257 - (intOf i).toNat)
  case atStart => exact ⟨0, Nat.zero_le _, rfl, HA2, Below.refl _ _⟩
  case round =>
    clear HA2
    obtain ⟨j, hj, rfl, HA, HB⟩ := hrel
    by_cases hj7 : j < 257
    · have hji : (j : Int) ≤ 256 := by omega
      obtain ⟨l, el, hl5, hl30⟩ := len_nat j hj7
      have HN : Hid (rcnt (lensI.take (j + 1)) Z = rone (l : Int) (rcnt (lensI.take j) Z)) := by
        show _ = _
        rw [take_next j (by rw [lens_len]; exact hj7), rcnt_snoc, el]
      have hidx : ∀ w, (Instr.index 136 (.agg LV) (.int .i64 (j : Int))).run Tryz.prog w = .ok (.int .i64 (l : Int)) w := index_arr LV j hj7 l (by rw [HL.out j hj7, el])
      have HRl : Hid ((rcnt (lensI.take j) Z).length = 93) := by show _ = _; rw [rcnt_len, HZl.out]
      generalize rcnt (lensI.take j) Z = R at HA HN HRl
      have hcell := HA.out.cell (l * 3) (by rw [HRl.out]; omega)
      have hf := HA.out.frozen (l * 3)
      obtain ⟨r, hr⟩ : ∃ r, R.getD (l * 3) 0 = r := ⟨_, rfl⟩
      rw [hr] at hcell
      have HR : Hid (R.getD (l * 3) 0 = r) := hr
      clear hr el
      have hli : (l : Int) ≤ 30 := by omega
      go_wp2_with fail
      go_roundw
      case rel =>
        refine ⟨j + 1, by omega, by go_num, ?_, ?_⟩
        · show Arr _ _ _ _
          rw [HN.out, rone, Int.toNat_natCast, HR.out]
          exact HA.out.set _ _
        · exact HB.out.setCell (p := ⟨h + 2, l * 3, none⟩) (Nat.le_refl _) _
      case measure => simp [intOf]; omega
    · have hj5 : j = 257 := by omega
      subst hj5
      have HM0 : Hid (Arr wr (h + 2) 148 (rmade 0)) := by
        show Arr _ _ _ _
        have := HA.out
        rw [List.take_of_length_le (by rw [lens_len]; exact Nat.le_refl _), ← HZ.out] at this
        exact this
      clear HA
      obtain ⟨w4, hw4⟩ : ∃ w4, wr = w4 := ⟨_, rfl⟩
      rw [hw4] at HM0 HB ⊢
      clear hw4
      go_wp2_with fail
      go_loopw [6] (fun n wr => ∃ m : Nat, m ≤ 30 ∧ n = .int .i64 ((m : Int) + 1) ∧ Hid (Arr wr (h + 2) 148 (rmade m)) ∧ Hid (Below (h + 2) w3 wr)) (fun n _ => 31 - (intOf n).toNat)
      case atStart => exact ⟨0, Nat.zero_le _, rfl, HM0, HB⟩
      case round =>
        clear HM0 HB
        obtain ⟨m, hm, rfl, HA, HB⟩ := hrel
        by_cases hm30 : m < 30
        · have hmi : (m : Int) ≤ 29 := by omega
          have HRl : Hid ((rmade m).length = 93) := rmade_len m
          have HN : Hid (rmade (m + 1) = rstep m (rmade m)) := rfl
          generalize rmade m = R at HA HN HRl
          have c0 := HA.out.cell (m * 3) (by rw [HRl.out]; omega)
          have c1 := HA.out.cell (m * 3 + 1) (by rw [HRl.out]; omega)
          have c2 := HA.out.cell (m * 3 + 2) (by rw [HRl.out]; omega)
          obtain ⟨r0, hr0⟩ : ∃ r, R.getD (m * 3) 0 = r := ⟨_, rfl⟩
          obtain ⟨r1, hr1⟩ : ∃ r, R.getD (m * 3 + 1) 0 = r := ⟨_, rfl⟩
          obtain ⟨r2, hr2⟩ : ∃ r, R.getD (m * 3 + 2) 0 = r := ⟨_, rfl⟩
          have HR : Hid (R.getD (m * 3) 0 = r0 ∧ R.getD (m * 3 + 1) 0 = r1 ∧ R.getD (m * 3 + 2) 0 = r2) := ⟨hr0, hr1, hr2⟩
          rw [hr0] at c0
          rw [hr1] at c1
          rw [hr2] at c2
          clear hr0 hr1 hr2
          have hlt := HA.out.lt
          obtain ⟨W1, hW1⟩ : ∃ W1, wr.alloc (.cells #[.int .i64 r0, .int .i64 r1, .int .i64 r2] 147) = W1 := ⟨_, rfl⟩
          have HA1' : Hid (Arr W1 (h + 2) 148 R) := by show Arr _ _ _ _; rw [← hW1]; exact HA.out.alloc _
          have hx : W1.heap[wr.heap.size]? = some (.cells #[.int .i64 r0, .int .i64 r1, .int .i64 r2] 147 (0, 0)) := by rw [← hW1]; exact heap_alloc_last wr _
          have HB1 : Hid (Below (h + 2) w3 W1) := by show Below _ _ _; rw [← hW1]; exact HB.out.alloc (by omega) _
          have x0 : W1.cell? ⟨wr.heap.size, 0, none⟩ = some (.int .i64 r0) := by rw [cell_of_row _ _ _ _ _ _ hx]; rfl
          have x1 : W1.cell? ⟨wr.heap.size, 1, none⟩ = some (.int .i64 r1) := by rw [cell_of_row _ _ _ _ _ _ hx]; rfl
          have x2 : W1.cell? ⟨wr.heap.size, 2, none⟩ = some (.int .i64 r2) := by rw [cell_of_row _ _ _ _ _ _ hx]; rfl
          have y0 : ∀ k v, (W1.setCell ⟨h + 2, k, none⟩ v).cell? ⟨wr.heap.size, 0, none⟩ = some (.int .i64 r0) := fun k v => (World.cell?_setCell_other _ _ _ _ (fun e => by simp at e <;> omega)).trans x0
          have y2 : ∀ k v, (W1.setCell ⟨h + 2, k, none⟩ v).cell? ⟨wr.heap.size, 2, none⟩ = some (.int .i64 r2) := fun k v => (World.cell?_setCell_other _ _ _ _ (fun e => by simp at e <;> omega)).trans x2
          have f1 := HA1'.out.frozen ((m + 1) * 3 + 1)
          have d1 := HA1'.out.cell ((m + 1) * 3 + 1) (by rw [HRl.out]; omega)
          have f2 : ∀ v, (W1.setCell ⟨h + 2, (m + 1) * 3 + 1, none⟩ (.int .i64 v)).frozen? ⟨h + 2, (m + 1) * 3 + 2, none⟩ = false := fun v => (HA1'.out.set _ _).frozen _
          have d2 : ∀ v, (W1.setCell ⟨h + 2, (m + 1) * 3 + 1, none⟩ (.int .i64 v)).cell? ⟨h + 2, (m + 1) * 3 + 2, none⟩ = some (.int .i64 ((R.set ((m + 1) * 3 + 1) v).getD ((m + 1) * 3 + 2) 0)) := fun v => (HA1'.out.set _ _).cell _ (by rw [List.length_set, HRl.out]; omega)
          go_wp2_with fail
          go_roundw
          case rel =>
            refine ⟨m + 1, by omega, by go_num, ?_, ?_⟩
            · show Arr _ _ _ _
              rw [HN.out, rstep, HR.out.1, HR.out.2.1, HR.out.2.2]
              exact (HA1'.out.set _ _).set _ _
            · exact (HB1.out.setCell (p := ⟨h + 2, (m + 1) * 3 + 1, none⟩) (Nat.le_refl _) _).setCell (p := ⟨h + 2, (m + 1) * 3 + 2, none⟩) (Nat.le_refl _) _
          case measure => simp [intOf]; omega
        · have hm3 : m = 30 := by omega
          subst hm3
          have hr30 : Arr wr (h + 2) 148 rowsI := by
            have := HA.out
            rw [rows_all] at this
            exact this
          have hz1 : Arr wr (h + 1) 148 Z := HA1.out.below HB.out (by omega)
          have hzs : (tabV Z).size = (tabV rowsI).size := by rw [tabV_size, tabV_size, HZl.out, rowsI_len]
          have HBw : Hid (Below h w wr) := HB3.out.trans (HB.out.mono (by omega))
          clear HA HB HA1
          go_wp2_with (first
            | (refine wpList_load_row rfl 148 _ rfl (h + 2) rfl 148 (tabV rowsI) (0, 0) _ hr30 Tryz.underlying148 rfl (sizeR rowsI_len) ?_)
            | (refine wpList_store_row rfl 148 _ _ rfl (h + 1) (tabV rowsI) rfl rfl 148 (tabV Z) hz1 (sizeR rowsI_len) hzs (tabV_one _) ?_))
          refine bodyPost_ret (results_cell_row rfl _ _ (h + 1) 148 (tabV rowsI) (0, 0) _ rfl (setRow_heap _ _ _ _ _ _ hz1) Tryz.underlying148 rfl (sizeR rowsI_len)) rfl ⟨rfl, ?_⟩
          first | exact below_setRow HBw.out (by omega) _ | (rw [hh]; exact below_setRow HBw.out (by omega) _)

end Go.Proofs.YtckpacifimpkgacGreat
