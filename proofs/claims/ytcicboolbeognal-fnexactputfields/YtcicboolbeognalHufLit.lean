/- A function that only answers a literal of many whole numbers: a new row, whatever their number; the parts are never walked one by one. No program in it. -/
import Derived.WalkKit
namespace Go.Proofs.Ytcicboolbeognal
open Go.RowKit
set_option linter.unusedVariables false

theorem run_lit {P : Program} (w : World) (t e : TypeId) (len : Nat) (parts : Array (Nat × Value)) (cells : Array Value) (i : TypeInfo) (z : Value)
    (h1 : P.underlying t = some (.slice e)) (h2 : P.info? e = some i) (h3 : i.size = 1) (h4 : i.zero = some z) (hlen : len ≤ 1000) (h0 : 1 ≤ len)
    (hf : Instr.fill (fun i => some (i * 1, 1)) ((Array.range (len * 1)).map (z.cells[· % z.cells.size]!)) parts.toList = some cells) :
    (Instr.buildSlice t len parts).run P w = .ok (.slice (some ⟨w.heap.size, 0, none⟩) len len) (w.alloc (.cells cells e)) := by
  have hs : ∀ w, (sizeOf e).run P w = .ok 1 w := fun w => by simp [sizeOf, typeInfo, h2, h3]
  have hz : ∀ w, (zeroValue e).run P w = .ok z w := fun w => by simp [zeroValue, typeInfo, h2, h4]
  have hn : ¬ (len * 1 > 2 ^ 24) := by omega
  have hn0 : ¬ (len * 1 = 0) := by omega
  unfold Instr.buildSlice
  simp only [Sem.run_bind, run_underlying h1, Result.andThen_ok, hs, hn, if_false, hn0, hz, Sem.run_pure, hf]
  simp [newRow]

theorem wpList_lit {P : Program} {w w' : World} {ops : Array Oper} {rest : List Oper} {o : Oper} {a : Act} {Q : Exit → Act → World → Prop} (hg : o.guard = none) (t : TypeId) (len : Nat) (parts : Array (Nat × Operand)) (hop : o.op = .buildSlice t len parts) (v : Value)
    (hrun : (Instr.buildSlice t len (parts.map fun (i, x) => (i, a.eval x))).run P w = .ok v w') (hK : wpList P ops Q rest (a.put o.dst v) w') : wpList P ops Q (o :: rest) a w := by
  refine wpList_plain hg fun K hK' => ?_
  unfold Oper.wp execOp
  simp only [hop, Sem.run_bind, hrun, Result.andThen_ok]
  exact hK' _ _ hK

/-- The body of such a function. -/
def litBody (t : TypeId) (len : Nat) (parts : Array (Nat × Operand)) (p0 p1 : String) : Code :=
  (Code.region 0 #[{ dst := some 0, op := .assign (.const (.slice none 0 0)), type := t, pos := p0, after := #[], guard := none }] false).seq
    ((Code.region 1 #[{ dst := some 1, op := .buildSlice t len parts, type := t, pos := p1, after := #[], guard := none },
      { dst := some 0, op := .assign (.tmp 1), type := t, pos := p1, after := #[{ on := 0, ground := .data }, { on := 0, ground := .phase }], guard := none }] false).seq .ret)

/-- The parts of a literal of these numbers. -/
def litParts (L : List Int) : List (Nat × Operand) := L.zipIdx.map fun (x, i) => (i, .const (.int .i64 x))
def litVals (L : List Int) : List (Nat × Value) := L.zipIdx.map fun (x, i) => (i, .int .i64 x)

theorem eval_parts (a : Act) (L : List Int) : ((litParts L).toArray.map fun (i, x) => (i, a.eval x)).toList = litVals L := by
  simp [litParts, litVals, Act.eval]

theorem lit_calls {P : Program} {f : FuncId} {fn : Func} (hf : P.funcs[f]? = some fn) (t : TypeId) (L : List Int) (p0 p1 : String) (cells : Array Value) (i : TypeInfo)
    (hb : fn.body = some (litBody t L.length (litParts L).toArray p0 p1)) (hn : fn.ntmps = 2) (hr : fn.results = #[.tmp 0])
    (h1 : P.underlying t = some (.slice 3)) (h2 : P.info? 3 = some i) (h3 : i.size = 1) (h4 : i.zero = some (.int .i64 0)) (hlen : L.length ≤ 1000) (h0 : 1 ≤ L.length)
    (hfl : Instr.fill (fun i => some (i * 1, 1)) ((Array.range (L.length * 1)).map ((Value.int .i64 0).cells[· % (Value.int .i64 0).cells.size]!)) (litVals L) = some cells) (w : World) :
    Calls P f #[] w fun e w' => e = .returned (.slice (some ⟨w.heap.size, 0, none⟩) L.length L.length) ∧ w' = w.alloc (.cells cells 3) := by
  have hrun : ∀ (w : World) (a : Act), (Instr.buildSlice t L.length ((litParts L).toArray.map fun (i, x) => (i, a.eval x))).run P w = .ok (.slice (some ⟨w.heap.size, 0, none⟩) L.length L.length) (w.alloc (.cells cells 3)) :=
    fun w a => run_lit w t 3 L.length _ cells i (.int .i64 0) h1 h2 h3 h4 hlen h0 (by rw [eval_parts]; exact hfl)
  generalize L.length = len at *
  generalize hpp : (litParts L).toArray = parts at *
  refine calls_of_wp hf hb ?_
  unfold litBody
  simp only [hn, List.size_toArray, List.length_nil, Nat.reduceSub, Array.replicate_succ, Array.replicate_zero, List.push_toArray, List.append_toArray, List.nil_append, List.cons_append]
  go_wp2_with (refine wpList_lit rfl _ _ _ rfl _ (hrun _ _) ?_)
  refine bodyPost_ret (results_tmp hr _ _ _) rfl ?_
  exact ⟨rfl, rfl⟩

end Go.Proofs.Ytcicboolbeognal
