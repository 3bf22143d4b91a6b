/- The program's first fields: an array by value, whose parts are never walked one by one. -/
import Derived.Laws.Rows
import Derived.Laws.Tables
import Derived.Deep.WholeRow
import Derived.Test.YtghakpcagacdaalM07
import Derived.Test.YtghakpcagacdaalM13
namespace Go.Proofs.Ytghakpcagacdaal
open Go.RowKit
set_option linter.unusedVariables false

/-- Operations that make these fields, in the slots from k on. -/
def Builds (t : TypeId) : Nat → List Oper → List Fld → Prop
  | _, [], [] => True
  | k, o :: os, f :: fs => o.guard = none ∧ o.dst = some k ∧ o.op = .build t #[(0, .const (.string f.1)), (1, .const (.string f.2))] ∧ Builds t (k + 1) os fs
  | _, _, _ => False

def putAll : Array Value → Nat → List Fld → Array Value
  | T, _, [] => T
  | T, k, f :: fs => putAll (T.setIfInBounds k (.agg #[.string f.1, .string f.2])) (k + 1) fs

theorem wpList_builds {P : Program} {ops : Array Oper} {rest : List Oper} {w : World} {Q : Exit → Act → World → Prop} {t : TypeId} (hbt : ∀ x y, P.built t [(0, .string x), (1, .string y)] = some #[.string x, .string y]) :
    ∀ (os : List Oper) (L : List Fld) (k : Nat) (a : Act), Builds t k os L → wpList P ops Q rest { a with tmps := putAll a.tmps k L } w → wpList P ops Q (os ++ rest) a w := by
  intro os
  induction os with
  | nil =>
    intro L k a hb h
    cases L with
    | nil => exact h
    | cons f fs => exact hb.elim
  | cons o os ih =>
    intro L k a hb h
    cases L with
    | nil => exact hb.elim
    | cons f fs =>
      obtain ⟨hg, hd, ho, hb⟩ := hb
      have e : P.built t ((#[(0, Operand.const (.string f.1)), (1, Operand.const (.string f.2))] : Array (Nat × Operand)).map fun (i, x) => (i, a.eval x)).toList = some #[.string f.1, .string f.2] := by
        simp only [List.map_toArray, List.map_cons, List.map_nil]
        exact hbt f.1 f.2
      refine wpList_build hg t _ ho (by rw [e]; rfl) ?_
      rw [e, hd]
      exact ih fs (k + 1) _ hb h

/-- The body of a function that answers a literal of an array of fields. -/
def fldsBody (t : TypeId) (ops : Array Oper) (p0 : String) : Code :=
  (Code.region 0 #[{ dst := some 0, op := .alloc t, type := 0, pos := p0, after := #[], guard := none }] false).seq ((Code.region 1 ops false).seq .ret)

theorem flds_calls {P : Program} {f : FuncId} {fn : Func} (hf : P.funcs[f]? = some fn) (t u e : TypeId) (n m : Nat) (L : List Fld) (p0 : String) (ops : Array Oper) (os : List Oper) (ob ostore : Oper) (parts : Array (Nat × Operand)) (cells z : Array Value)
    (hb : fn.body = some (fldsBody t ops p0)) (hn : fn.ntmps = m) (hr : fn.results = #[.cell 0 t])
    (hops : ops.toList = os ++ [ob, ostore]) (hB : Builds u 1 os L) (hob : ob.op = .build t parts) (hog : ob.guard = none) (hod : ob.dst = some (L.length + 1)) (hos : ostore.op = .store t (.tmp 0) (.tmp (L.length + 1))) (hsg : ostore.guard = none) (hsd : ostore.dst = none)
    (hbt : ∀ x y, P.built u [(0, .string x), (1, .string y)] = some #[.string x, .string y])
    (hu : P.underlying t = some (.array n e)) (hz : ∀ w, (zeroValue t).run P w = .ok (.agg z) w) (hsz : z.size = cells.size) (hi : (P.info? t).map (·.size) = some cells.size)
    (h1 : cells.all (·.oneCell') = true) (hpt : ∀ v : Value, (putAll ((Array.replicate m undef).setIfInBounds 0 v) 1 L)[0]? = some v) (hsl : ∀ v : Value, L.length + 1 < (putAll ((Array.replicate m undef).setIfInBounds 0 v) 1 L).size)
    (hbig : ∀ v : Value, P.built t (parts.map fun (i, x) => (i, ({ tmps := putAll ((Array.replicate m undef).setIfInBounds 0 v) 1 L, defers := [] } : Act).eval x)).toList = some cells) (w : World) :
    Calls P f #[] w fun e w' => e = .returned (.agg cells) ∧ w' = w.alloc (.cells cells t) := by
  refine calls_of_wp hf hb ?_
  unfold fldsBody
  rw [hn]
  have e0 : (#[] ++ Array.replicate (m - (#[] : Array Value).size) undef : Array Value) = Array.replicate m undef := by simp
  rw [e0]
  go_wp2_with fail
  refine wpList_builds hbt os L 1 _ hB ?_
  refine wpList_build hog t parts hob (by rw [hbig]; rfl) ?_
  rw [hbig, hod, Option.getD_some]
  have hlt := hsl (Value.pointer (some { block := w.heap.size, off := 0 }))
  have hp0 := hpt (Value.pointer (some { block := w.heap.size, off := 0 }))
  generalize putAll ((Array.replicate m undef).setIfInBounds 0 (Value.pointer (some { block := w.heap.size, off := 0 }))) 1 L = T at *
  have hx : (T.setIfInBounds (L.length + 1) (.agg cells)).getD 0 undef = .pointer (some ⟨w.heap.size, 0, none⟩) := by
    rw [Array.getD_eq_getD_getElem?, Array.getElem?_setIfInBounds_ne (by omega), hp0]
    rfl
  have hy : (T.setIfInBounds (L.length + 1) (.agg cells)).getD (L.length + 1) undef = .agg cells := by
    rw [Array.getD_eq_getD_getElem?, Array.getElem?_setIfInBounds_self_of_lt hlt]
    rfl
  refine wpList_store_row hsg t _ _ hos w.heap.size cells hx hy t z (heap_alloc_last w _) hi hsz h1 ?_
  rw [World.setRow_alloc_new, hsd]
  go_wp2_with fail
  exact bodyPost_ret (results_cell_row hr _ _ w.heap.size t cells (0, 0) _ hx (heap_alloc_last w _) hu rfl hi) rfl ⟨rfl, rfl⟩

theorem Try.infoF : (Try.prog.info? 143).map (fun i => (i.zero, i.size)) = some (some (.agg (Array.replicate 122 (.string ⟨#[]⟩))), 122) := by kernel_rfl

theorem firstCells_len : (fieldCells firstL).toArray.size = 122 := by decide +kernel
theorem firstCells_one : (fieldCells firstL).toArray.all (·.oneCell') = true := by kernel_rfl

set_option maxRecDepth 100000 in
theorem implFirst_any (w : World) : Calls Try.prog 103 #[] w fun e w' => e = .returned (.agg (fieldCells firstL).toArray) ∧ w' = w.alloc (.cells (fieldCells firstL).toArray 143) := by
  refine flds_calls Try.func103 143 44 44 61 63 firstL _ _ _ _ _ _ (fieldCells firstL).toArray (Array.replicate 122 (.string ⟨#[]⟩))
    (hb := rfl) (hn := rfl) (hr := rfl) (hops := (rfl : _ = [_, _, _, _, _, _, _, _, _, _, _, _, _, _, _, _, _, _, _, _, _, _, _, _, _, _, _, _, _, _, _, _, _, _, _, _, _, _, _, _, _, _, _, _, _, _, _, _, _, _, _, _, _, _, _, _, _, _, _, _, _] ++ [_, _])) (hB := ⟨rfl, rfl, rfl, rfl, rfl, rfl, rfl, rfl, rfl, rfl, rfl, rfl, rfl, rfl, rfl, rfl, rfl, rfl, rfl, rfl, rfl, rfl, rfl, rfl, rfl, rfl, rfl, rfl, rfl, rfl, rfl, rfl, rfl, rfl, rfl, rfl, rfl, rfl, rfl, rfl, rfl, rfl, rfl, rfl, rfl, rfl, rfl, rfl, rfl, rfl, rfl, rfl, rfl, rfl, rfl, rfl, rfl, rfl, rfl, rfl, rfl, rfl, rfl, rfl, rfl, rfl, rfl, rfl, rfl, rfl, rfl, rfl, rfl, rfl, rfl, rfl, rfl, rfl, rfl, rfl, rfl, rfl, rfl, rfl, rfl, rfl, rfl, rfl, rfl, rfl, rfl, rfl, rfl, rfl, rfl, rfl, rfl, rfl, rfl, rfl, rfl, rfl, rfl, rfl, rfl, rfl, rfl, rfl, rfl, rfl, rfl, rfl, rfl, rfl, rfl, rfl, rfl, rfl, rfl, rfl, rfl, rfl, rfl, rfl, rfl, rfl, rfl, rfl, rfl, rfl, rfl, rfl, rfl, rfl, rfl, rfl, rfl, rfl, rfl, rfl, rfl, rfl, rfl, rfl, rfl, rfl, rfl, rfl, rfl, rfl, rfl, rfl, rfl, rfl, rfl, rfl, rfl, rfl, rfl, rfl, rfl, rfl, rfl, rfl, rfl, rfl, rfl, rfl, rfl, rfl, rfl, rfl, rfl, rfl, rfl, rfl, rfl, rfl, rfl, rfl, rfl, rfl, rfl, trivial⟩) (hob := rfl) (hog := rfl) (hod := rfl) (hos := rfl) (hsg := rfl) (hsd := rfl) (hbt := fun _ _ => rfl) (hu := Try.underlying143) (hz := (zero_of_info Try.infoF).1) (hsz := by decide +kernel) (hi := ?_) (h1 := firstCells_one) (hpt := fun v => by kernel_rfl) (hsl := fun v => of_decide_eq_true (by kernel_rfl)) (hbig := fun v => by kernel_rfl) w
  rw [firstCells_len]
  exact (zero_of_info Try.infoF).2

end Go.Proofs.Ytghakpcagacdaal
