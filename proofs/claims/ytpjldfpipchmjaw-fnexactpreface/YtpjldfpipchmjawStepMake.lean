/- Steps of a region that draws its order: a call of two arguments; bytes that are made; a text of bytes that are all 0. No program in it. -/
import Derived.Deep.RegionLaw
import Derived.Laws.MakeOwn
import Derived.Laws.OwnMore
import Derived.Laws.IdiomStrings
import Derived.Below
import Derived.WalkKit
namespace Go.Proofs.Ytpjldfpipchmjaw
open Go.RowKit
set_option linter.unusedVariables false

theorem step_call_pair {P : Program} {ops : Array Oper} {o : Oper} {a : Act} {w : World} {K : Act → World → Prop} {Q : Exit → Act → World → Prop} {E : Prop}
    (hg : o.guard = none) (f : FuncId) (x y : Operand) (t t' : TypeId) (ho : o.op = .call { callee := .value (.func f), args := #[x, y], argTypes := #[t, t'] })
    (hent : ∀ args w, (callFunc f args).run P w = .ok (.enter f args) w) (u u' : Value) (hx : a.eval x = u) (hy : a.eval y = u') (R : Ending → World → Prop)
    (hc : Calls P f #[u, u'] w R) (h : ∀ e w', R e w' → ∃ v, e = .returned v ∧ K (a.put o.dst v) w') :
    if Region.wanted o (yielded ops a.tmps) = true then Oper.wp P o a w K Q else E := by
  have hw : Region.wanted o (yielded ops a.tmps) = true := by simp [Region.wanted, hg]
  rw [if_pos hw]
  have hf : a.eval (.func f) = .func (.func f) #[] #[] := rfl
  unfold Oper.wp
  simp [execOp, ho, resolve, invoke, Deferred.ofValue, hent, hf, hx, hy, Oper.upon_enter]
  refine hc.mono ?_
  intro e w' hr
  obtain ⟨v, rfl, hk⟩ := h e w' hr
  exact hk

theorem run_make_zero {P : Program} (w : World) (t e : TypeId) (i : TypeInfo) (h1 : P.underlying t = some (.slice e)) (h2 : P.info? e = some i) (h3 : i.zero = some (.int .u8 0)) (h4 : i.size = 1) (h5 : i.bytes = 1) (n : Nat) (b2 : n ≤ 2199023255552) :
    (Instr.makeSlice t (.int .i64 n) (.int .i64 n)).run P w = .ok (.slice (some ⟨w.heap.size, 0, none⟩) n n) (w.alloc (.cells (List.replicate n (.int .u8 0)).toArray e)) := by
  have hz : (Value.int .u8 0).cells = #[.int .u8 0] := rfl
  have hr := run_make (P := P) w t e i _ h1 h2 h3 .i64 .i64 n n (by omega) (by omega) (by rw [h5]; omega) (by omega)
  simp only [Int.toNat_natCast, h4, Nat.mul_one, hz] at hr
  rw [hr]
  congr 1
  congr 1
  congr 1
  apply Array.toList_inj.1
  rw [toList_madeCells_one]

theorem run_text_zero {P : Program} (w : World) (src dst e : TypeId) (hs : P.underlying src = some (.slice e)) (he : P.underlying e = some (.int .u8)) (hd : P.underlying dst = some .string) (b n cap : Nat) (hc : w.heap[b]? = some (.cells (List.replicate n (.int .u8 0)).toArray e (0, 0))) :
    ∃ s : ByteArray, s.size = n ∧ (convert src dst (.slice (some ⟨b, 0, none⟩) n cap)).run P w = .ok (.string s) w := by
  have hr := run_convert_bytes_back (P := P) w src dst e ⟨b, 0, none⟩ cap (List.replicate n 0) hs he hd (by
    intro j hj
    rw [List.length_replicate] at hj
    have hp : (⟨b, 0, none⟩ : Addr).add j = ⟨b, j, none⟩ := by unfold Addr.add; split <;> simp_all
    rw [hp]
    simp [World.cell?, hc, hj])
  rw [List.length_replicate] at hr
  exact ⟨_, by simp [ByteArray.size], hr⟩

theorem step_make_zero {P : Program} {ops : Array Oper} {o : Oper} {a : Act} {w : World} {K : Act → World → Prop} {Q : Exit → Act → World → Prop} {E : Prop}
    (hg : o.guard = none) (l : Operand) (t e : TypeId) (hop : o.op = Op.makeSlice t l l) (i : TypeInfo) (h1 : P.underlying t = some (.slice e)) (h2 : P.info? e = some i) (h3 : i.zero = some (.int .u8 0)) (h4 : i.size = 1) (h5 : i.bytes = 1)
    (L : Int) (n : Nat) (hl : a.eval l = .int .i64 L) (hL : L = (n : Int)) (b2 : n ≤ 2199023255552)
    (h : ∀ w', w'.heap[w.heap.size]? = some (.cells (List.replicate n (.int .u8 0)).toArray e (0, 0)) → Below w.heap.size w w' → K (a.put o.dst (.slice (some ⟨w.heap.size, 0, none⟩) n n)) w') :
    if Region.wanted o (yielded ops a.tmps) = true then Oper.wp P o a w K Q else E := by
  have hw : Region.wanted o (yielded ops a.tmps) = true := by simp [Region.wanted, hg]
  rw [if_pos hw]
  subst hL
  have hz : (Value.int .u8 0).cells = #[.int .u8 0] := rfl
  have hr := run_make (P := P) w t e i _ h1 h2 h3 .i64 .i64 n n (by omega) (by omega) (by rw [h5]; omega) (by omega)
  simp only [Int.toNat_natCast, h4, Nat.mul_one, hz] at hr
  unfold Oper.wp
  simp [execOp, hop, hl, hr, Result.andThen]
  refine h _ ?_ ((Below.refl _ _).alloc (Nat.le_refl _) _)
  rw [heap_alloc_new]
  congr 1
  congr 1
  apply Array.toList_inj.1
  rw [toList_madeCells_one]

theorem step_text_zero {P : Program} {ops : Array Oper} {o : Oper} {a : Act} {w : World} {K : Act → World → Prop} {Q : Exit → Act → World → Prop} {E : Prop}
    (hg : o.guard = none) (x : Operand) (src dst e : TypeId) (hop : o.op = Op.convert src dst x) (hs : P.underlying src = some (.slice e)) (he : P.underlying e = some (.int .u8)) (hd : P.underlying dst = some .string)
    (b n cap : Nat) (hx : a.eval x = .slice (some ⟨b, 0, none⟩) n cap) (hc : w.heap[b]? = some (.cells (List.replicate n (.int .u8 0)).toArray e (0, 0)))
    (h : ∀ s : ByteArray, s.size = n → K (a.put o.dst (.string s)) w) :
    if Region.wanted o (yielded ops a.tmps) = true then Oper.wp P o a w K Q else E := by
  have hw : Region.wanted o (yielded ops a.tmps) = true := by simp [Region.wanted, hg]
  rw [if_pos hw]
  have hr := run_convert_bytes_back (P := P) w src dst e ⟨b, 0, none⟩ cap (List.replicate n 0) hs he hd (by
    intro j hj
    rw [List.length_replicate] at hj
    have hp : (⟨b, 0, none⟩ : Addr).add j = ⟨b, j, none⟩ := by unfold Addr.add; split <;> simp_all
    rw [hp]
    simp [World.cell?, hc, hj])
  rw [List.length_replicate] at hr
  unfold Oper.wp
  simp [execOp, hop, hx, hr, Result.andThen]
  exact h _ (by simp [ByteArray.size])

end Go.Proofs.Ytpjldfpipchmjaw
