/- errors.As finds the program's own error: true, and the variable holds it; nothing else that was there is written. -/
import Derived.Test.YtckpacifimpkgadDoorAsFacts
namespace Go.Proofs.YtckpacifimpkgadDoor
open Go.RowKit Go.Extern.Stop Go.Stop Go.Extern
set_option linter.unusedVariables false

/-- The variable in which errors.As looks the type of errors up. -/
def ErrT (w : World) : Prop := w.cell? ⟨0, 0, none⟩ = some (.iface 89 (.agg #[.pointer (some ⟨1, 53, none⟩)]))

set_option maxHeartbeats 4000000 in
theorem as_hit (c : Int) (t : Addr) (old : Value) (w : World) (hg : ErrT w) (ht0 : w.cell? t = some old) (hf0 : w.frozen? t = false) :
    Calls Tryd.prog 26 #[.iface 57 (.agg #[.int .i64 c]), .iface 59 (.pointer (some t))] w fun ev w' => ev = .returned (.bool true) ∧ w' = ((((w.alloc (.cells #[.pointer (some t)] 59)).alloc (.cells #[.pointer (some ⟨1, 59, none⟩), .pointer (some ⟨w.heap.size, 0, none⟩), .int .u64 150] 75)).alloc (.cells #[.pointer (some ⟨1, 59, none⟩), .pointer (some ⟨w.heap.size, 0, none⟩), .int .u64 150] 75)).alloc (.cells #[.int .i64 c] 57)).setCell t (.int .i64 c) := by
  unfold ErrT at hg
  have h6 := @run_callFunc_extern Tryd.prog 43 _ (fun args => ReflectliteValue.unpack (args.getD 0 (.tuple #[]))) Tryd.func43 (by kernel_rfl) (by kernel_rfl) (by kernel_rfl) (by kernel_rfl)
  have h7 := @run_callFunc_extern Tryd.prog 44 _ (ReflectliteValue.methodAny (ReflectliteValue.valueError "reflectlite.Value.Type" 0) (fun t _ _ _ => ReflectliteType.toType t)) Tryd.func44 (by kernel_rfl) (by kernel_rfl) (by kernel_rfl) (by kernel_rfl)
  have h8 := @run_callFunc_extern Tryd.prog 45 _ (ReflectliteValue.method (ReflectliteValue.valueError "reflectlite.Value.IsNil" 0) ReflectliteValue.isNil) Tryd.func45 (by kernel_rfl) (by kernel_rfl) (by kernel_rfl) (by kernel_rfl)
  have h27 := @run_callFunc_extern Tryd.prog 72 _ (ReflectliteType.abiMethod fun t => do pure (.int .u8 (← Rtype.kind t))) Tryd.func72 (by kernel_rfl) (by kernel_rfl) (by kernel_rfl) (by kernel_rfl)
  have h37 := @run_callFunc_extern Tryd.prog 82 _ (ReflectliteType.method ReflectliteType.elem) Tryd.func82 (by kernel_rfl) (by kernel_rfl) (by kernel_rfl) (by kernel_rfl)
  have h38 := @run_callFunc_extern Tryd.prog 83 _ (ReflectliteType.relation "Implements" ReflectliteType.implements_) Tryd.func83 (by kernel_rfl) (by kernel_rfl) (by kernel_rfl) (by kernel_rfl)
  have h10 := @run_callFunc_extern Tryd.prog 54 _ ReflectliteType.typeOf Tryd.func54 (by kernel_rfl) (by kernel_rfl) (by kernel_rfl) (by kernel_rfl)
  have h35 := @run_callFunc_extern Tryd.prog 80 _ (ReflectliteType.relation "AssignableTo" ReflectliteType.assignableTo) Tryd.func80 (by kernel_rfl) (by kernel_rfl) (by kernel_rfl) (by kernel_rfl)
  have h11 := @run_callFunc_extern Tryd.prog 55 _ (ReflectliteValue.method (ReflectliteValue.valueError "reflectlite.Value.Elem" 0) ReflectliteValue.elem) Tryd.func55 (by kernel_rfl) (by kernel_rfl) (by kernel_rfl) (by kernel_rfl)
  have h12 := @run_callFunc_extern Tryd.prog 56 _ ReflectliteValue.set Tryd.func56 (by kernel_rfl) (by kernel_rfl) (by kernel_rfl) (by kernel_rfl)
  have r0 := rl_typeOf
  have r1 := rl_mAssignable
  have r2 := rl_assignable
  have r3 := rl_valueE
  have r4 := rl_valueP
  have r5 := rl_typeP
  have r6 := rl_mKind
  have r7 := rl_mElem
  have r8 := rl_mImplements
  have r9 := rl_kindP
  have r10 := rl_kindE
  have r11 := rl_elem
  have r12 := rl_implements
  have n8 := rl_isNil ⟨w.heap.size, 0, none⟩ t ((w.alloc (.cells #[.pointer (some t)] 59)).alloc (.cells #[.pointer (some ⟨1, 59, none⟩), .pointer (some ⟨w.heap.size, 0, none⟩), .int .u64 150] 75)) (by simp)
  have hlt : 0 < w.heap.size := by
    rcases Nat.eq_zero_or_pos w.heap.size with h0 | h
    · simp [World.cell?, h0] at hg
    · exact h
  have hg2 : ((w.alloc (.cells #[.pointer (some t)] 59)).alloc (.cells #[.pointer (some ⟨1, 59, none⟩), .pointer (some ⟨w.heap.size, 0, none⟩), .int .u64 150] 75)).cell? ⟨0, 0, none⟩ = some (.iface 89 (.agg #[.pointer (some ⟨1, 53, none⟩)])) := by
    rw [World.cell?_alloc_lt _ _ ⟨0, 0, none⟩ (by simp), World.cell?_alloc_lt _ _ ⟨0, 0, none⟩ hlt]; exact hg
  have htl : t.block < w.heap.size := by
    rcases Nat.lt_or_ge t.block w.heap.size with h | h
    · exact h
    · simp [World.cell?, Array.getElem?_eq_none h] at ht0
  have el := rl_elemV ⟨w.heap.size, 0, none⟩ t (((w.alloc (.cells #[.pointer (some t)] 59)).alloc (.cells #[.pointer (some ⟨1, 59, none⟩), .pointer (some ⟨w.heap.size, 0, none⟩), .int .u64 150] 75)).alloc (.cells #[.pointer (some ⟨1, 59, none⟩), .pointer (some ⟨w.heap.size, 0, none⟩), .int .u64 150] 75)) (by rw [World.cell?_alloc_lt _ _ ⟨w.heap.size, 0, none⟩ (by simp; omega), World.cell?_alloc_lt _ _ ⟨w.heap.size, 0, none⟩ (by simp)]; simp)
  have st := rl_setE t ⟨w.heap.size + 1 + 1 + 1, 0, none⟩ c old ((((w.alloc (.cells #[.pointer (some t)] 59)).alloc (.cells #[.pointer (some ⟨1, 59, none⟩), .pointer (some ⟨w.heap.size, 0, none⟩), .int .u64 150] 75)).alloc (.cells #[.pointer (some ⟨1, 59, none⟩), .pointer (some ⟨w.heap.size, 0, none⟩), .int .u64 150] 75)).alloc (.cells #[.int .i64 c] 57))
    (by rw [World.cell?_alloc_at _ _ _ _ (by simp)]; rfl)
    (by rw [World.cell?_alloc_lt _ _ t (by simp; omega), World.cell?_alloc_lt _ _ t (by simp; omega), World.cell?_alloc_lt _ _ t (by simp; omega), World.cell?_alloc_lt _ _ t htl]; exact ht0)
    (by rw [World.frozen?_alloc_old _ _ t (by simp; omega), World.frozen?_alloc_old _ _ t (by simp; omega), World.frozen?_alloc_old _ _ t (by simp; omega), World.frozen?_alloc_old _ _ t (Nat.ne_of_lt htl)]; exact hf0)
  go_enter Tryd.func26, Tryd.ntmps26
  go_wp2
  refine wp_loop_rounds 1 ?_
  rw [rounds_succ]
  go_wp2
  go_ret
  exact ⟨rfl, rfl⟩

end Go.Proofs.YtckpacifimpkgadDoor
