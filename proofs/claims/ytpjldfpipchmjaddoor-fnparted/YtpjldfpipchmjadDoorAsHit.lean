/- errors.As finds the program's own error: true, and the variable holds it; nothing else that was there is written. -/
import Derived.Test.YtpjldfpipchmjadDoorAsFacts
namespace Go.Proofs.YtpjldfpipchmjadDoor
open Go.RowKit Go.Extern.Stop Go.Stop Go.Extern
set_option linter.unusedVariables false

/-- The variable in which errors.As looks the type of errors up. -/
def ErrT (w : World) : Prop := w.cell? ⟨1, 0, none⟩ = some (.iface 99 (.agg #[.pointer (some ⟨2, 59, none⟩)]))

set_option maxHeartbeats 4000000 in
theorem as_hit (c : Int) (t : Addr) (old : Value) (w : World) (hg : ErrT w) (ht0 : w.cell? t = some old) (hf0 : w.frozen? t = false) :
    Calls Tryd.prog 35 #[.iface 63 (.agg #[.int .i64 c]), .iface 65 (.pointer (some t))] w fun ev w' => ev = .returned (.bool true) ∧ w' = ((((w.alloc (.cells #[.pointer (some t)] 65)).alloc (.cells #[.pointer (some ⟨2, 65, none⟩), .pointer (some ⟨w.heap.size, 0, none⟩), .int .u64 150] 86)).alloc (.cells #[.pointer (some ⟨2, 65, none⟩), .pointer (some ⟨w.heap.size, 0, none⟩), .int .u64 150] 86)).alloc (.cells #[.int .i64 c] 63)).setCell t (.int .i64 c) := by
  unfold ErrT at hg
  have h6 := @run_callFunc_extern Tryd.prog 60 _ (fun args => ReflectliteValue.unpack (args.getD 0 (.tuple #[]))) Tryd.func60 (by kernel_rfl) (by kernel_rfl) (by kernel_rfl) (by kernel_rfl)
  have h7 := @run_callFunc_extern Tryd.prog 61 _ (ReflectliteValue.methodAny (ReflectliteValue.valueError "reflectlite.Value.Type" 0) (fun t _ _ _ => ReflectliteType.toType t)) Tryd.func61 (by kernel_rfl) (by kernel_rfl) (by kernel_rfl) (by kernel_rfl)
  have h8 := @run_callFunc_extern Tryd.prog 62 _ (ReflectliteValue.method (ReflectliteValue.valueError "reflectlite.Value.IsNil" 0) ReflectliteValue.isNil) Tryd.func62 (by kernel_rfl) (by kernel_rfl) (by kernel_rfl) (by kernel_rfl)
  have h27 := @run_callFunc_extern Tryd.prog 88 _ (ReflectliteType.abiMethod fun t => do pure (.int .u8 (← Rtype.kind t))) Tryd.func88 (by kernel_rfl) (by kernel_rfl) (by kernel_rfl) (by kernel_rfl)
  have h37 := @run_callFunc_extern Tryd.prog 98 _ (ReflectliteType.method ReflectliteType.elem) Tryd.func98 (by kernel_rfl) (by kernel_rfl) (by kernel_rfl) (by kernel_rfl)
  have h38 := @run_callFunc_extern Tryd.prog 99 _ (ReflectliteType.relation "Implements" ReflectliteType.implements_) Tryd.func99 (by kernel_rfl) (by kernel_rfl) (by kernel_rfl) (by kernel_rfl)
  have h10 := @run_callFunc_extern Tryd.prog 70 _ ReflectliteType.typeOf Tryd.func70 (by kernel_rfl) (by kernel_rfl) (by kernel_rfl) (by kernel_rfl)
  have h35 := @run_callFunc_extern Tryd.prog 96 _ (ReflectliteType.relation "AssignableTo" ReflectliteType.assignableTo) Tryd.func96 (by kernel_rfl) (by kernel_rfl) (by kernel_rfl) (by kernel_rfl)
  have h11 := @run_callFunc_extern Tryd.prog 71 _ (ReflectliteValue.method (ReflectliteValue.valueError "reflectlite.Value.Elem" 0) ReflectliteValue.elem) Tryd.func71 (by kernel_rfl) (by kernel_rfl) (by kernel_rfl) (by kernel_rfl)
  have h12 := @run_callFunc_extern Tryd.prog 72 _ ReflectliteValue.set Tryd.func72 (by kernel_rfl) (by kernel_rfl) (by kernel_rfl) (by kernel_rfl)
  have r0 := rl_typeOf
  have r1 := rl_mAssignable
  have r2 := rl_assignable
  have r3 := rl_valueE
  have r4 := rl_valueP
  have r5 := rl_typeP
  have r6 := rl_mKind
  have r7 := rl_mElem
  have r8 := rl_mImplements
  have r9 := rl_kindP
  have r10 := rl_kindE
  have r11 := rl_elem
  have r12 := rl_implements
  have n8 := rl_isNil ⟨w.heap.size, 0, none⟩ t ((w.alloc (.cells #[.pointer (some t)] 65)).alloc (.cells #[.pointer (some ⟨2, 65, none⟩), .pointer (some ⟨w.heap.size, 0, none⟩), .int .u64 150] 86)) (by simp)
  have hlt : 1 < w.heap.size := by
    rcases Nat.lt_or_ge 1 w.heap.size with h | h
    · exact h
    · simp [World.cell?, Array.getElem?_eq_none h] at hg
  have hg2 : ((w.alloc (.cells #[.pointer (some t)] 65)).alloc (.cells #[.pointer (some ⟨2, 65, none⟩), .pointer (some ⟨w.heap.size, 0, none⟩), .int .u64 150] 86)).cell? ⟨1, 0, none⟩ = some (.iface 99 (.agg #[.pointer (some ⟨2, 59, none⟩)])) := by
    rw [World.cell?_alloc_lt _ _ ⟨1, 0, none⟩ (by show 1 < _; rw [World.size_alloc]; omega), World.cell?_alloc_lt _ _ ⟨1, 0, none⟩ hlt]; exact hg
  have htl : t.block < w.heap.size := by
    rcases Nat.lt_or_ge t.block w.heap.size with h | h
    · exact h
    · simp [World.cell?, Array.getElem?_eq_none h] at ht0
  have el := rl_elemV ⟨w.heap.size, 0, none⟩ t (((w.alloc (.cells #[.pointer (some t)] 65)).alloc (.cells #[.pointer (some ⟨2, 65, none⟩), .pointer (some ⟨w.heap.size, 0, none⟩), .int .u64 150] 86)).alloc (.cells #[.pointer (some ⟨2, 65, none⟩), .pointer (some ⟨w.heap.size, 0, none⟩), .int .u64 150] 86)) (by rw [World.cell?_alloc_lt _ _ ⟨w.heap.size, 0, none⟩ (by simp; omega), World.cell?_alloc_lt _ _ ⟨w.heap.size, 0, none⟩ (by simp)]; simp)
  have st := rl_setE t ⟨w.heap.size + 1 + 1 + 1, 0, none⟩ c old ((((w.alloc (.cells #[.pointer (some t)] 65)).alloc (.cells #[.pointer (some ⟨2, 65, none⟩), .pointer (some ⟨w.heap.size, 0, none⟩), .int .u64 150] 86)).alloc (.cells #[.pointer (some ⟨2, 65, none⟩), .pointer (some ⟨w.heap.size, 0, none⟩), .int .u64 150] 86)).alloc (.cells #[.int .i64 c] 63))
    (by rw [World.cell?_alloc_at _ _ _ _ (by simp)]; rfl)
    (by rw [World.cell?_alloc_lt _ _ t (by simp; omega), World.cell?_alloc_lt _ _ t (by simp; omega), World.cell?_alloc_lt _ _ t (by simp; omega), World.cell?_alloc_lt _ _ t htl]; exact ht0)
    (by rw [World.frozen?_alloc_old _ _ t (by simp; omega), World.frozen?_alloc_old _ _ t (by simp; omega), World.frozen?_alloc_old _ _ t (by simp; omega), World.frozen?_alloc_old _ _ t (Nat.ne_of_lt htl)]; exact hf0)
  go_enter Tryd.func35, Tryd.ntmps35
  go_wp2
  refine wp_loop_rounds 1 ?_
  rw [rounds_succ]
  go_wp2
  go_ret
  exact ⟨rfl, rfl⟩

end Go.Proofs.YtpjldfpipchmjadDoor
