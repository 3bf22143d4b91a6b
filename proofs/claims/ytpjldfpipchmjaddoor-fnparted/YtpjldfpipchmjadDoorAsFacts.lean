/- errors.As, asked for the program's own error (a struct, by value): of nil: no; of that very error: yes, and the variable holds it. After the guide's worked page on errors.As. -/
import Derived.Test.YtpjldfpipchmjadDoorProg
import Derived.WalkKit
import Derived.LaidEql
import Derived.Stop.Asserts
import Derived.RowKitTokens
namespace Go.Proofs.YtpjldfpipchmjadDoor
open Go.RowKit Go.Extern.Stop Go.Stop Go.Extern
set_option linter.unusedVariables false

theorem as_nil (t : Value) (w : World) :
    Calls Tryd.prog 35 #[.nilIface, t] w fun e w' => e = .returned (.bool false) ∧ w' = w := by
  go_enter Tryd.func35, Tryd.ntmps35
  go_wp2
  go_ret
  exact ⟨rfl, rfl⟩

theorem rl_valueP (t : Addr) (w : World) : (ReflectliteValue.unpack (.iface 65 (.pointer (some t)))).run Tryd.prog w
    = .ok (.agg #[.pointer (some ⟨2, 65, none⟩), .pointer (some ⟨w.heap.size, 0, none⟩), .int .u64 150]) (w.alloc (.cells #[.pointer (some t)] 65)) := by kernel_rfl
theorem rl_typeP (a : Addr) (w : World) : (ReflectliteValue.methodAny (ReflectliteValue.valueError "reflectlite.Value.Type" 0) (fun t _ _ _ => ReflectliteType.toType t) #[.agg #[.pointer (some ⟨2, 65, none⟩), .pointer (some a), .int .u64 150]]).run Tryd.prog w
    = .ok (.iface 99 (.agg #[.pointer (some ⟨2, 65, none⟩)])) w := by kernel_rfl
theorem rl_mKind (h : Value) (w : World) : (Go.method 244 99 (.agg #[h]) "Kind").run Tryd.prog w = .ok (88, h) w := by kernel_rfl
theorem rl_kindP (w : World) : ((ReflectliteType.abiMethod fun t => (fun a : Nat => Value.int IntKind.u8 (a : Int)) <$> Rtype.kind t) #[.pointer (some ⟨2, 65, none⟩)]).run Tryd.prog w = .ok (.int .u8 22) w := by kernel_rfl
theorem rl_kindE (w : World) : ((ReflectliteType.abiMethod fun t => (fun a : Nat => Value.int IntKind.u8 (a : Int)) <$> Rtype.kind t) #[.pointer (some ⟨2, 63, none⟩)]).run Tryd.prog w = .ok (.int .u8 25) w := by kernel_rfl

theorem rl_partsP (a : Addr) (w : World) : (ReflectliteValue.parts (.agg #[.pointer (some ⟨2, 65, none⟩), .pointer (some a), .int .u64 150])).run Tryd.prog w = .ok (some (65, a, 150)) w := by kernel_rfl
theorem rl_isNil (a p : Addr) (W : World) (ha : W.cell? a = some (.pointer (some p))) :
    (ReflectliteValue.method (ReflectliteValue.valueError "reflectlite.Value.IsNil" 0) ReflectliteValue.isNil #[.agg #[.pointer (some ⟨2, 65, none⟩), .pointer (some a), .int .u64 150]]).run Tryd.prog W = .ok (.bool false) W := by
  show Sem.run Tryd.prog (bind (ReflectliteValue.parts (.agg #[.pointer (some ⟨2, 65, none⟩), .pointer (some a), .int .u64 150])) fun r => _) W = _
  simp only [Sem.run_bind, rl_partsP, Result.andThen]
  simp [ReflectliteValue.isNil, loadVar, isAgg, underlying, Tryd.underlying65, ha, Result.andThen]

theorem rl_mElem (h : Value) (w : World) : (Go.method 244 99 (.agg #[h]) "Elem").run Tryd.prog w = .ok (98, .agg #[h]) w := by kernel_rfl
theorem rl_mImplements (h : Value) (w : World) : (Go.method 244 99 (.agg #[h]) "Implements").run Tryd.prog w = .ok (99, .agg #[h]) w := by kernel_rfl
theorem rl_mAssignable (h : Value) (w : World) : (Go.method 244 99 (.agg #[h]) "AssignableTo").run Tryd.prog w = .ok (96, .agg #[h]) w := by kernel_rfl
theorem rl_elem (w : World) : (ReflectliteType.method ReflectliteType.elem #[.agg #[.pointer (some ⟨2, 65, none⟩)]]).run Tryd.prog w = .ok (.iface 99 (.agg #[.pointer (some ⟨2, 63, none⟩)])) w := by kernel_rfl
theorem rl_implements (w : World) : (ReflectliteType.relation "Implements" ReflectliteType.implements_ #[.agg #[.pointer (some ⟨2, 63, none⟩)], .iface 99 (.agg #[.pointer (some ⟨2, 59, none⟩)])]).run Tryd.prog w = .ok (.bool true) w := by kernel_rfl
theorem rl_typeOf (v : Value) (w : World) : (ReflectliteType.typeOf #[.iface 63 v]).run Tryd.prog w = .ok (.iface 99 (.agg #[.pointer (some ⟨2, 63, none⟩)])) w := by kernel_rfl
theorem rl_assignable (w : World) : (ReflectliteType.relation "AssignableTo" ReflectliteType.assignableTo #[.agg #[.pointer (some ⟨2, 63, none⟩)], .iface 99 (.agg #[.pointer (some ⟨2, 63, none⟩)])]).run Tryd.prog w = .ok (.bool true) w := by kernel_rfl
theorem rl_valueE (c : Int) (w : World) : (ReflectliteValue.unpack (.iface 63 (.agg #[.int .i64 c]))).run Tryd.prog w
    = .ok (.agg #[.pointer (some ⟨2, 63, none⟩), .pointer (some ⟨w.heap.size, 0, none⟩), .int .u64 153]) (w.alloc (.cells #[.int .i64 c] 63)) := by kernel_rfl

theorem rl_elemOf (w : World) : (Rtype.elem? 65).run Tryd.prog w = .ok (some 63) w := by kernel_rfl
theorem rl_mk (p : Addr) (w : World) : (ReflectliteValue.mk 63 p ReflectliteValue.flagAddr).run Tryd.prog w = .ok (.agg #[.pointer (some ⟨2, 63, none⟩), .pointer (some p), .int .u64 409]) w := by kernel_rfl
theorem rl_elemV (a p : Addr) (W : World) (ha : W.cell? a = some (.pointer (some p))) :
    (ReflectliteValue.method (ReflectliteValue.valueError "reflectlite.Value.Elem" 0) ReflectliteValue.elem #[.agg #[.pointer (some ⟨2, 65, none⟩), .pointer (some a), .int .u64 150]]).run Tryd.prog W
      = .ok (.agg #[.pointer (some ⟨2, 63, none⟩), .pointer (some p), .int .u64 409]) W := by
  show Sem.run Tryd.prog (bind (ReflectliteValue.parts (.agg #[.pointer (some ⟨2, 65, none⟩), .pointer (some a), .int .u64 150])) fun r => _) W = _
  simp only [Sem.run_bind, rl_partsP, Result.andThen]
  simp [ReflectliteValue.elem, loadVar, isAgg, underlying, Tryd.underlying65, ha, Result.andThen, rl_elemOf, rl_mk]
theorem rl_partsA (a : Addr) (w : World) : (ReflectliteValue.parts (.agg #[.pointer (some ⟨2, 63, none⟩), .pointer (some a), .int .u64 409])).run Tryd.prog w = .ok (some (63, a, 409)) w := by kernel_rfl
theorem rl_partsE (a : Addr) (w : World) : (ReflectliteValue.parts (.agg #[.pointer (some ⟨2, 63, none⟩), .pointer (some a), .int .u64 153])).run Tryd.prog w = .ok (some (63, a, 153)) w := by kernel_rfl
theorem rl_direct (w : World) : (Rtype.directlyAssignable 63 63).run Tryd.prog w = .ok true w := by kernel_rfl
theorem rl_size (w : World) : (sizeOf 63).run Tryd.prog w = .ok 1 w := by kernel_rfl
theorem rl_setE (ta b : Addr) (c : Int) (old : Value) (W : World) (hb : W.cell? b = some (.int .i64 c)) (ht : W.cell? ta = some old) (hf : W.frozen? ta = false) :
    (ReflectliteValue.set #[.agg #[.pointer (some ⟨2, 63, none⟩), .pointer (some ta), .int .u64 409], .agg #[.pointer (some ⟨2, 63, none⟩), .pointer (some b), .int .u64 153]]).run Tryd.prog W
      = .ok (.tuple #[]) (W.setCell ta (.int .i64 c)) := by
  show Sem.run Tryd.prog (bind (ReflectliteValue.parts (.agg #[.pointer (some ⟨2, 63, none⟩), .pointer (some ta), .int .u64 409])) fun r => bind (ReflectliteValue.parts (.agg #[.pointer (some ⟨2, 63, none⟩), .pointer (some b), .int .u64 153])) fun q => _) W = _
  simp only [Sem.run_bind, rl_partsA, rl_partsE, Result.andThen]
  simp [ReflectliteValue.flagAddr, loadVar, isAgg, underlying, Tryd.underlying63, hb, Result.andThen, rl_direct, storeVar, Value.cells, storeCells, loadCells, loadCellsFrom, Addr.add]
  rw [run_store Tryd.prog W ta _ _ (by rfl)]
  simp [ht, hf]

end Go.Proofs.YtpjldfpipchmjadDoor
