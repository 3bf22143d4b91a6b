/- The library's Grow of nil, and its Concat of two slices of fields. -/
import Derived.Test.YtcicboolbeognalTiny
import Derived.Test.YtcicboolbeognalTabStep
import Derived.Test.YtcicboolbeognalTabOwn
namespace Go.Proofs.Ytcicboolbeognal
open Go.RowKit
set_option linter.unusedVariables false

/-- An append of new elements onto nil. -/
theorem run_append_made {P : Program} (w : World) (t ti ty e : TypeId) (i : TypeInfo) (z : Value) (ht : P.underlying t = some (.slice e)) (hti : P.underlying ti = some (.int .i64)) (hi : P.info? e = some i) (hz : i.zero = some z)
    (n : Nat) (h0 : 0 < n) (hs : 0 < i.size) (h63 : (n : Int) ≤ 9223372036854775807) (hb : n * i.bytes ≤ 281474976710656) :
    (Builtin.append_ #[t, ti] ty #[.slice none 0 0, .int .i64 n]).run P w = .ok (.slice (some ⟨w.heap.size, 0, none⟩) n (grownCap w n 0 e)) (w.drew.alloc (.cells (Builtin.zeroCells z.cells n ++ Builtin.zeroCells z.cells (grownCap w n 0 e - n)) e)) := by
  have ha : ∀ w : World, (asInt (.int .i64 (n : Int))).run P w = .ok (n : Int) w := fun w => by simp [asInt, asIntOf]
  have hw : IntKind.i64.wrap (n : Int) = (n : Int) := by simp [IntKind.wrap, go_sem]; omega
  have hn : ¬ ((n : Int) < 0) := by omega
  have h1 : ¬ (281474976710656 < (n : Int) * (i.bytes : Int)) := by
    have : ((n * i.bytes : Nat) : Int) ≤ 281474976710656 := by omega
    rw [Int.natCast_mul] at this
    omega
  have h2 : ¬ (n = 0) := by omega
  have h3 : ¬ (n * i.size = 0) := by
    have := Nat.mul_pos h0 hs
    omega
  have h4 : ¬ (9223372036854775807 < (n : Int)) := by omega
  have h5 : Builtin.nextslicecap n 0 = n := by simp [Builtin.nextslicecap, h0]
  have h6 : ¬ (281474976710656 < n * i.bytes) := by omega
  simp [Builtin.append_, run_underlying ht, run_underlying hti, sizeOf, typeInfo, zeroValue, hi, hz, hw, hn, h1, h2, h3, h4, h5, h6, Question.forced, newRow, grownCap, Builtin.firstCells, ha]

theorem size_zeros (z : Array Value) (n : Nat) : (Builtin.zeroCells z n).size = n * z.size := by simp [Builtin.zeroCells]

theorem wpList_append_made {P : Program} (w : World) {ops : Array Oper} {rest : List Oper} {o : Oper} {a : Act} {Q : Exit → Act → World → Prop} (hg : o.guard = none) (s x : Operand) (t ti : TypeId) (ho : o.op = .call { callee := .builtin .append, args := #[s, x], argTypes := #[t, ti] })
    (e : TypeId) (i : TypeInfo) (z : Value) (ht : P.underlying t = some (.slice e)) (hti : P.underlying ti = some (.int .i64)) (hi : P.info? e = some i) (hz : i.zero = some z) (hzs : z.cells.size = i.size)
    (n : Nat) (hs : a.eval s = .slice none 0 0) (hx : a.eval x = .int .i64 n) (h0 : 0 < n) (hs0 : 0 < i.size) (h63 : n ≤ maxLen) (hb : n * i.bytes ≤ 281474976710656)
    (hK : ∀ (cap : Nat) (cur : Array Value), n ≤ cap → cap ≤ maxLen → cur.size = cap * i.size → wpList P ops Q rest (a.put o.dst (.slice (some ⟨w.heap.size, 0, none⟩) n cap)) (w.drew.alloc (.cells cur e))) : wpList P ops Q (o :: rest) a w := by
  refine wpList_plain hg fun K hK' => ?_
  have hr := run_append_made (P := P) w t ti o.type e i z ht hti hi hz n h0 hs0 (by unfold maxLen at h63; omega) hb
  unfold Oper.wp execOp
  simp only [ho, resolve, invoke, builtin, Sem.run_bind, Sem.run_pure, Result.andThen_ok, List.map_toArray, List.map_cons, List.map_nil, hs, hx, hr]
  refine hK' _ _ (hK _ _ (grownCap_ge _ _ _ _) (grownCap_le_maxLen _ _ _ _ h63) ?_)
  have := grownCap_ge w n 0 e
  rw [Array.size_append, size_zeros, size_zeros, hzs, ← Nat.add_mul]
  congr 1
  omega

set_option maxRecDepth 10000 in
set_option maxHeartbeats 800000 in
theorem grow_any (n : Nat) (w : World) (h0 : 0 < n) (hn : n ≤ 2097300) :
    Calls Try.prog 117 #[.slice none 0 0, .int .i64 n] w fun e w' => ∃ g cap, e = .returned (.slice (some ⟨g, 0, none⟩) 0 cap) ∧ OwnF w' w.heap.size (.slice (some ⟨g, 0, none⟩) 0 cap) 0 [] ∧ Below w.heap.size w w' := by
  obtain ⟨i0, hi, hz0, hz1, hz2⟩ := info_parts info_field
  have HA : Hid (0 < i0.size ∧ n ≤ maxLen ∧ n * i0.bytes ≤ 281474976710656) := ⟨by rw [hz1]; omega, by unfold maxLen; omega, by rw [hz2]; omega⟩
  have hpos : (0 : Int) < (n : Int) := by omega
  have hbig : (n : Int) ≤ 2097300 := by omega
  go_enter Try.func117, Try.ntmps117
  go_wp2_with (first | (refine wpList_append_made _ rfl _ _ 38 3 rfl 44 i0 (.agg #[.string ⟨#[]⟩, .string ⟨#[]⟩]) Try.underlying38 Try.underlying3 hi hz0 (by rw [hz1]; rfl) n rfl rfl h0 HA.out.1 HA.out.2.1 HA.out.2.2 ?_; intro cap cur hc1 hc2 hc3; have hci : (0 : Int) ≤ (cap : Int) := by omega) | fail)
  go_ret
  refine ⟨_, cap, rfl, ⟨?_, fun f hf => by cases hf⟩, (Below.refl _ _).drew.alloc (Nat.le_refl _) _⟩
  rw [hz1] at hc3
  exact World.ownsRow_made w.drew cur cap (Nat.le_refl _) hc2 hc3

end Go.Proofs.Ytcicboolbeognal
