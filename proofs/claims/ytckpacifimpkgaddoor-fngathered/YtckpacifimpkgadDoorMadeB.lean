/- An append of so many bytes 0 ('append(out, make([]byte, n)...)') onto a row of the call's own. No program in it. -/
import Derived.Deep.AppendSrc
import Derived.Laws.AppendOwn
import Derived.WalkKit
namespace Go.Proofs.YtckpacifimpkgadDoor
open Go.RowKit
set_option linter.unusedVariables false

theorem zeros_list (m : Nat) : (Builtin.zeroCells #[Value.int .u8 0] m).toList = List.replicate m (Value.int .u8 0) := by
  apply List.ext_getElem?
  intro j
  by_cases hj : j < m
  · simp [Builtin.zeroCells, hj, Nat.mod_one]
  · simp [Builtin.zeroCells, hj]

theorem zeros_array (m : Nat) : Builtin.zeroCells #[Value.int .u8 0] m = (List.replicate m (Value.int .u8 0)).toArray := by
  apply Array.ext'
  rw [zeros_list]

theorem run_append_zeros {P : Program} (w : World) (base : Nat) (t ti ty e : TypeId) (i : TypeInfo) (ht : P.underlying t = some (.slice e)) (hti : P.underlying ti = some (.int .i64)) (hi : P.info? e = some i) (hz : i.zero = some (.int .u8 0))
    (hsize : i.size = 1) (hby : i.bytes = 1)
    (g n cap : Nat) (xs : List Value) (hown : w.ownsRow base e 1 (.slice (some ⟨g, 0, none⟩) n cap) n xs) (m : Nat)
    (h63 : n + m ≤ 2199023255552) (hbase : base ≤ w.heap.size) :
    ∃ v' w', (Builtin.append_ #[t, ti] ty #[.slice (some ⟨g, 0, none⟩) n cap, .int .i64 m]).run P w = .ok v' w' ∧ w'.ownsRow base e 1 v' (n + m) (xs ++ List.replicate m (.int .u8 0)) ∧ w.grownBy w' (some g) := by
  have ha : ∀ w : World, (asInt (.int .i64 (m : Int))).run P w = .ok (m : Int) w := fun w => by simp [asInt, asIntOf]
  have hw : IntKind.i64.wrap (m : Int) = (m : Int) := by simp [IntKind.wrap, go_sem]; omega
  have hn : ¬ ((m : Int) < 0) := by omega
  have h1 : ¬ (281474976710656 < (m : Int)) := by omega
  have hlen : (xs ++ List.replicate m (Value.int .u8 0)).length = (n + m) * 1 := by rw [List.length_append, hown.1, List.length_replicate]; omega
  have hcz : (Value.int IntKind.u8 0).cells = #[Value.int .u8 0] := rfl
  have h64 : n + m ≤ maxLen := by unfold maxLen; omega
  rcases hown.2 with ⟨h, _⟩ | ⟨g', cap', cur, heq, hbg, hg, hnc, hcm, hcs, htake⟩
  · cases h
  · injection heq with e1 e2 e3
    injection e1 with e1
    injection e1 with e1
    subst e1
    subst e3
    by_cases hroom : n + m ≤ cap
    · by_cases h0 : m = 0
      · subst h0
        refine ⟨.slice (some ⟨g, 0, none⟩) n cap, w, ?_, by simpa using hown, ⟨rfl, rfl, rfl, Nat.le_refl _, fun _ _ _ => rfl⟩⟩
        simp [Builtin.append_, run_underlying ht, run_underlying hti, sizeOf, typeInfo, hi, hby, asInt, asIntOf, hnc, storeCells, IntKind.wrap, go_sem]
      · have hst := run_storeCells_at P g n e (List.replicate m (Value.int .u8 0)) 0 cur w hg (by simp [hcs]; omega) (by
          intro u hu
          obtain ⟨_, rfl⟩ := List.mem_replicate.1 hu
          rfl)
        simp only [Nat.add_zero] at hst
        have hr : (Builtin.append_ #[t, ti] ty #[.slice (some ⟨g, 0, none⟩) n cap, .int .i64 m]).run P w = .ok (.slice (some ⟨g, 0, none⟩) (n + m) cap) (w.setRow g (cur.toList.take n ++ List.replicate m (Value.int .u8 0) ++ cur.toList.drop (n + (List.replicate m (Value.int .u8 0)).length)).toArray) := by
          simp [Builtin.append_, run_underlying ht, run_underlying hti, sizeOf, typeInfo, zeroValue, hi, hz, hsize, hby, ha, hw, hn, h1, h0, hroom, hcz, zeros_list, Addr.add_lit, hst]
        refine ⟨_, _, hr, ⟨hlen, .inr ⟨g, cap, _, rfl, hbg, setRow_heap w g cur _ e _ hg, hroom, hcm, ?_, ?_⟩⟩, ⟨rfl, rfl, rfl, by simp, fun k _ hk => setRow_other w g k _ (fun e => hk (by simp [e]))⟩⟩
        · simp only [List.size_toArray, List.length_append, List.length_take, List.length_drop, Array.length_toList, List.length_replicate]
          omega
        · rw [← hlen]
          have ht2 : cur.toList.take n = xs := by simpa using htake
          rw [ht2]
          exact List.take_left
    · have h0 : ¬ m = 0 := by omega
      have holds : ∀ j u, xs[j]? = some u → w.cell? ((⟨g, 0, none⟩ : Addr).add j) = some u := hown.cells (g := g) rfl
      have hold := run_firstCells_some (P := P) w.drew 1 n ⟨g, 0, none⟩ n cap xs hown.1 (by simpa using holds)
      have hf := growslice_fits (need := n + m) (old := cap) (bytes := 1) (by omega) (by omega)
      have hge := grownCap_ge w (n + m) cap e
      have hcm' : grownCap w (n + m) cap e ≤ maxLen := grownCap_le_maxLen w (n + m) cap e h64
      have h5 : ¬ (9223372036854775807 < (n : Int) + (m : Int)) := by omega
      have h6 : ¬ (281474976710656 < Builtin.nextslicecap (n + m) cap) := by omega
      have hr : (Builtin.append_ #[t, ti] ty #[.slice (some ⟨g, 0, none⟩) n cap, .int .i64 m]).run P w = .ok (.slice (some ⟨w.heap.size, 0, none⟩) (n + m) (grownCap w (n + m) cap e)) (w.drew.alloc (.cells ((xs ++ List.replicate m (Value.int .u8 0)).toArray ++ Builtin.zeroCells #[Value.int .u8 0] (grownCap w (n + m) cap e - (n + m))) e)) := by
        simp [Builtin.append_, run_underlying ht, run_underlying hti, sizeOf, typeInfo, zeroValue, hi, hz, hsize, hby, ha, hw, hn, h1, h0, hroom, h5, h6, hcz, zeros_array, Question.forced, newRow, grownCap, hold]
        congr 2
        apply Array.ext'
        simp
      refine ⟨_, _, hr, ⟨hlen, .inr ⟨w.heap.size, _, _, rfl, hbase, heap_alloc_new w.drew _, hge, hcm', ?_, ?_⟩⟩, ⟨rfl, rfl, rfl, by simp, fun k hk _ => heap_alloc_old w.drew _ hk⟩⟩
      · simp only [Array.size_append, List.size_toArray, size_zeroCells, hlen]
        simp
        omega
      · simp only [Array.toList_append]
        rw [← hlen]
        exact List.take_left

theorem wpList_append_zeros {P : Program} {w : World} {ops : Array Oper} {rest : List Oper} {o : Oper} {a : Act} {Q : Exit → Act → World → Prop} (hgd : o.guard = none) (s x : Operand) (t ti : TypeId)
    (ho : o.op = .call { callee := .builtin .append, args := #[s, x], argTypes := #[t, ti] })
    (base : Nat) (e : TypeId) (i : TypeInfo) (ht : P.underlying t = some (.slice e)) (hti : P.underlying ti = some (.int .i64)) (hi : P.info? e = some i) (hz : i.zero = some (.int .u8 0)) (hsize : i.size = 1) (hby : i.bytes = 1)
    (g n cap : Nat) (xs : List Value) (hs : a.eval s = .slice (some ⟨g, 0, none⟩) n cap) (hown : w.ownsRow base e 1 (.slice (some ⟨g, 0, none⟩) n cap) n xs)
    (m : Nat) (hx : a.eval x = .int .i64 m) (h63 : n + m ≤ 2199023255552) (hbase : base ≤ w.heap.size)
    (h : ∀ v' w', w'.ownsRow base e 1 v' (n + m) (xs ++ List.replicate m (.int .u8 0)) → w.grownBy w' (some g) → wpList P ops Q rest (a.put o.dst v') w') : wpList P ops Q (o :: rest) a w := by
  refine wpList_plain hgd fun K hK' => ?_
  obtain ⟨v', w', hr, h2, h3⟩ := run_append_zeros (P := P) w base t ti o.type e i ht hti hi hz hsize hby g n cap xs hown m h63 hbase
  unfold Oper.wp execOp
  simp only [ho, resolve, invoke, builtin, Sem.run_bind, Sem.run_pure, Result.andThen_ok, List.map_toArray, List.map_cons, List.map_nil, hs, hx, hr]
  exact hK' _ _ (h v' w' h2 h3)

end Go.Proofs.YtckpacifimpkgadDoor
