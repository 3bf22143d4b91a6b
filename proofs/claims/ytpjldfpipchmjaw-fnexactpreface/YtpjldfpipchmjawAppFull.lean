/- An append onto a row that is full, whatever its mark: a new row, and nothing of what was there changes. No program in it. -/
import Derived.Test.YtpjldfpipchmjawStrStep
import Derived.Test.YtpjldfpipchmjawOwn
namespace Go.Proofs.Ytpjldfpipchmjaw
open Go.RowKit
set_option linter.unusedVariables false

theorem run_append_full {P : Program} (w : World) (t tx ty e : TypeId) (i : TypeInfo) (z : Value) (size bytes : Nat) (ht : P.underlying t = some (.slice e)) (hi : P.info? e = some i) (hz : i.zero = some z)
    (hsize : i.size = size) (hby : i.bytes = bytes) (hzs : z.cells.size = size)
    (g n : Nat) (xs : List Value) (hxl : xs.length = n * size) (hg : ∀ j v, xs[j]? = some v → w.cell? ((⟨g, 0, none⟩ : Addr).add j) = some v)
    (x : Value) (m : Nat) (news : List Value) (hs : Src P size tx x m news w) (hm : 0 < m)
    (h63 : n + m ≤ maxLen) (hbytes : (n + m) * bytes ≤ 140737488355328) :
    ∃ c' w', (Builtin.append_ #[t, tx] ty #[.slice (some ⟨g, 0, none⟩) n n, x]).run P w = .ok (.slice (some ⟨w.heap.size, 0, none⟩) (n + m) c') w' ∧ w'.ownsRow w.heap.size e size (.slice (some ⟨w.heap.size, 0, none⟩) (n + m) c') (n + m) (xs ++ news) ∧ Below w.heap.size w w' := by
  subst hsize
  subst hby
  have hl := hs.newsLen
  have hsmall : n + m ≤ 9223372036854775807 := by simp only [maxLen] at h63; omega
  have hold := run_firstCells_some (P := P) (w := w.drew) i.size n ⟨g, 0, none⟩ n n xs hxl hg
  have hr := run_append_grow_src (P := P) w t tx ty e i z ht hi hz (some ⟨g, 0, none⟩) n n xs hold x m news hs (by omega) (by omega) (growslice_fits (by omega) (by simpa using hbytes))
  have hge := grownCap_ge w (n + m) n e
  have hcm' : grownCap w (n + m) n e ≤ maxLen := grownCap_le_maxLen w (n + m) n e (by omega)
  have hxn : (xs ++ news).length = (n + m) * i.size := by rw [List.length_append, hxl, hl, Nat.add_mul]
  refine ⟨_, _, hr, ⟨hxn, .inr ⟨w.heap.size, _, _, rfl, Nat.le_refl _, heap_alloc_new w.drew _, hge, hcm', ?_, ?_⟩⟩, ⟨rfl, rfl, rfl, by simp, fun k hk => heap_alloc_old w.drew _ hk⟩⟩
  · simp only [Array.size_append, List.size_toArray, size_zeroCells, hzs, hxn, ← Nat.add_mul]
    congr 1
    omega
  · simp only [Array.toList_append]
    rw [← hxn]
    exact List.take_left

theorem wpList_append_full {P : Program} {w : World} {ops : Array Oper} {rest : List Oper} {o : Oper} {a : Act} {Q : Exit → Act → World → Prop} (hgd : o.guard = none) (s x : Operand) (t tx : TypeId)
    (ho : o.op = .call { callee := .builtin .append, args := #[s, x], argTypes := #[t, tx] })
    (e : TypeId) (i : TypeInfo) (z : Value) (size bytes : Nat) (ht : P.underlying t = some (.slice e)) (hi : P.info? e = some i) (hz : i.zero = some z)
    (hsize : i.size = size) (hby : i.bytes = bytes) (hzs : z.cells.size = size)
    (g n : Nat) (xs : List Value) (hxl : xs.length = n * size) (hs : a.eval s = .slice (some ⟨g, 0, none⟩) n n) (hg : ∀ j v, xs[j]? = some v → w.cell? ((⟨g, 0, none⟩ : Addr).add j) = some v)
    (u : Value) (m : Nat) (news : List Value) (hx : a.eval x = u) (hsrc : Src P size tx u m news w) (hm : 0 < m)
    (h63 : n + m ≤ maxLen) (hbytes : (n + m) * bytes ≤ 140737488355328)
    (h : ∀ c' w', w'.ownsRow w.heap.size e size (.slice (some ⟨w.heap.size, 0, none⟩) (n + m) c') (n + m) (xs ++ news) → Below w.heap.size w w' → wpList P ops Q rest (a.put o.dst (.slice (some ⟨w.heap.size, 0, none⟩) (n + m) c')) w') : wpList P ops Q (o :: rest) a w := by
  refine wpList_plain hgd fun K hK => ?_
  obtain ⟨c', w', hr, h2, h3⟩ := run_append_full (P := P) w t tx o.type e i z size bytes ht hi hz hsize hby hzs g n xs hxl hg u m news hsrc hm h63 hbytes
  unfold Oper.wp execOp
  simp only [ho, resolve, invoke, builtin, Sem.run_bind, Sem.run_pure, Result.andThen_ok, List.map_toArray, List.map_cons, List.map_nil, hs, hx, hr]
  exact hK _ _ (h c' w' h2 h3)

end Go.Proofs.Ytpjldfpipchmjaw
