/- A row of uploads that another row comes of: some of its uploads, and ones without bytes. No statement of the program but its table of types. -/
import Derived.Test.YtogopmngbjkcjauUpRoom
import Derived.Test.YtogopmngbjkcjauBoxN
import Derived.Test.YtogopmngbjkcjauUpCopyN
namespace Go.Proofs.Ytogopmngbjkcjau
open Go.RowKit
set_option linter.unusedVariables false

theorem owns_nil (W : World) (base : Nat) : Owns W base none 0 0 [] := ⟨⟨rfl, .inl ⟨rfl, rfl⟩⟩, by simp⟩

/-- Another row of the same uploads, and of ones without bytes. -/
theorem UpRow.remade {W W' : World} {base : Nat} {v v' : Value} {l l' : List UE} (h : UpRow W base v l) (ho : W'.ownsRow base 31 4 v' l'.length (ueCells l')) (hg : W.grownBy W' v.ownBlock) (hin : ∀ e ∈ l', e ∈ l ∨ (e.a = none ∧ e.n = 0 ∧ e.c = 0 ∧ e.u.zs = [])) (hp : l'.Pairwise uapart) : UpRow W' base v' l' := by
  refine ⟨ho, fun e he => ?_, hp⟩
  rcases hin e he with h1 | ⟨h1, h2, h3, h4⟩
  · exact (h.2.1 e h1).grown hg (fun q hq => h.rowApart (h.2.1 e h1) q hq)
  · rw [h1, h2, h3, h4]
    exact owns_nil _ _

theorem uapart_none {e x : UE} (h : x.a = none) : uapart e x ∧ uapart x e := ⟨fun q _ => by rw [h]; simp, fun q hq => by rw [h] at hq; simp at hq⟩

theorem upair_ins {l : List UE} {x : UE} (k : Nat) (h : l.Pairwise uapart) (hx : x.a = none) : (l.take k ++ [x] ++ l.drop k).Pairwise uapart := by
  have h2 := h
  rw [← List.take_append_drop k l, List.pairwise_append] at h2
  rw [List.append_assoc, List.pairwise_append]
  refine ⟨h2.1, ?_, fun y hy z hz => ?_⟩
  · rw [List.singleton_append, List.pairwise_cons]
    exact ⟨fun z _ => (uapart_none hx).2, h2.2.1⟩
  · rw [List.singleton_append] at hz
    rcases List.mem_cons.1 hz with rfl | hz
    · exact (uapart_none hx).1
    · exact h2.2.2 y hy z hz

/-- A row of uploads is no variable of another type. -/
theorem BoxN.noRow {W : World} {b base n size : Nat} {t e : TypeId} {vs xs : List Value} {v : Value} (h : BoxN W b t vs) (ho : W.ownsRow base e size v n xs) (hne : t ≠ e) : v.ownBlock ≠ some b := by
  intro hq
  rcases ho.2 with ⟨rfl, _⟩ | ⟨g, cap, cur, rfl, _, hg, _⟩
  · cases hq
  · obtain rfl : g = b := by simpa [Value.ownBlock] using hq
    have h' : W.heap[g]? = some (.cells vs.toArray t (0, 0)) := h
    rw [h'] at hg
    injection hg with hg
    injection hg with _ h2 _
    exact hne h2

/-- Uploads are as they were where a variable of another type is written. -/
theorem UpRow.setBox {W : World} {base b i : Nat} {t : TypeId} {vs : List Value} {v u : Value} {l : List UE} (h : UpRow W base v l) (hb : BoxN W b t vs) (h1 : t ≠ 31) (h2 : t ≠ 5) : UpRow (W.setCell ⟨b, i, none⟩ u) base v l := by
  refine h.grown (grownBy_setU W b i u) (fun q hq => ?_) (fun e he q hq => ?_)
  · injection hq with hq
    subst hq
    exact hb.noRow h.1 h1
  · injection hq with hq
    subst hq
    have := hb.noRow (h.2.1 e he).1 h2
    rwa [ownBlock_sU] at this

end Go.Proofs.Ytogopmngbjkcjau
