/- What a call of the specification's holds while it works on a flow: the flow that came in, its answer's variable, and the flow under work with lanes of its own. -/
import Derived.Test.YtkicfiacnpifkadFlowEndsS
namespace Go.Proofs.Ytkicfiacnpifkad
open Go.RowKit
set_option linter.unusedVariables false

/-- The state: f in block w.heap.size, the answer behind it, the flow under work in block o. -/
def FSt (w W : World) (c i : Int) (a : Option Addr) (len cap : Nat) (o : Nat) (oc oi : Int) (oa : Option Addr) (on ocap : Nat) (ol : List Lane) : Prop :=
  Box3 W w.heap.size 36 (.int .i64 c) (.int .i64 i) (.slice a len cap) ∧ Box3 W (w.heap.size + 1) 36 (.int .i64 0) (.int .i64 0) (.slice none 0 0) ∧
  Box3 W o 36 (.int .i64 oc) (.int .i64 oi) (.slice oa on ocap) ∧ OwnL W w.heap.size oa on ocap ol ∧ Below w.heap.size w W ∧ w.heap.size + 1 < o

section
variable {w W W' : World} {c i : Int} {a : Option Addr} {len cap o : Nat} {oc oi : Int} {oa : Option Addr} {on ocap : Nat} {ol : List Lane}

theorem FSt.stays (h : FSt w W c i a len cap o oc oi oa on ocap ol) (hb : Below W.heap.size W W') : FSt w W' c i a len cap o oc oi oa on ocap ol :=
  ⟨h.1.stays hb, h.2.1.stays hb, h.2.2.1.stays hb, h.2.2.2.1.below hb, h.2.2.2.2.1.trans (hb.mono h.2.2.2.2.1.size), h.2.2.2.2.2⟩

/-- The copy is laid into a variable. -/
theorem FSt.new {W0 : World} {A : Option Addr} {C : Nat} (q1 : Box3 W0 w.heap.size 36 (.int .i64 c) (.int .i64 i) (.slice a len cap)) (q2 : Box3 W0 (w.heap.size + 1) 36 (.int .i64 0) (.int .i64 0) (.slice none 0 0)) (hB0 : Below w.heap.size w W0)
    (ho : OwnL W W0.heap.size A len C ol) (hb : Below W0.heap.size W0 W) : FSt w (W.alloc (.cells #[.int .i64 c, .int .i64 i, .slice A len C] 36)) c i a len cap W.heap.size c i A len C ol := by
  have h1 : Below W.heap.size W (W.alloc (.cells #[.int .i64 c, .int .i64 i, .slice A len C] 36)) := (Below.refl _ _).alloc (Nat.le_refl _) _
  have h2 : Below w.heap.size w W := hB0.trans (hb.mono hB0.size)
  exact ⟨(q1.stays hb).stays h1, (q2.stays hb).stays h1, Box3.new _ _ _ _ _, (ho.below h1).low hB0.size, h2.trans (h1.mono h2.size), Nat.lt_of_lt_of_le q2.lt hb.size⟩

theorem FSt.set0 (h : FSt w W c i a len cap o oc oi oa on ocap ol) (x : Int) : FSt w (W.setCell ⟨o, 0, none⟩ (.int .i64 x)) c i a len cap o x oi oa on ocap ol :=
  ⟨box3_other h.1 (by have := h.2.2.2.2.2; omega), box3_other h.2.1 (by have := h.2.2.2.2.2; omega), box3_set0 h.2.2.1 _, ownL_set h.2.2.2.1 (h.2.2.2.1.other (show W.heap[o]? = _ from h.2.2.1) (by decide)), h.2.2.2.2.1.setCell (p := ⟨o, 0, none⟩) (by show w.heap.size ≤ o; have := h.2.2.2.2.2; omega) _, h.2.2.2.2.2⟩

theorem FSt.set1 (h : FSt w W c i a len cap o oc oi oa on ocap ol) (x : Int) : FSt w (W.setCell ⟨o, 1, none⟩ (.int .i64 x)) c i a len cap o oc x oa on ocap ol :=
  ⟨box3_other h.1 (by have := h.2.2.2.2.2; omega), box3_other h.2.1 (by have := h.2.2.2.2.2; omega), box3_set1 h.2.2.1 _, ownL_set h.2.2.2.1 (h.2.2.2.1.other (show W.heap[o]? = _ from h.2.2.1) (by decide)), h.2.2.2.2.1.setCell (p := ⟨o, 1, none⟩) (by show w.heap.size ≤ o; have := h.2.2.2.2.2; omega) _, h.2.2.2.2.2⟩

/-- Other lanes are laid into it. -/
theorem FSt.set2 {A : Option Addr} {n C : Nat} {l : List Lane} (h : FSt w W c i a len cap o oc oi oa on ocap ol) (ho : OwnL W w.heap.size A n C l) : FSt w (W.setCell ⟨o, 2, none⟩ (.slice A n C)) c i a len cap o oc oi A n C l :=
  ⟨box3_other h.1 (by have := h.2.2.2.2.2; omega), box3_other h.2.1 (by have := h.2.2.2.2.2; omega), box3_set2 h.2.2.1 _, ownL_set ho (ho.other (show W.heap[o]? = _ from h.2.2.1) (by decide)), h.2.2.2.2.1.setCell (p := ⟨o, 2, none⟩) (by show w.heap.size ≤ o; have := h.2.2.2.2.2; omega) _, h.2.2.2.2.2⟩

/-- What is left on one of its lanes is written. -/
theorem FSt.left {g j : Nat} {p q : Int} (h : FSt w W c i a len cap o oc oi (some ⟨g, 0, none⟩) on ocap ol) (hj : ol[j]? = some (p, q)) (y : Int) (hy : i64b y) : FSt w (W.setCell ⟨g, j * 2 + 1, none⟩ (.int .i64 y)) c i a len cap o oc oi (some ⟨g, 0, none⟩) on ocap (ol.set j (p, y)) := by
  obtain ⟨h1, h2, h3, h4, h5, h6⟩ := h
  have e1 : g ≠ w.heap.size := fun e => h4.other (show W.heap[w.heap.size]? = _ from h1) (by decide) (by simp [e])
  have e2 : g ≠ w.heap.size + 1 := fun e => h4.other (show W.heap[w.heap.size + 1]? = _ from h2) (by decide) (by simp [e])
  have e3 : g ≠ o := fun e => h4.other (show W.heap[o]? = _ from h3) (by decide) (by simp [e])
  have hg := (h4.lt g rfl).1
  refine ⟨box3_other h1 (Ne.symm e1), box3_other h2 (Ne.symm e2), box3_other h3 (Ne.symm e3), ⟨?_, ?_⟩, h5.setCell (p := ⟨g, j * 2 + 1, none⟩) hg _, h6⟩
  · have hjl : j < ol.length := (List.getElem?_eq_some_iff.1 hj).1
    have hc := laneCells_set ol p y j hjl
    have hp : (laneCells ol).set (j * 2) (.int .i64 p) = laneCells ol := by
      apply List.ext_getElem?
      intro m
      by_cases hm : m = j * 2
      · subst hm
        rw [List.getElem?_set_self (by rw [laneCells_len]; omega), (laneCells_at ol j hjl).1]
        have : ol[j] = (p, q) := by have := List.getElem?_eq_getElem hjl; rw [hj] at this; exact (Option.some.inj this).symm
        rw [this]
      · rw [List.getElem?_set_ne (Ne.symm hm)]
    rw [hp] at hc
    have := (h4.1.stored (j * 2 + 1) (.int .i64 y)).1
    rwa [hc] at this
  · intro s hs
    rcases List.mem_or_eq_of_mem_set hs with hs | rfl
    · exact h4.2 s hs
    · exact ⟨(h4.2 (p, q) (List.mem_of_getElem? hj)).1, hy⟩

/-- Lanes are laid into the flow under work, whatever it had. -/
theorem FSt.laid {v : Value} {A : Option Addr} {n C : Nat} {l : List Lane} (q1 : Box3 W w.heap.size 36 (.int .i64 c) (.int .i64 i) (.slice a len cap)) (q3 : Box3 W o 36 (.int .i64 oc) (.int .i64 oi) v) (q2 : Box3 W (w.heap.size + 1) 36 (.int .i64 0) (.int .i64 0) (.slice none 0 0)) (hb : Below w.heap.size w W) (hoo : w.heap.size + 1 < o)
    (ho : OwnL W w.heap.size A n C l) : FSt w (W.setCell ⟨o, 2, none⟩ (.slice A n C)) c i a len cap o oc oi A n C l :=
  ⟨box3_other q1 (by omega), box3_other q2 (by omega), box3_set2 q3 _, ownL_set ho (ho.other (show W.heap[o]? = _ from q3) (by decide)), hb.setCell (p := ⟨o, 2, none⟩) (by show w.heap.size ≤ o; omega) _, hoo⟩

theorem FSt.drew (h : FSt w W c i a len cap o oc oi oa on ocap ol) : FSt w W.drew c i a len cap o oc oi oa on ocap ol := h.stays (Below.refl _ _).drew

theorem FSt.lanes {l : List Lane} (h : FSt w W c i a len cap o oc oi oa on ocap ol) (hs : Lanes w a len l) : Lanes W a len l := hs.below h.2.2.2.2.1
end

/-- Where a row that is not empty lies. -/
theorem OwnL.addr {w : World} {base n cap : Nat} {a : Option Addr} {l : List Lane} (h : OwnL w base a n cap l) (hn : 0 < n) : ∃ g, a = some ⟨g, 0, none⟩ := by
  rcases h.1.2 with ⟨_, h0⟩ | ⟨g, cap', cur, he, _⟩
  · omega
  · injection he with e1 _ _
    exact ⟨g, e1⟩

theorem cell_kept3 {W : World} {b b' k k' : Nat} {v u : Value} (hne : b ≠ b') (h : W.cell? ⟨b, k, none⟩ = some u) : (W.setCell ⟨b', k', none⟩ v).cell? ⟨b, k, none⟩ = some u := by
  rw [← h]
  simp only [World.cell?, set_block_ne W b b' k' v hne]

theorem i64b_wrap (x : Int) : i64b (wrap64 x) := by unfold i64b wrap64; omega

end Go.Proofs.Ytkicfiacnpifkad
