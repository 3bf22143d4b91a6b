/- What a draw of flows keeps: the cursor, the flow in a variable, its lanes in memory of the call's own. -/
import Derived.Test.YtkicfiacnpifkadDrawsC
import Derived.Test.YtkicfiacnpifkadFlowOpenN
import Derived.Test.YtkicfiacnpifkadFlowInitN
import Derived.Test.YtkicfiacnpifkadFlowLen
import Derived.Test.YtkicfiacnpifkadLaneSrc
namespace Go.Proofs.Ytkicfiacnpifkad
open Go.RowKit
set_option linter.unusedVariables false

/-- The state of a draw of a flow. -/
def DFl (w W : World) (B cc : Nat) (a : Option Addr) (len cap : Nat) (zs : List Int) (rb fb : Nat) (c i : Int) (A : Option Addr) (n C : Nat) (l : List Lane) : Prop :=
  Cur W B cc a len cap zs ∧ w.grownBy W (some cc) ∧ (cc < w.heap.size ∧ w.heap.size ≤ rb ∧ rb < fb) ∧ Box3 W fb 36 (.int .i64 c) (.int .i64 i) (.slice A n C) ∧ Box3 W rb 36 (.int .i64 0) (.int .i64 0) (.slice none 0 0) ∧ OwnL W w.heap.size A n C l ∧ i64b c ∧ i64b i

section
variable {w W W' : World} {B cc : Nat} {a : Option Addr} {len cap : Nat} {zs : List Int} {rb fb : Nat} {c i : Int} {A : Option Addr} {n C : Nat} {l : List Lane}

theorem DFl.stays (h : DFl w W B cc a len cap zs rb fb c i A n C l) (hb : Below W.heap.size W W') : DFl w W' B cc a len cap zs rb fb c i A n C l :=
  ⟨h.1.kept (gbelow hb none) (by simp), gown h.2.1 (gbelow hb none) (by simp), h.2.2.1, h.2.2.2.1.stays hb, h.2.2.2.2.1.stays hb, h.2.2.2.2.2.1.below hb, h.2.2.2.2.2.2⟩

theorem DFl.new (h : DFl w W B cc a len cap zs rb fb c i A n C l) (o : Obj) : DFl w (W.alloc o) B cc a len cap zs rb fb c i A n C l := h.stays ((Below.refl _ _).alloc (Nat.le_refl _) _)

theorem DFl.drew (h : DFl w W B cc a len cap zs rb fb c i A n C l) : DFl w W.drew B cc a len cap zs rb fb c i A n C l := h.stays (Below.refl _ _).drew

theorem DFl.call (h : DFl w W B cc a len cap zs rb fb c i A n C l) (hc : Cur W' B cc a len cap zs) (hg : W.grownBy W' (some cc)) : DFl w W' B cc a len cap zs rb fb c i A n C l :=
  ⟨hc, gtrans h.2.1 hg, h.2.2.1, h.2.2.2.1.grown hg (fun e => by injection e with e; have := h.2.2.1; omega), h.2.2.2.2.1.grown hg (fun e => by injection e with e; have := h.2.2.1; omega), h.2.2.2.2.2.1.kept hg (fun q e e2 => by injection e with e; have := (h.2.2.2.2.2.1.lt q e2).1; have := h.2.2.1; omega), h.2.2.2.2.2.2⟩

/-- Another flow is laid into the variable. -/
theorem DFl.put {c' i' : Int} {A' : Option Addr} {n' C' : Nat} {l' : List Lane} (h : DFl w W B cc a len cap zs rb fb c i A n C l) (ho : OwnL W w.heap.size A' n' C' l') (hc : i64b c') (hi : i64b i') :
    DFl w (((W.setCell ⟨fb, 0, none⟩ (.int .i64 c')).setCell ⟨fb, 1, none⟩ (.int .i64 i')).setCell ⟨fb, 2, none⟩ (.slice A' n' C')) B cc a len cap zs rb fb c' i' A' n' C' l' := by
  obtain ⟨h1, h2, h3, h4, h5, h6, _⟩ := h
  have hcf : cc < fb := by omega
  refine ⟨((h1.put hcf _).put hcf _).put hcf _, gput (gput (gput h2 (by omega) _) (by omega) _) (by omega) _, h3, box3_set2 (box3_set1 (box3_set0 h4 _) _) _, box3_other (box3_other (box3_other h5 (by omega)) (by omega)) (by omega), ownL_set3 ho (ho.other (show W.heap[fb]? = _ from h4) (by decide)) _ _ _, hc, hi⟩

/-- What a call has answered is laid into the variable. -/
theorem DFl.got {R : (Int × Int × List Lane) × Bool} {A' : Option Addr} {C' : Nat} (h : DFl w W B cc a len cap zs rb fb c i A n C l) (hb : Below W.heap.size W W') (ho : OwnL W' W.heap.size A' R.1.2.2.length C' R.1.2.2) (hc : i64b R.1.1) (hi : i64b R.1.2.1) :
    DFl w (((W'.setCell ⟨fb, 0, none⟩ (.int .i64 R.1.1)).setCell ⟨fb, 1, none⟩ (.int .i64 R.1.2.1)).setCell ⟨fb, 2, none⟩ (.slice A' R.1.2.2.length C')) B cc a len cap zs rb fb R.1.1 R.1.2.1 A' R.1.2.2.length C' R.1.2.2 :=
  (h.stays hb).put (ho.low h.2.1.size) hc hi

theorem DFl.room (h : DFl w W B cc a len cap zs rb fb c i A n C l) : n ≤ C := by
  rcases h.2.2.2.2.2.1.1.2 with ⟨he, h0⟩ | ⟨g, cap', cur, he, _, _, hc, _⟩
  · omega
  · injection he with _ _ h3
    omega

/-- The draw ends: the flow is laid into the answer's variable. -/
theorem DFl.fin (h : DFl w W B cc a len cap zs rb fb c i A n C l) : Cur (((W.setCell ⟨rb, 0, none⟩ (.int .i64 c)).setCell ⟨rb, 1, none⟩ (.int .i64 i)).setCell ⟨rb, 2, none⟩ (.slice A n C)) B cc a len cap zs ∧ w.grownBy (((W.setCell ⟨rb, 0, none⟩ (.int .i64 c)).setCell ⟨rb, 1, none⟩ (.int .i64 i)).setCell ⟨rb, 2, none⟩ (.slice A n C)) (some cc) ∧ OwnL (((W.setCell ⟨rb, 0, none⟩ (.int .i64 c)).setCell ⟨rb, 1, none⟩ (.int .i64 i)).setCell ⟨rb, 2, none⟩ (.slice A n C)) w.heap.size A n C l := by
  obtain ⟨h1, h2, h3, h4, h5, h6, _⟩ := h
  have hcf : cc < rb := by omega
  exact ⟨((h1.put hcf _).put hcf _).put hcf _, gput (gput (gput h2 (by omega) _) (by omega) _) (by omega) _, ownL_set3 h6 (h6.other (show W.heap[rb]? = _ from h5) (by decide)) _ _ _⟩
end

end Go.Proofs.Ytkicfiacnpifkad
