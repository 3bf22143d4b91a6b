/- A flow under work whose lanes are others. -/
import Derived.Test.YtkicfiacnpifkapFlowSt
namespace Go.Proofs.Ytkicfiacnpifkap
open Go.RowKit
set_option linter.unusedVariables false

/-- The flow under work has other lanes, in the row that it had or in another. -/
theorem FSt.row {w W W' : World} {c i : Int} {a : Option Addr} {len cap o : Nat} {oc oi : Int} {oa : Option Addr} {on ocap : Nat} {ol : List Lane} {A' : Option Addr} {n' C' : Nat} {l' : List Lane} (h : FSt w W c i a len cap o oc oi oa on ocap ol) (hg : W.grownBy W' (oa.map (·.block))) (ho : OwnL W' w.heap.size A' n' C' l') :
    FSt w (W'.setCell ⟨o, 2, none⟩ (.slice A' n' C')) c i a len cap o oc oi A' n' C' l' := by
  obtain ⟨h1, h2, h3, h4, h5, h6⟩ := h
  exact FSt.laid (h1.grown hg (h4.other (show W.heap[w.heap.size]? = _ from h1) (by decide))) (h3.grown hg (h4.other (show W.heap[o]? = _ from h3) (by decide))) (h2.grown hg (h4.other (show W.heap[w.heap.size + 1]? = _ from h2) (by decide))) (h5.grown hg h5.size (fun k e => (h4.lt k e).1)) h6 ho

end Go.Proofs.Ytkicfiacnpifkap
