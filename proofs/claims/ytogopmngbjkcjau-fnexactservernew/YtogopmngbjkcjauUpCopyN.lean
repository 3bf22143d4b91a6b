/- A cell that is written; no program in it. -/
import Derived.Test.YtogopmngbjkcjauUpSnoc
import Derived.Test.YtogopmngbjkcjauBox4Set
namespace Go.Proofs.Ytogopmngbjkcjau
open Go.RowKit
set_option linter.unusedVariables false

theorem grownBy_setU (w : World) (b i : Nat) (v : Value) : w.grownBy (w.setCell ⟨b, i, none⟩ v) (some b) := ⟨rfl, rfl, rfl, by simp, fun k _ hk => set_block_ne w k b i v (fun e => hk (by rw [e]))⟩

theorem grown_cell {W W' : World} {q : Option Nat} {g i : Nat} (h : W.grownBy W' q) (hg : g < W.heap.size) (hn : some g ≠ q) : W'.cell? ⟨g, i, none⟩ = W.cell? ⟨g, i, none⟩ := by simp only [World.cell?]; rw [h.block g hg hn]
theorem grown_frozen {W W' : World} {q : Option Nat} {g i : Nat} (h : W.grownBy W' q) (hg : g < W.heap.size) (hn : some g ≠ q) : W'.frozen? ⟨g, i, none⟩ = W.frozen? ⟨g, i, none⟩ := by simp only [World.frozen?]; rw [h.block g hg hn]

end Go.Proofs.Ytogopmngbjkcjau
