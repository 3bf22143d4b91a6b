/- A record in a variable of a draw's; no program in it but its table of types. -/
import Derived.Test.YtenkpgnkkkgdmaeDoorDrawsC
import Derived.Test.YtenkpgnkkkgdmaeDoorGotRec
namespace Go.Proofs.YtenkpgnkkkgdmaeDoor
open Go.RowKit
set_option linter.unusedVariables false

theorem owns_lowV {w : World} {base lo n cap : Nat} {a : Option Addr} {zs : List Int} (h : Owns w base a n cap zs) (hl : lo ≤ base) : Owns w lo a n cap zs := ⟨own_low h.1 hl, h.2⟩

def RV (w W : World) (b : Nat) (e q k : Int) (id : ByteArray) (n : Int) (A : Option Addr) (d C : Nat) (zs : List Int) : Prop :=
  BoxN W b 43 [.int .i64 e, .int .i64 q, .int .i64 k, .string id, .int .i64 n, .slice A d C] ∧ BoxN W w.heap.size 43 [.int .i64 0, .int .i64 0, .int .i64 0, .string ⟨#[]⟩, .int .i64 0, .slice none 0 0] ∧ Owns W (w.heap.size + 1) A d C zs ∧ (∀ q, A.map (·.block) = some q → q ≠ b) ∧ w.heap.size < b

/-- Some record of few bytes, its bytes in memory of its own. -/
def DrawnR (base : Nat) (v : Value) (w' : World) : Prop := ∃ (r : R) (A : Option Addr) (C : Nat), v = .agg #[.int .i64 r.e, .int .i64 r.q, .int .i64 r.k, .string r.id, .int .i64 r.n, .slice A r.zs.length C] ∧ Owns w' base A r.zs.length C r.zs ∧ r.id.size ≤ 9 ∧ r.zs.length ≤ 25

section
variable {w W W' : World} {b : Nat} {e q k : Int} {id : ByteArray} {n : Int} {A : Option Addr} {d C : Nat} {zs : List Int}

theorem RV.grown (h : RV w W b e q k id n A d C zs) {r : Option Nat} (hg : W.grownBy W' r) (hr : ∀ q, r = some q → q < w.heap.size) : RV w W' b e q k id n A d C zs := by
  obtain ⟨h1, h2, h3, h4, h5⟩ := h
  exact ⟨h1.grown hg (fun e => by have := hr _ e; omega), h2.grown hg (fun e => by have := hr _ e; omega), h3.grown hg (fun q e e2 => by have := hr q e; have := (h3.lt q e2).1; omega), h4, h5⟩

theorem RV.new (hq : BoxN W w.heap.size 43 [.int .i64 0, .int .i64 0, .int .i64 0, .string ⟨#[]⟩, .int .i64 0, .slice none 0 0]) (e q k : Int) (id : ByteArray) (n : Int) : RV w (W.alloc (.cells #[.int .i64 e, .int .i64 q, .int .i64 k, .string id, .int .i64 n, .slice none 0 0] 43)) W.heap.size e q k id n none 0 0 [] :=
  ⟨BoxN.new _ _ _, hq.alloc _, ⟨⟨rfl, .inl ⟨rfl, rfl⟩⟩, by simp⟩, by simp, hq.lt⟩

/-- Its number is set. -/
theorem RV.setN (h : RV w W b e q k id n A d C zs) (m : Int) : RV w (W.setCell ⟨b, 4, none⟩ (.int .i64 m)) b e q k id m A d C zs := by
  obtain ⟨h1, h2, h3, h4, h5⟩ := h
  exact ⟨h1.set 4 _, h2.other (by omega) _, owns_set h3 (fun e => h4 b e rfl), h4, h5⟩

theorem RV.setE (h : RV w W b e q k id n A d C zs) (m : Int) : RV w (W.setCell ⟨b, 0, none⟩ (.int .i64 m)) b m q k id n A d C zs := by
  obtain ⟨h1, h2, h3, h4, h5⟩ := h
  exact ⟨h1.set 0 _, h2.other (by omega) _, owns_set h3 (fun e => h4 b e rfl), h4, h5⟩

theorem RV.setQ (h : RV w W b e q k id n A d C zs) (m : Int) : RV w (W.setCell ⟨b, 1, none⟩ (.int .i64 m)) b e m k id n A d C zs := by
  obtain ⟨h1, h2, h3, h4, h5⟩ := h
  exact ⟨h1.set 1 _, h2.other (by omega) _, owns_set h3 (fun e => h4 b e rfl), h4, h5⟩

theorem RV.setK (h : RV w W b e q k id n A d C zs) (m : Int) : RV w (W.setCell ⟨b, 2, none⟩ (.int .i64 m)) b e q m id n A d C zs := by
  obtain ⟨h1, h2, h3, h4, h5⟩ := h
  exact ⟨h1.set 2 _, h2.other (by omega) _, owns_set h3 (fun e => h4 b e rfl), h4, h5⟩

theorem RV.setI (h : RV w W b e q k id n A d C zs) (m : ByteArray) : RV w (W.setCell ⟨b, 3, none⟩ (.string m)) b e q k m n A d C zs := by
  obtain ⟨h1, h2, h3, h4, h5⟩ := h
  exact ⟨h1.set 3 _, h2.other (by omega) _, owns_set h3 (fun e => h4 b e rfl), h4, h5⟩

/-- Its bytes are set. -/
theorem RV.setD (h : RV w W b e q k id n A d C zs) {A' : Option Addr} {d' C' : Nat} {zs' : List Int} {lo : Nat} (ho : Owns W lo A' d' C' zs') (hlo : b < lo) : RV w (W.setCell ⟨b, 5, none⟩ (.slice A' d' C')) b e q k id n A' d' C' zs' := by
  obtain ⟨h1, h2, h3, h4, h5⟩ := h
  have hne : ∀ x, A'.map (·.block) = some x → x ≠ b := fun x hx => by have := (ho.lt x hx).1; omega
  exact ⟨h1.set 5 _, h2.other (by omega) _, owns_lowV (owns_set ho (fun e => hne b e rfl)) (by omega), hne, h5⟩

theorem RV.done (h : RV w W b e q k id n A d C zs) (hi : id.size ≤ 9) (hd : d ≤ 25) : DrawnR w.heap.size (.agg #[.int .i64 e, .int .i64 q, .int .i64 k, .string id, .int .i64 n, .slice A d C]) ((((((W.setCell ⟨w.heap.size, 0, none⟩ (.int .i64 e)).setCell ⟨w.heap.size, 1, none⟩ (.int .i64 q)).setCell ⟨w.heap.size, 2, none⟩ (.int .i64 k)).setCell ⟨w.heap.size, 3, none⟩ (.string id)).setCell ⟨w.heap.size, 4, none⟩ (.int .i64 n)).setCell ⟨w.heap.size, 5, none⟩ (.slice A d C)) := by
  obtain ⟨h1, h2, h3, h4, h5⟩ := h
  have hl := h3.seg.1
  have hA : A.map (·.block) ≠ some w.heap.size := fun e => by have := (h3.lt _ e).1; omega
  refine ⟨⟨e, q, k, id, n, zs⟩, A, C, by dsimp only; rw [hl], ?_, hi, by dsimp only; omega⟩
  dsimp only
  rw [hl]
  exact owns_lowV (owns_set (owns_set (owns_set (owns_set (owns_set (owns_set h3 hA) hA) hA) hA) hA) hA) (by omega)
end

end Go.Proofs.YtenkpgnkkkgdmaeDoor
