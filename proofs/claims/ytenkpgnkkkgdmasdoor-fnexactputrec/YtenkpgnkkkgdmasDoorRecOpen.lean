/- A record that comes in: its numbers, its text and its bytes. -/
import Derived.Test.YtenkpgnkkkgdmasDoorBytesOpen
import Derived.OpenShut
import Derived.ChangeOld
import Derived.WalkKit
import Derived.ProofKit
namespace Go.Proofs.YtenkpgnkkkgdmasDoor
open Go.RowKit Go.ChangeShapes Go.WideShapes Go.Joins Go.Deep
set_option linter.unusedVariables false

theorem array6 {α : Type} {a : Array α} (h : a.size = 6) : ∃ x0 x1 x2 x3 x4 x5, a = #[x0, x1, x2, x3, x4, x5] := by
  obtain ⟨l⟩ := a
  match l, h with
  | [x0, x1, x2, x3, x4, x5], _ => exact ⟨x0, x1, x2, x3, x4, x5, rfl⟩

theorem open_agg6 {H : Type} {enc : TypeId × Value → H} {P : Program} {w : World} {base : Nat} {spare : TypeId → Bool} {held : Bool} {r : Reach} {b0 : Nat} {t : TypeId} {f0 f1 f2 f3 f4 f5 : Field} {v : Value} {d : DataW H} {p : List MemPlace} (hs : P.underlying t = some (.struct #[f0, f1, f2, f3, f4, f5])) (hone : oneCellFields P #[f0, f1, f2, f3, f4, f5] = true) (hC : P.cellsOf t = 6)
    (hv : Value.okWide P w r b0 t v) (h : DataW.Trod enc P w base spare held t v d p) :
    ∃ (v0 v1 v2 v3 v4 v5 : Value) (y0 y1 y2 y3 y4 y5 : DataW H × List MemPlace) (n : Nat), v = .agg #[v0, v1, v2, v3, v4, v5] ∧
      DataW.trod enc P w base spare held n f0.type [v0] = some y0 ∧ DataW.trod enc P w base spare held n f1.type [v1] = some y1 ∧ DataW.trod enc P w base spare held n f2.type [v2] = some y2 ∧ DataW.trod enc P w base spare held n f3.type [v3] = some y3 ∧ DataW.trod enc P w base spare held n f4.type [v4] = some y4 ∧ DataW.trod enc P w base spare held n f5.type [v5] = some y5 := by
  obtain ⟨cs, rfl, hsz⟩ := okWide_struct hs hv
  obtain ⟨c0, c1, c2, c3, c4, c5, rfl⟩ := array6 (hsz.trans hC)
  obtain ⟨fuel, hf⟩ := h
  obtain ⟨xs, n, _, _, hl, hlen, hg⟩ := DataW.trod_struct hs hf
  obtain ⟨o0, k0⟩ := hone_of hone 0 f0 rfl
  obtain ⟨o1, k1⟩ := hone_of hone 1 f1 rfl
  obtain ⟨o2, k2⟩ := hone_of hone 2 f2 rfl
  obtain ⟨o3, k3⟩ := hone_of hone 3 f3 rfl
  obtain ⟨o4, k4⟩ := hone_of hone 4 f4 rfl
  obtain ⟨o5, k5⟩ := hone_of hone 5 f5 rfl
  match xs, hlen with
  | [y0, y1, y2, y3, y4, y5], _ => exact ⟨c0, c1, c2, c3, c4, c5, y0, y1, y2, y3, y4, y5, n, rfl, by simpa [Value.cells, o0, k0] using hg 0 f0 rfl, by simpa [Value.cells, o1, k1] using hg 1 f1 rfl, by simpa [Value.cells, o2, k2] using hg 2 f2 rfl, by simpa [Value.cells, o3, k3] using hg 3 f3 rfl, by simpa [Value.cells, o4, k4] using hg 4 f4 rfl, by simpa [Value.cells, o5, k5] using hg 5 f5 rfl⟩

set_option maxRecDepth 100000 in
theorem rec_opened {H : Type} {enc : TypeId × Value → H} {w : World} {r : Reach} {b0 : Nat} {v : Value} {d : DataW H} {p : List MemPlace} (hv : Value.okWide Tryd.prog w r b0 24 v) (h : DataW.Trod enc Tryd.prog w 0 (fun _ => true) true 24 v d p) :
    ∃ (e q k : Int) (id : ByteArray) (n : Int) (a : Option Addr) (len cap : Nat) (zs : List Int), v = .agg #[.int .i64 e, .int .i64 q, .int .i64 k, .string id, .int .i64 n, .slice a len cap] ∧ id.size ≤ maxLen ∧ len ≤ maxLen ∧ Seg w a len zs := by
  obtain ⟨v0, v1, v2, v3, v4, v5, y0, y1, y2, y3, y4, y5, m, rfl, h0, h1, h2, h3, h4, h5⟩ := open_agg6 Tryd.underlying24 (by kernel_rfl) (by kernel_rfl) hv h
  obtain ⟨e, e0, _, _⟩ := DataW.trod_int Tryd.underlying3 h0
  obtain ⟨q, e1, _, _⟩ := DataW.trod_int Tryd.underlying3 h1
  obtain ⟨k, e2, _, _⟩ := DataW.trod_int Tryd.underlying3 h2
  obtain ⟨id, e3, _, z3⟩ := DataW.trod_string Tryd.underlying9 h3
  obtain ⟨n, e4, _, _⟩ := DataW.trod_int Tryd.underlying3 h4
  obtain ⟨a, len, cap, zs, rfl, _, hl, hx⟩ := bytes_opened h5
  exact ⟨e, q, k, id, n, a, len, cap, zs, by simp at e0 e1 e2 e3 e4; rw [e0, e1, e2, e3, e4], z3, hl, hx⟩

end Go.Proofs.YtenkpgnkkkgdmasDoor
