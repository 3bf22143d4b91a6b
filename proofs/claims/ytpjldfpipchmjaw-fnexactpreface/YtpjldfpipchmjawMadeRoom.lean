/- A new row of bytes that is made. -/
import Derived.Test.YtpjldfpipchmjawStepMake
namespace Go.Proofs.Ytpjldfpipchmjaw
open Go.RowKit
set_option linter.unusedVariables false

/-- 'make([]byte, n, c)': a new row of c cells, all 0. -/
theorem wpList_make_room {P : Program} (w : World) {ops : Array Oper} {rest : List Oper} {o : Oper} {a : Act} {Q : Exit → Act → World → Prop}
    (hg : o.guard = none) (l c : Operand) (t : TypeId) (hop : o.op = Op.makeSlice t l c)
    (e : TypeId) (i : TypeInfo) (z : Value) (h1 : P.underlying t = some (.slice e)) (h2 : P.info? e = some i) (h3 : i.zero = some z) (h4 : i.size = 1) (hz : z.cells = #[z]) (h5 : i.bytes = 1)
    (kl kc : IntKind) (L C : Int) (n m : Nat) (hl : a.eval l = .int kl L) (hc : a.eval c = .int kc C) (hL : L = (n : Int)) (hC : C = (m : Int)) (hnm : n ≤ m) (b2 : m ≤ 2199023255552)
    (hK : ∀ w', w'.heap[w.heap.size]? = some (.cells (List.replicate m z).toArray e (0, 0)) → Below w.heap.size w w' → wpList P ops Q rest (a.put o.dst (.slice (some ⟨w.heap.size, 0, none⟩) n m)) w') :
    wpList P ops Q (o :: rest) a w := by
  refine wpList_plain hg fun K hK' => ?_
  subst hL hC
  have hr := run_make (P := P) w t e i z h1 h2 h3 kl kc n m (by omega) (by omega) (by rw [h5]; omega) (by omega)
  simp only [Int.toNat_natCast, h4, Nat.mul_one, hz] at hr
  unfold Oper.wp
  simp [execOp, hop, hl, hc, hr, Result.andThen]
  refine hK' _ _ (hK _ ?_ ((Below.refl _ _).alloc (Nat.le_refl _) _))
  rw [heap_alloc_new]
  congr 1
  congr 1
  apply Array.toList_inj.1
  rw [toList_madeCells_one]

theorem own_of_row {w : World} {g n c : Nat} {cur : List Value} {base : Nat} (h : w.heap[g]? = some (.cells cur.toArray 5 (0, 0))) (hb : base ≤ g) (hl : cur.length = c) (hn : n ≤ c) (hc : c ≤ maxLen) : w.ownsRow base 5 1 (.slice (some ⟨g, 0, none⟩) n c) n (cur.take n) :=
  ⟨by simp; omega, .inr ⟨g, c, cur.toArray, rfl, hb, h, hn, hc, by simpa using hl, by simp⟩⟩

end Go.Proofs.Ytpjldfpipchmjaw
