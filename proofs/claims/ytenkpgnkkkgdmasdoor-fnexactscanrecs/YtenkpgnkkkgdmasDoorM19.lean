/- The records ahead, one behind the other; no program in it. A record more in a row. No statement of the program but its table of types. -/
import Derived.Test.YtenkpgnkkkgdmasDoorM03
namespace Go.Proofs.YtenkpgnkkkgdmasDoor
open Go.RowKit
set_option linter.unusedVariables false

theorem scan_next {i : Nat} {last : Int} {xs : List ByteArray} {k : Nat} {x : ByteArray} (h : xs[k]? = some x) : scanFrom i last (xs.drop k) = match nextR i last x with
    | none => []
    | some r => r :: scanFrom (i + 1) r.e (xs.drop (k + 1)) := by
  have hk : k < xs.length := (List.getElem?_eq_some_iff.1 h).1
  obtain ⟨_, hx⟩ := List.getElem?_eq_some_iff.1 h
  rw [List.drop_eq_getElem_cons hk, hx]
  rfl

theorem scan_stop {i : Nat} {last : Int} {xs : List ByteArray} {k : Nat} {x : ByteArray} (h : xs[k]? = some x) (hn : nextR i last x = none) : scanFrom i last (xs.drop k) = [] := by
  rw [scan_next h, hn]

theorem scan_go {i : Nat} {last : Int} {xs : List ByteArray} {k : Nat} {x : ByteArray} {r : R} (h : xs[k]? = some x) (hn : nextR i last x = some r) : scanFrom i last (xs.drop k) = r :: scanFrom (i + 1) r.e (xs.drop (k + 1)) := by
  rw [scan_next h, hn]

end Go.Proofs.YtenkpgnkkkgdmasDoor

namespace Go.Proofs.YtenkpgnkkkgdmasDoor
open Go.RowKit
set_option linter.unusedVariables false

theorem info_rec : (Tryd.prog.info? 27).map (fun i => (i.zero, i.size, i.bytes)) = some (some (.agg #[.int .i64 0, .int .i64 0, .int .i64 0, .string ⟨#[]⟩, .int .i64 0, .slice none 0 0]), 6, 72) := by kernel_rfl

theorem six_new (W : World) (r : R) (a : Option Addr) (n c : Nat) : ∀ j u, (RE.cells ⟨r, a, n, c⟩)[j]? = some u → (W.alloc (.cells #[.int .i64 r.e, .int .i64 r.q, .int .i64 r.k, .string r.id, .int .i64 r.n, .slice a n c] 27)).cell? ((⟨W.heap.size, 0, none⟩ : Addr).add j) = some u := by
  intro j u hj
  match j, hj with
  | 0, hj => simp [RE.cells] at hj; subst hj; simp [Addr.add]
  | 1, hj => simp [RE.cells] at hj; subst hj; simp [Addr.add]
  | 2, hj => simp [RE.cells] at hj; subst hj; simp [Addr.add]
  | 3, hj => simp [RE.cells] at hj; subst hj; simp [Addr.add]
  | 4, hj => simp [RE.cells] at hj; subst hj; simp [Addr.add]
  | 5, hj => simp [RE.cells] at hj; subst hj; simp [Addr.add]

theorem six_one (r : R) (a : Option Addr) (n c : Nat) : ∀ u ∈ RE.cells ⟨r, a, n, c⟩, u.oneCell' = true := by
  intro u hu
  simp [RE.cells] at hu
  rcases hu with rfl | rfl | rfl | rfl | rfl | rfl <;> rfl

/-- A record more in a row. -/
theorem RcRow.snoc {W W' : World} {base B : Nat} {v v' : Value} {l : List RE} {e : RE} {o : Obj} (h : RcRow W base v l) (he : Owns W B e.a e.n e.c e.r.zs) (hB : base ≤ B) (hl : ∀ x ∈ l, ∀ q, x.a.map (·.block) = some q → q < B) (ho : W'.ownsRow base 27 6 v' (l.length + 1) (reCells l ++ RE.cells e)) (hg : (W.alloc o).grownBy W' v.ownBlock) : RcRow W' base v' (l ++ [e]) := by
  have hb : Below W.heap.size W (W.alloc o) := (Below.refl _ _).alloc (Nat.le_refl _) _
  have h1 := h.stays hb
  refine ⟨?_, ?_, ?_⟩
  · rw [List.length_append, reCells_append, show reCells [e] = RE.cells e by simp [reCells]]
    exact ho
  · intro x hx
    rcases List.mem_append.1 hx with hx | hx
    · exact (h1.2.1 x hx).grown hg (fun q hq => h1.rowApart (h1.2.1 x hx) q hq)
    · obtain rfl : x = e := by simpa using hx
      exact ((he.below hb).grown hg (fun q hq => h1.rowApart (he.below hb) q hq)).low hB
  · rw [List.pairwise_append]
    refine ⟨h.2.2, by simp, fun x hx y hy q hq hq2 => ?_⟩
    obtain rfl : y = e := by simpa using hy
    have h2 := hl x hx q hq
    have h3 := (he.lt q hq2).1
    omega

end Go.Proofs.YtenkpgnkkkgdmasDoor
