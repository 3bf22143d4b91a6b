/- An upload more in a row. No statement of the program but its table of types. -/
import Derived.Test.YtogopmngbjkcjauUpRow
namespace Go.Proofs.Ytogopmngbjkcjau
open Go.RowKit
set_option linter.unusedVariables false

theorem info_up : (Try.prog.info? 31).map (fun i => (i.zero, i.size, i.bytes)) = some (some (.agg #[.string ⟨#[]⟩, .int .i64 0, .slice none 0 0, .bool false]), 4, 56) := by kernel_rfl

theorem four_new (W : World) (u : U) (a : Option Addr) (n c : Nat) : ∀ j x, (UE.cells ⟨u, a, n, c⟩)[j]? = some x → (W.alloc (.cells #[.string u.id, .int .i64 u.want, .slice a n c, .bool u.done] 31)).cell? ((⟨W.heap.size, 0, none⟩ : Addr).add j) = some x := by
  intro j x hj
  match j, hj with
  | 0, hj => simp [UE.cells] at hj; subst hj; simp [Addr.add]
  | 1, hj => simp [UE.cells] at hj; subst hj; simp [Addr.add]
  | 2, hj => simp [UE.cells] at hj; subst hj; simp [Addr.add]
  | 3, hj => simp [UE.cells] at hj; subst hj; simp [Addr.add]

theorem four_one (u : U) (a : Option Addr) (n c : Nat) : ∀ x ∈ UE.cells ⟨u, a, n, c⟩, x.oneCell' = true := by
  intro x hx
  simp [UE.cells] at hx
  rcases hx with rfl | rfl | rfl | rfl <;> rfl

/-- An upload more in a row. -/
theorem UpRow.snoc {W W' : World} {base B : Nat} {v v' : Value} {l : List UE} {e : UE} {o : Obj} (h : UpRow W base v l) (he : Owns W B e.a e.n e.c e.u.zs) (hB : base ≤ B) (hl : ∀ x ∈ l, ∀ q, x.a.map (·.block) = some q → q < B) (ho : W'.ownsRow base 31 4 v' (l.length + 1) (ueCells l ++ UE.cells e)) (hg : (W.alloc o).grownBy W' v.ownBlock) : UpRow W' base v' (l ++ [e]) := by
  have hb : Below W.heap.size W (W.alloc o) := (Below.refl _ _).alloc (Nat.le_refl _) _
  have h1 := h.stays hb
  refine ⟨?_, ?_, ?_⟩
  · rw [List.length_append, ueCells_append, show ueCells [e] = UE.cells e by simp [ueCells]]
    exact ho
  · intro x hx
    rcases List.mem_append.1 hx with hx | hx
    · exact (h1.2.1 x hx).grown hg (fun q hq => h1.rowApart (h1.2.1 x hx) q hq)
    · obtain rfl : x = e := by simpa using hx
      exact ((he.below hb).grown hg (fun q hq => h1.rowApart (he.below hb) q hq)).low hB
  · rw [List.pairwise_append]
    refine ⟨h.2.2, by simp, fun x hx y hy q hq hq2 => ?_⟩
    obtain rfl : y = e := by simpa using hy
    have h2 := hl x hx q hq
    have h3 := (he.lt q hq2).1
    omega

end Go.Proofs.Ytogopmngbjkcjau
