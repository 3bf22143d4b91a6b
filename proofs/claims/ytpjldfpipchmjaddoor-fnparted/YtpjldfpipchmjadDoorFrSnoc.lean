/- A frame more in a row of frames. -/
import Derived.Test.YtpjldfpipchmjadDoorFrRow
namespace Go.Proofs.YtpjldfpipchmjadDoor
open Go.RowKit
set_option linter.unusedVariables false

theorem info_frame : (Tryd.prog.info? 33).map (fun i => (i.zero, i.size, i.bytes)) = some (some (.agg #[.int .i64 0, .int .i64 0, .int .i64 0, .slice none 0 0]), 4, 48) := by kernel_rfl

theorem four_new (W : World) (k f s : Int) (a : Option Addr) (n c : Nat) (zs : List Int) : ∀ j u, (FE.cells ⟨k, f, s, a, n, c, zs⟩)[j]? = some u → (W.alloc (.cells #[.int .i64 k, .int .i64 f, .int .i64 s, .slice a n c] 33)).cell? ((⟨W.heap.size, 0, none⟩ : Addr).add j) = some u := by
  intro j u hj
  match j, hj with
  | 0, hj => simp [FE.cells] at hj; subst hj; simp [Addr.add]
  | 1, hj => simp [FE.cells] at hj; subst hj; simp [Addr.add]
  | 2, hj => simp [FE.cells] at hj; subst hj; simp [Addr.add]
  | 3, hj => simp [FE.cells] at hj; subst hj; simp [Addr.add]

theorem four_one (k f s : Int) (a : Option Addr) (n c : Nat) (zs : List Int) : ∀ u ∈ FE.cells ⟨k, f, s, a, n, c, zs⟩, u.oneCell' = true := by
  intro u hu
  simp [FE.cells] at hu
  rcases hu with rfl | rfl | rfl | rfl <;> rfl

/-- A frame more in a row. -/
theorem FrRow.snoc {W W' : World} {base B : Nat} {v v' : Value} {l : List FE} {e : FE} {o : Obj} (h : FrRow W base v l) (he : Owns W B e.a e.n e.c e.zs) (hB : base ≤ B) (hl : ∀ x ∈ l, ∀ q, x.a.map (·.block) = some q → q < B) (ho : W'.ownsRow base 33 4 v' (l.length + 1) (feCells l ++ FE.cells e)) (hg : (W.alloc o).grownBy W' v.ownBlock) : FrRow W' base v' (l ++ [e]) := by
  have hb : Below W.heap.size W (W.alloc o) := (Below.refl _ _).alloc (Nat.le_refl _) _
  have h1 := h.stays hb
  refine ⟨?_, ?_, ?_⟩
  · rw [List.length_append, feCells_append, show feCells [e] = FE.cells e by simp [feCells]]
    exact ho
  · intro x hx
    rcases List.mem_append.1 hx with hx | hx
    · exact (h1.2.1 x hx).grown hg (fun q hq => h1.rowApart (h1.2.1 x hx) q hq)
    · obtain rfl : x = e := by simpa using hx
      exact ((he.below hb).grown hg (fun q hq => h1.rowApart (he.below hb) q hq)).low hB
  · rw [List.pairwise_append]
    refine ⟨h.2.2, by simp, fun x hx y hy q hq hq2 => ?_⟩
    obtain rfl : y = e := by simpa using hy
    have h2 := hl x hx q hq
    have h3 := (he.lt q hq2).1
    omega

end Go.Proofs.YtpjldfpipchmjadDoor
