/- A table that comes in: its fields. -/
import Derived.Test.YtghakpcagacdaalM10
import Derived.Test.YtghakpcagacdaalM16
import Derived.Deep.SlicePairs
import Derived.Lib.SmallJoins
namespace Go.Proofs.Ytghakpcagacdaal
open Go.RowKit Go.ChangeShapes Go.WideShapes
set_option linter.unusedVariables false

theorem Flds.opened {H : Type} {enc : TypeId × Value → H} {w : World} {fuel : Nat} {v : Value} {x : DataW H × List MemPlace} (h : DataW.trod enc Try.prog w 0 (fun _ => true) true fuel 31 [v] = some x) :
    ∃ a len cap xs, v = .slice a len cap ∧ len ≤ maxLen ∧ Flds w a len xs := by
  rcases Go.Deep.open_slice_pairs Try.underlying31 Try.underlying35 (by kernel_rfl) rfl rfl (by kernel_rfl) (by kernel_rfl) h with ⟨hcs, _⟩ | ⟨a, len, cap, m, n, V0, V1, D0, D1, P0, P1, hcs, _, hl, hm, hmm, _, hc⟩
  · simp at hcs
    exact ⟨none, 0, 0, [], hcs, Nat.zero_le _, rfl, by simp, .inl rfl⟩
  · simp at hcs hmm
    subst hmm
    have hs : ∀ i, i < m → ∃ f : Fld, V0 i = .string f.1 ∧ V1 i = .string f.2 ∧ f.1.size ≤ maxLen ∧ f.2.size ≤ maxLen := by
      intro i hi
      obtain ⟨_, _, h0, h1⟩ := hc i hi
      obtain ⟨s, e0, _, z0⟩ := DataW.trod_string Try.underlying9 h0
      obtain ⟨t, e1, _, z1⟩ := DataW.trod_string Try.underlying9 h1
      exact ⟨(s, t), by simpa using e0, by simpa using e1, z0, z1⟩
    refine ⟨some a, len, m, (List.range len).map fun i => if hi : i < m then Classical.choose (hs i hi) else (⟨#[]⟩, ⟨#[]⟩), hcs, by omega, by simp, ?_, ?_⟩
    · intro f hf
      obtain ⟨i, hi, rfl⟩ := List.mem_map.1 hf
      have him : i < m := by have := List.mem_range.1 hi; omega
      rw [dif_pos him]
      exact (Classical.choose_spec (hs i him)).2.2
    · by_cases h0 : len = 0
      · exact .inl h0
      · right
        obtain ⟨b, off, spot⟩ := a
        have hspot : spot = none := by simpa [Addr.add] using World.cell?_spot (hc 0 (by omega)).1
        subst hspot
        have key : ∀ i (hi : i < m), w.cell? ⟨b, off + i * 2, none⟩ = some (.string (Classical.choose (hs i hi)).1) ∧ w.cell? ⟨b, off + i * 2 + 1, none⟩ = some (.string (Classical.choose (hs i hi)).2) := by
          intro i hi
          have hq := Classical.choose_spec (hs i hi)
          have hcc := hc i hi
          rw [← hq.1, ← hq.2.1]
          by_cases hi0 : i = 0
          · subst hi0
            exact ⟨by simpa [Addr.add] using hcc.1, by simpa [Addr.add] using hcc.2.1⟩
          · exact ⟨by simpa [Addr.add, show ¬ i * 2 = 0 by omega] using hcc.1, by simpa [Addr.add, Nat.add_assoc] using hcc.2.1⟩
        refine ⟨b, off, rfl, lt_of_cell (key 0 (by omega)).1, fun i hi => ?_⟩
        have hil : i < len := by simpa using hi
        have := key i (by omega)
        simpa [show i < m by omega] using this

set_option maxRecDepth 100000 in
theorem table_opened {H : Type} {enc : TypeId × Value → H} {w : World} {r : Reach} {b0 : Nat} {v : Value} {d : DataW H} {p : List MemPlace} (hv : Value.okWide Try.prog w r b0 33 v) (h : DataW.Trod enc Try.prog w 0 (fun _ => true) true 33 v d p) :
    ∃ (m : Int) (a : Option Addr) (len cap : Nat) (xs : List Fld), v = .agg #[.int .i64 m, .slice a len cap] ∧ (Lit.int .i64 m).wf = true ∧ len ≤ maxLen ∧ Flds w a len xs := by
  obtain ⟨v0, v1, y0, y1, n, rfl, _, _, h0, h1⟩ := Go.Joins.open_agg2 Try.underlying33 (by kernel_rfl) (by kernel_rfl) hv h
  obtain ⟨m, e0, _, hm⟩ := DataW.trod_int Try.underlying3 h0
  obtain ⟨a, len, cap, xs, rfl, hl, hx⟩ := Flds.opened h1
  exact ⟨m, a, len, cap, xs, by simp at e0; rw [e0], hm, hl, hx⟩

set_option maxRecDepth 100000 in
theorem field_opened {H : Type} {enc : TypeId × Value → H} {w : World} {r : Reach} {b0 : Nat} {v : Value} {d : DataW H} {p : List MemPlace} (hv : Value.okWide Try.prog w r b0 35 v) (h : DataW.Trod enc Try.prog w 0 (fun _ => true) true 35 v d p) :
    ∃ (x y : ByteArray), v = .agg #[.string x, .string y] ∧ x.size ≤ maxLen ∧ y.size ≤ maxLen := by
  obtain ⟨v0, v1, y0, y1, n, rfl, _, _, h0, h1⟩ := Go.Joins.open_agg2 Try.underlying35 (by kernel_rfl) (by kernel_rfl) hv h
  obtain ⟨s, e0, _, z0⟩ := DataW.trod_string Try.underlying9 h0
  obtain ⟨t, e1, _, z1⟩ := DataW.trod_string Try.underlying9 h1
  exact ⟨s, t, by simp at e0 e1; rw [e0, e1], z0, z1⟩

end Go.Proofs.Ytghakpcagacdaal
