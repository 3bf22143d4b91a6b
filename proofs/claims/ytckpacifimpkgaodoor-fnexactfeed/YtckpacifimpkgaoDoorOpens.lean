/- A list of bytes that comes in, in a struct. -/
import Derived.Test.YtckpacifimpkgaoDoorOwn
import Derived.Deep.Slices
import Derived.Lib.SmallJoins
namespace Go.Proofs.YtckpacifimpkgaoDoor
open Go.RowKit Go.ChangeShapes Go.WideShapes
set_option linter.unusedVariables false

theorem bytes_opened {H : Type} {enc : TypeId × Value → H} {w : World} {fuel : Nat} {v : Value} {x : DataW H × List MemPlace} (h : DataW.trod enc Tryd.prog w 0 (fun _ => true) true fuel 22 [v] = some x) :
    ∃ a len cap zs, v = .slice a len cap ∧ len ≤ cap ∧ len ≤ maxLen ∧ Seg w a len zs := by
  rcases Go.Deep.open_slice1 Tryd.underlying22 (by kernel_rfl) h with ⟨hcs, _⟩ | ⟨a, len, cap, m, n, V, D, Pl, hcs, _, hl, hm, hmm, _, hc⟩
  · simp at hcs
    exact ⟨none, 0, 0, [], hcs, Nat.le_refl _, Nat.zero_le _, rfl, by simp, .inl rfl⟩
  · simp at hcs hmm
    subst hmm
    have hs : ∀ i, i < m → ∃ z : Int, V i = .int .u8 z ∧ 0 ≤ z ∧ z ≤ 255 := by
      intro i hi
      obtain ⟨_, h0⟩ := hc i hi
      obtain ⟨z, e0, _, w0⟩ := DataW.trod_int Tryd.underlying5 h0
      exact ⟨z, by simpa using e0, bounds_u8 w0⟩
    refine ⟨some a, len, m, (List.range len).map fun i => if hi : i < m then Classical.choose (hs i hi) else 0, hcs, hl, by omega, by simp, ?_, ?_⟩
    · intro z hz
      obtain ⟨i, hi, rfl⟩ := List.mem_map.1 hz
      have him : i < m := by have := List.mem_range.1 hi; omega
      rw [dif_pos him]
      exact (Classical.choose_spec (hs i him)).2
    · by_cases h0 : len = 0
      · exact .inl h0
      · right
        obtain ⟨b, off, spot⟩ := a
        have hspot : spot = none := by simpa [Addr.add] using World.cell?_spot (hc 0 (by omega)).1
        subst hspot
        have key : ∀ i (hi : i < m), w.cell? ⟨b, off + i, none⟩ = some (.int .u8 (Classical.choose (hs i hi))) := by
          intro i hi
          have hq := Classical.choose_spec (hs i hi)
          have hcc := (hc i hi).1
          rw [← hq.1]
          by_cases hi0 : i = 0
          · subst hi0
            simpa [Addr.add] using hcc
          · simpa [Addr.add, hi0] using hcc
        refine ⟨b, off, rfl, lt_of_cell (key 0 (by omega)), fun i hi => ?_⟩
        have := key i (by omega)
        rw [this]
        simp [List.getD_eq_getElem?_getD, hi, show i < m by omega]

set_option maxRecDepth 100000 in
theorem gather_opened {H : Type} {enc : TypeId × Value → H} {w : World} {r : Reach} {b0 : Nat} {v : Value} {d : DataW H} {p : List MemPlace} (hv : Value.okWide Tryd.prog w r b0 24 v) (h : DataW.Trod enc Tryd.prog w 0 (fun _ => true) true 24 v d p) :
    ∃ (s : Int) (en : Bool) (a : Option Addr) (len cap : Nat) (zs : List Int), v = .agg #[.int .i64 s, .bool en, .slice a len cap] ∧ (Lit.int .i64 s).wf = true ∧ len ≤ cap ∧ len ≤ maxLen ∧ Seg w a len zs := by
  obtain ⟨v0, v1, v2, y0, y1, y2, n, rfl, _, _, h0, h1, h2⟩ := Go.Joins.open_agg3 Tryd.underlying24 (by kernel_rfl) (by kernel_rfl) hv h
  obtain ⟨s, e0, _, hs⟩ := DataW.trod_int Tryd.underlying3 h0
  obtain ⟨en, e1, _⟩ := DataW.trod_bool Tryd.underlying4 h1
  obtain ⟨a, len, cap, zs, rfl, hlc, hl, hx⟩ := bytes_opened h2
  exact ⟨s, en, a, len, cap, zs, by simp at e0 e1; rw [e0, e1], hs, hlc, hl, hx⟩

set_option maxRecDepth 100000 in
theorem frame_opened {H : Type} {enc : TypeId × Value → H} {w : World} {r : Reach} {b0 : Nat} {v : Value} {d : DataW H} {p : List MemPlace} (hv : Value.okWide Tryd.prog w r b0 26 v) (h : DataW.Trod enc Tryd.prog w 0 (fun _ => true) true 26 v d p) :
    ∃ (k f s : Int) (a : Option Addr) (len cap : Nat) (zs : List Int), v = .agg #[.int .i64 k, .int .i64 f, .int .i64 s, .slice a len cap] ∧ (Lit.int .i64 k).wf = true ∧ (Lit.int .i64 f).wf = true ∧ (Lit.int .i64 s).wf = true ∧ len ≤ cap ∧ len ≤ maxLen ∧ Seg w a len zs := by
  obtain ⟨v0, v1, v2, v3, y0, y1, y2, y3, n, rfl, _, _, h0, h1, h2, h3⟩ := Go.Joins.open_agg4 Tryd.underlying26 (by kernel_rfl) (by kernel_rfl) hv h
  obtain ⟨k, e0, _, hk⟩ := DataW.trod_int Tryd.underlying3 h0
  obtain ⟨f, e1, _, hf⟩ := DataW.trod_int Tryd.underlying3 h1
  obtain ⟨s, e2, _, hs⟩ := DataW.trod_int Tryd.underlying3 h2
  obtain ⟨a, len, cap, zs, rfl, hlc, hl, hx⟩ := bytes_opened h3
  exact ⟨k, f, s, a, len, cap, zs, by simp at e0 e1 e2; rw [e0, e1, e2], hk, hf, hs, hlc, hl, hx⟩

end Go.Proofs.YtckpacifimpkgaoDoor
