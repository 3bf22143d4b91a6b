/- A list of bytes that comes in, in a struct. -/
import Derived.Test.YtlalebaaabdihaxOwn
import Derived.Deep.Slices
import Derived.Lib.SmallJoins
namespace Go.Proofs.Ytlalebaaabdihax
open Go.RowKit Go.ChangeShapes Go.WideShapes
set_option linter.unusedVariables false

theorem bytes_opened {H : Type} {enc : TypeId × Value → H} {w : World} {fuel : Nat} {v : Value} {x : DataW H × List MemPlace} (h : DataW.trod enc Try.prog w 0 (fun _ => true) true fuel 22 [v] = some x) :
    ∃ a len cap zs, v = .slice a len cap ∧ len ≤ cap ∧ len ≤ maxLen ∧ Seg w a len zs := by
  rcases Go.Deep.open_slice1 Try.underlying22 (by kernel_rfl) h with ⟨hcs, _⟩ | ⟨a, len, cap, m, n, V, D, Pl, hcs, _, hl, hm, hmm, _, hc⟩
  · simp at hcs
    exact ⟨none, 0, 0, [], hcs, Nat.le_refl _, Nat.zero_le _, rfl, by simp, .inl rfl⟩
  · simp at hcs hmm
    subst hmm
    have hs : ∀ i, i < m → ∃ z : Int, V i = .int .u8 z ∧ 0 ≤ z ∧ z ≤ 255 := by
      intro i hi
      obtain ⟨_, h0⟩ := hc i hi
      obtain ⟨z, e0, _, w0⟩ := DataW.trod_int Try.underlying5 h0
      exact ⟨z, by simpa using e0, bounds_u8 w0⟩
    refine ⟨some a, len, m, (List.range len).map fun i => if hi : i < m then Classical.choose (hs i hi) else 0, hcs, hl, by omega, by simp, ?_, ?_⟩
    · intro z hz
      obtain ⟨i, hi, rfl⟩ := List.mem_map.1 hz
      have him : i < m := by have := List.mem_range.1 hi; omega
      rw [dif_pos him]
      exact (Classical.choose_spec (hs i him)).2
    · by_cases h0 : len = 0
      · exact .inl h0
      · right
        obtain ⟨b, off, spot⟩ := a
        have hspot : spot = none := by simpa [Addr.add] using World.cell?_spot (hc 0 (by omega)).1
        subst hspot
        have key : ∀ i (hi : i < m), w.cell? ⟨b, off + i, none⟩ = some (.int .u8 (Classical.choose (hs i hi))) := by
          intro i hi
          have hq := Classical.choose_spec (hs i hi)
          have hcc := (hc i hi).1
          rw [← hq.1]
          by_cases hi0 : i = 0
          · subst hi0
            simpa [Addr.add] using hcc
          · simpa [Addr.add, hi0] using hcc
        refine ⟨b, off, rfl, lt_of_cell (key 0 (by omega)), fun i hi => ?_⟩
        have := key i (by omega)
        rw [this]
        simp [List.getD_eq_getElem?_getD, hi, show i < m by omega]

end Go.Proofs.Ytlalebaaabdihax
