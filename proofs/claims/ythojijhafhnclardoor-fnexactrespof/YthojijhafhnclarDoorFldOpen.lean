/- A list of fields that comes in: no statement of the program but its table of types. -/
import Derived.Test.YthojijhafhnclarDoorTiny
import Derived.Test.YthojijhafhnclarDoorTabs
import Derived.Deep.SlicePairs
import Derived.Lib.SmallJoins
namespace Go.Proofs.YthojijhafhnclarDoor
open Go.RowKit Go.ChangeShapes Go.WideShapes
set_option linter.unusedVariables false

theorem Flds.opened {H : Type} {enc : TypeId × Value → H} {w : World} {fuel : Nat} {v : Value} {x : DataW H × List MemPlace} (h : DataW.trod enc Tryd.prog w 0 (fun _ => true) true fuel 31 [v] = some x) :
    ∃ a len cap xs, v = .slice a len cap ∧ len ≤ maxLen ∧ Flds w a len xs := by
  rcases Go.Deep.open_slice_pairs Tryd.underlying31 Tryd.underlying44 (by kernel_rfl) rfl rfl (by kernel_rfl) (by kernel_rfl) h with ⟨hcs, _⟩ | ⟨a, len, cap, m, n, V0, V1, D0, D1, P0, P1, hcs, _, hl, hm, hmm, _, hc⟩
  · simp at hcs
    exact ⟨none, 0, 0, [], hcs, Nat.zero_le _, rfl, by simp, .inl rfl⟩
  · simp at hcs hmm
    subst hmm
    have hs : ∀ i, i < m → ∃ f : Fld, V0 i = .string f.1 ∧ V1 i = .string f.2 ∧ f.1.size ≤ maxLen ∧ f.2.size ≤ maxLen := by
      intro i hi
      obtain ⟨_, _, h0, h1⟩ := hc i hi
      obtain ⟨s, e0, _, z0⟩ := DataW.trod_string Tryd.underlying9 h0
      obtain ⟨t, e1, _, z1⟩ := DataW.trod_string Tryd.underlying9 h1
      exact ⟨(s, t), by simpa using e0, by simpa using e1, z0, z1⟩
    refine ⟨some a, len, m, (List.range len).map fun i => if hi : i < m then Classical.choose (hs i hi) else (⟨#[]⟩, ⟨#[]⟩), hcs, by omega, by simp, ?_, ?_⟩
    · intro f hf
      obtain ⟨i, hi, rfl⟩ := List.mem_map.1 hf
      have him : i < m := by have := List.mem_range.1 hi; omega
      rw [dif_pos him]
      exact (Classical.choose_spec (hs i him)).2.2
    · by_cases h0 : len = 0
      · exact .inl h0
      · right
        obtain ⟨b, off, spot⟩ := a
        have hspot : spot = none := by simpa [Addr.add] using World.cell?_spot (hc 0 (by omega)).1
        subst hspot
        have key : ∀ i (hi : i < m), w.cell? ⟨b, off + i * 2, none⟩ = some (.string (Classical.choose (hs i hi)).1) ∧ w.cell? ⟨b, off + i * 2 + 1, none⟩ = some (.string (Classical.choose (hs i hi)).2) := by
          intro i hi
          have hq := Classical.choose_spec (hs i hi)
          have hcc := hc i hi
          rw [← hq.1, ← hq.2.1]
          by_cases hi0 : i = 0
          · subst hi0
            exact ⟨by simpa [Addr.add] using hcc.1, by simpa [Addr.add] using hcc.2.1⟩
          · exact ⟨by simpa [Addr.add, show ¬ i * 2 = 0 by omega] using hcc.1, by simpa [Addr.add, Nat.add_assoc] using hcc.2.1⟩
        refine ⟨b, off, rfl, lt_of_cell (key 0 (by omega)).1, fun i hi => ?_⟩
        have hil : i < len := by simpa using hi
        have := key i (by omega)
        simpa [show i < m by omega] using this

end Go.Proofs.YthojijhafhnclarDoor
