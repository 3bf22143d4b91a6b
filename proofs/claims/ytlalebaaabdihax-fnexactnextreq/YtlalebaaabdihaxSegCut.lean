/- Pieces of a list of bytes. No program in it. -/
import Derived.Test.YtlalebaaabdihaxBase
namespace Go.Proofs.Ytlalebaaabdihax
open Go.RowKit
set_option linter.unusedVariables false

theorem seg_part {w : World} {b off len : Nat} {zs : List Int} (h : Seg w (some ⟨b, off, none⟩) len zs) (T n : Nat) (hT : T + n ≤ len) : Seg w (some ⟨b, off + T, none⟩) n ((zs.drop T).take n) := by
  have hl := h.1
  refine ⟨by rw [List.length_take, List.length_drop]; omega, fun x hx => h.2.1 x (List.mem_of_mem_drop (List.mem_of_mem_take hx)), ?_⟩
  rcases h.2.2 with h0 | ⟨b', off', e, hb, hc⟩
  · exact .inl (by omega)
  · simp only [Option.some.injEq, Addr.mk.injEq, and_true] at e
    obtain ⟨rfl, rfl⟩ := e
    refine .inr ⟨b, off + T, rfl, hb, fun i hi => ?_⟩
    rw [Nat.add_assoc, hc (T + i) (by omega)]
    rw [List.getD_eq_getElem?_getD, List.getD_eq_getElem?_getD, List.getElem?_take, if_pos hi, List.getElem?_drop]

theorem seg_empty {w : World} (a : Option Addr) : Seg w a 0 [] := ⟨rfl, by simp, .inl rfl⟩

theorem seg_some {w : World} {a : Option Addr} {len : Nat} {zs : List Int} (h : Seg w a len zs) (hl : 0 < len) : ∃ b off, a = some ⟨b, off, none⟩ ∧ w.cell? ⟨b, off, none⟩ = some (.int .u8 (zs.getD 0 0)) := by
  rcases h.2.2 with h0 | ⟨b, off, e, _, hc⟩
  · omega
  · exact ⟨b, off, e, by simpa using hc 0 hl⟩

/-- A piece of a list of bytes, by an address that may have stayed where it was if nothing is left. -/
theorem seg_cut {w : World} {b off len : Nat} {zs : List Int} (h : Seg w (some ⟨b, off, none⟩) len zs) (T n o : Nat) (hT : T + n ≤ len) (ho : o = off + T ∨ n = 0) : Seg w (some ⟨b, o, none⟩) n ((zs.drop T).take n) := by
  rcases ho with rfl | rfl
  · exact seg_part h T n hT
  · exact ⟨by simp, by simp, .inl rfl⟩

end Go.Proofs.Ytlalebaaabdihax
