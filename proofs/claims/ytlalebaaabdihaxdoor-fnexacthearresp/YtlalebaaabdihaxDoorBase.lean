/- Plain facts on rows of bytes that a call reads or makes: no statement of the program; no condition. -/
import Derived.WalkKit
import Derived.WalkSpells
import Derived.WalkLawsBesides
import Derived.OpenShut
namespace Go.Proofs.YtlalebaaabdihaxDoor
open Go.RowKit

/-- The slice (a, len) holds the bytes zs in the world w. -/
def Seg (w : World) (a : Option Addr) (len : Nat) (zs : List Int) : Prop :=
  zs.length = len ∧ (∀ n ∈ zs, 0 ≤ n ∧ n ≤ 255) ∧
  (len = 0 ∨ ∃ b off, a = some ⟨b, off, none⟩ ∧ b < w.heap.size ∧ ∀ i, i < len → w.cell? ⟨b, off + i, none⟩ = some (.int .u8 (zs.getD i 0)))

theorem Seg.below {w w' : World} {a : Option Addr} {len : Nat} {zs : List Int} (h : Seg w a len zs) (hb : Below w.heap.size w w') : Seg w' a len zs := by
  obtain ⟨h1, h2, h3⟩ := h
  refine ⟨h1, h2, ?_⟩
  rcases h3 with h3 | ⟨b, off, rfl, hlt, hc⟩
  · exact .inl h3
  · exact .inr ⟨b, off, rfl, Nat.lt_of_lt_of_le hlt hb.size, fun i hi => (hb.cell (p := ⟨b, off + i, none⟩) hlt).trans (hc i hi)⟩

theorem Seg.ofOwn {w : World} {base g n cap : Nat} {e : TypeId} {zs : List Int} (h : w.ownsRow base e 1 (.slice (some ⟨g, 0, none⟩) n cap) n (zs.map (Value.int .u8))) (hz : ∀ n ∈ zs, 0 ≤ n ∧ n ≤ 255) : Seg w (some ⟨g, 0, none⟩) n zs := by
  have hl : zs.length = n := by have := h.1; simpa using this
  refine ⟨hl, hz, .inr ⟨g, 0, rfl, (h.lt g rfl).2, fun i hi => ?_⟩⟩
  have := h.cellAt i (by omega)
  rw [Nat.zero_add, this]
  rw [List.getElem?_map, List.getD_eq_getElem?_getD, List.getElem?_eq_getElem (by omega)]
  rfl

theorem Seg.range {w : World} {a : Option Addr} {len : Nat} {zs : List Int} (h : Seg w a len zs) (i : Nat) : 0 ≤ zs.getD i 0 ∧ zs.getD i 0 ≤ 255 := by
  rw [List.getD_eq_getElem?_getD]
  cases hi : zs[i]? with
  | none => simp
  | some x => simpa using h.2.1 x (List.mem_of_getElem? hi)

theorem below_own {B : Nat} {w w' : World} (h : Below w.heap.size w w') (hB : B ≤ w.heap.size) {w0 : World} (h0 : Below B w0 w) : Below B w0 w' := h0.trans (h.mono hB)

theorem own_below {w w' : World} {base : Nat} {e : TypeId} {size : Nat} {v : Value} {n : Nat} {xs : List Value} (h : w.ownsRow base e size v n xs) (hb : Below w.heap.size w w') : w'.ownsRow base e size v n xs :=
  h.kept (row := none) ⟨hb.os, hb.tape, hb.output, hb.size, fun k hk _ => hb.block k hk⟩ (by
    rcases h.2 with ⟨rfl, _⟩ | ⟨g, cap, cur, rfl, _⟩
    · exact .inl rfl
    · exact .inr (by simp [Value.ownBlock]))

/-- What the proof's frame tells of a list of bytes that came in. -/
def IsRow (k : IntKind) (w : World) (a : Option Addr) (len cap : Nat) (zs : List Int) : Prop :=
  (a = none ∧ len = 0 ∧ cap = 0 ∧ zs = []) ∨
  ∃ x, a = some x ∧ len ≤ cap ∧ cap ≤ maxLen ∧ zs.length = cap ∧ (∀ i, i < zs.length → w.cell? (x.add i) = some (.int k (zs.getD i 0))) ∧ ∀ n ∈ zs, (Lit.int k n).wf = true

theorem lt_of_cell {w : World} {b off : Nat} {v : Value} (h : w.cell? ⟨b, off, none⟩ = some v) : b < w.heap.size := by
  by_cases hb : b < w.heap.size
  · exact hb
  · have : w.heap[b]? = none := by simp; omega
    simp [World.cell?, this] at h

theorem IsRow.seg {w : World} {a : Option Addr} {len cap : Nat} {zs : List Int} (h : IsRow .u8 w a len cap zs) : Seg w a len (zs.take len) := by
  rcases h with ⟨rfl, rfl, rfl, rfl⟩ | ⟨x, rfl, hl, hm, hz, hcell, hwz⟩
  · exact ⟨rfl, by simp, .inl rfl⟩
  · refine ⟨by simp; omega, fun n hn => ?_, ?_⟩
    · exact bounds_u8 (hwz n (List.mem_of_mem_take hn))
    · by_cases h0 : len = 0
      · exact .inl h0
      · obtain ⟨b, off, spot⟩ := x
        have hc := hcell 0 (by omega)
        have hspot : spot = none := by simpa [Addr.add] using World.cell?_spot hc
        subst hspot
        have hc0 : w.cell? ⟨b, off, none⟩ = some (.int .u8 (zs.getD 0 0)) := by simpa [Addr.add] using hc
        refine .inr ⟨b, off, rfl, lt_of_cell hc0, fun i hi => ?_⟩
        have := hcell i (by omega)
        rw [List.getD_eq_getElem?_getD, List.getElem?_take, if_pos hi, ← List.getD_eq_getElem?_getD]
        by_cases hi0 : i = 0
        · subst hi0
          simpa [Addr.add] using this
        · simpa [Addr.add, hi0] using this

theorem copied_step (zs : List Int) (k len : Nat) (hk : k < len) (hz : zs.length = len) :
    ((zs.take k ++ List.replicate (len - k) 0).map (Value.int .u8)).set k (.int .u8 (zs.getD k 0)) = (zs.take (k + 1) ++ List.replicate (len - (k + 1)) 0).map (Value.int .u8) := by
  have hkz : k < zs.length := by omega
  have e1 : len - k = (len - (k + 1)) + 1 := by omega
  rw [e1, List.replicate_succ, List.take_succ_eq_append_getElem hkz, List.getD_eq_getElem?_getD, List.getElem?_eq_getElem hkz]
  simp only [List.map_append, List.map_cons, List.map_nil, Option.getD_some]
  rw [List.set_append_right _ _ (by simp; omega)]
  simp [Nat.min_eq_left (Nat.le_of_lt hkz)]

end Go.Proofs.YtlalebaaabdihaxDoor
