/- Rows of truths in memory: what they hold, rows that a call has made. No statement of the program but its table of types. The copy of a row of truths. -/
import Derived.Test.YtclkfjlnhcccdaaGreatDoorM39
import Derived.Deep.QuietTactic
namespace Go.Proofs.YtclkfjlnhcccdaaGreatDoor
open Go.RowKit
set_option linter.unusedVariables false

/-- The cells of a row of truths. -/
def bcells (l : List Bool) : List Value := l.map Value.bool

theorem bcells_len (l : List Bool) : (bcells l).length = l.length := List.length_map ..

theorem bcells_at (l : List Bool) (i : Nat) (hi : i < l.length) : (bcells l)[i]? = some (.bool (l[i])) := by
  simp [bcells, hi]

theorem bcells_append (l r : List Bool) : bcells (l ++ r) = bcells l ++ bcells r := by simp [bcells]

theorem bcells_set (l : List Bool) (x : Bool) (k : Nat) : (bcells l).set k (.bool x) = bcells (l.set k x) := by simp [bcells, List.map_set]

theorem bcells_one (l : List Bool) : ∀ u ∈ bcells l, u.oneCell' = true := by
  intro u hu
  simp only [bcells, List.mem_map] at hu
  obtain ⟨x, _, rfl⟩ := hu
  rfl

/-- The slice (a, n) holds the truths l in the world w. -/
def Bools (w : World) (a : Option Addr) (n : Nat) (l : List Bool) : Prop :=
  l.length = n ∧ True ∧
  (n = 0 ∨ ∃ b off, a = some ⟨b, off, none⟩ ∧ b < w.heap.size ∧ ∀ i (hi : i < l.length), w.cell? ⟨b, off + i, none⟩ = some (.bool (l[i])))

theorem Bools.below {w w' : World} {a : Option Addr} {n : Nat} {l : List Bool} (h : Bools w a n l) (hb : Below w.heap.size w w') : Bools w' a n l := by
  obtain ⟨h1, h2, h3⟩ := h
  refine ⟨h1, h2, ?_⟩
  rcases h3 with h0 | ⟨b, off, ha, hlt, hc⟩
  · exact .inl h0
  · exact .inr ⟨b, off, ha, Nat.lt_of_lt_of_le hlt hb.size, fun i hi => (hb.cell (p := ⟨b, off + i, none⟩) hlt).trans (hc i hi)⟩

/-- The cell at one index. -/
theorem Bools.at {w : World} {a : Option Addr} {n : Nat} {l : List Bool} (h : Bools w a n l) {k : Nat} (hk : k < n) : ∃ b off x, a = some ⟨b, off, none⟩ ∧ b < w.heap.size ∧ l[k]? = some x ∧ w.cell? ⟨b, off + k, none⟩ = some (.bool x) := by
  obtain ⟨h1, h2, h3⟩ := h
  rcases h3 with h0 | ⟨b, off, ha, hlt, hc⟩
  · omega
  · have hk' : k < l.length := by omega
    exact ⟨b, off, l[k], ha, hlt, List.getElem?_eq_getElem hk', hc k hk'⟩

theorem Bools.cells {w : World} {a : Option Addr} {n : Nat} {l : List Bool} (h : Bools w a n l) : ∀ ad, a = some ad → ∀ j u, (bcells l)[j]? = some u → w.cell? (ad.add j) = some u := by
  intro ad ha j u hj
  have hjl : j < l.length := by
    rw [← bcells_len]
    exact (List.getElem?_eq_some_iff.1 hj).1
  rcases h.2.2 with h0 | ⟨b, off, e, hb, hc⟩
  · have := h.1
    omega
  · rw [ha] at e
    injection e with e
    subst e
    have hadd : (⟨b, off, none⟩ : Addr).add j = ⟨b, off + j, none⟩ := by unfold Addr.add; split <;> simp_all
    rw [hadd, hc j hjl, ← bcells_at l j hjl, hj]

theorem Bools.none_nil {w : World} {a : Option Addr} {n : Nat} {l : List Bool} (h : Bools w a n l) (ha : a = none) : n = 0 := by
  rcases h.2.2 with h0 | ⟨b, off, e, _⟩
  · exact h0
  · rw [ha] at e
    cases e

theorem Bools.nil (w : World) (a : Option Addr) : Bools w a 0 [] := ⟨rfl, trivial, .inl rfl⟩

/-- A slice value that owns these truths, in a block from base on. -/
def OwnBo (w : World) (base : Nat) (v : Value) (n : Nat) (l : List Bool) : Prop := w.ownsRow base 4 1 v n (bcells l)∧ True

theorem OwnBo.len {w : World} {base n : Nat} {v : Value} {l : List Bool} (h : OwnBo w base v n l) : l.length = n := by
  have := h.1.1
  rw [bcells_len] at this
  omega

theorem OwnBo.shape {w : World} {base n : Nat} {v : Value} {l : List Bool} (h : OwnBo w base v n l) : ∃ a cap, v = .slice a n cap := by
  rcases h.1.2 with ⟨rfl, rfl⟩ | ⟨g, cap, cur, rfl, _⟩
  · exact ⟨_, _, rfl⟩
  · exact ⟨_, _, rfl⟩

theorem OwnBo.strs {w : World} {base n cap : Nat} {a : Option Addr} {l : List Bool} (h : OwnBo w base (.slice a n cap) n l) : Bools w a n l := by
  have hl := h.len
  refine ⟨hl, h.2, ?_⟩
  rcases h.1.2 with ⟨_, hn⟩ | ⟨g, cap', cur, he, hb, hg, hn, hm, hc, ht⟩
  · exact .inl hn
  · injection he with e1 e2 e3
    subst e1
    refine .inr ⟨g, 0, rfl, (Array.getElem?_eq_some_iff.1 hg).1, fun i hi => ?_⟩
    have hi' : i < n := by omega
    rw [Nat.zero_add, cell_of_row w g i cur _ (0, 0) hg, ← bcells_at l i hi, ← ht, List.getElem?_take, if_pos (by omega), Array.getElem?_toList]

theorem OwnBo.below {w w' : World} {base n : Nat} {v : Value} {l : List Bool} (h : OwnBo w base v n l) (hb : Below w.heap.size w w') : OwnBo w' base v n l := by
  refine ⟨⟨h.1.1, ?_⟩, h.2⟩
  rcases h.1.2 with h0 | ⟨g, cap, cur, he, hg, hh, r⟩
  · exact .inl h0
  · exact .inr ⟨g, cap, cur, he, hg, (hb.block g (Array.getElem?_eq_some_iff.1 hh).1).trans hh, r⟩

theorem OwnBo.grown {w w' : World} {base n : Nat} {v : Value} {l : List Bool} {r : Option Nat} (h : OwnBo w base v n l) (hg : w.grownBy w' r) (hr : ∀ q, r = some q → ∀ p m c, v = .slice (some p) m c → p.block ≠ q) : OwnBo w' base v n l := by
  refine ⟨⟨h.1.1, ?_⟩, h.2⟩
  rcases h.1.2 with h0 | ⟨g, cap, cur, he, hgb, hh, rest⟩
  · exact .inl h0
  · refine .inr ⟨g, cap, cur, he, hgb, (hg.block g (Array.getElem?_eq_some_iff.1 hh).1 ?_).trans hh, rest⟩
    intro e
    exact hr g e.symm _ _ _ he rfl

theorem info_bool : (Tryz.prog.info? 4).map (fun i => (i.zero, i.size, i.bytes)) = some (some (.bool false), 1, 1) := by kernel_rfl

/-- A row that is copied up to k. -/
def browTo (l : List Bool) (len k : Nat) : List Bool := l.take k ++ List.replicate (len - k) false

theorem browTo_step (l : List Bool) (len k : Nat) (x : Bool) (h : l[k]? = some x) (hk : k < len) : (browTo l len k).set k x = browTo l len (k + 1) := by
  have hl : k < l.length := (List.getElem?_eq_some_iff.1 h).1
  have ht : (l.take k).length = k := by simp; omega
  rw [browTo, browTo, List.set_append_right k _ (by omega), ht, Nat.sub_self, List.take_add_one, h, show len - k = (len - (k + 1)) + 1 by omega, List.replicate_succ]
  simp

theorem browTo_len (l : List Bool) (len k : Nat) (h : l.length = len) (hk : k ≤ len) : (browTo l len k).length = len := by
  simp [browTo]; omega

end Go.Proofs.YtclkfjlnhcccdaaGreatDoor

namespace Go.Proofs.YtclkfjlnhcccdaaGreatDoor
open Go.RowKit
set_option linter.unusedVariables false

set_option maxHeartbeats 400000 in
theorem toBoolS_own (a : Option Addr) (len ca : Nat) (xs : List Bool) (w : World) (hx : Bools w a len xs) (hl : len ≤ 1048576) :
    Calls Tryz.prog 16 #[.slice a len ca] w fun e w' => e = .returned (.slice (some ⟨w.heap.size, 0, none⟩) len len) ∧ OwnBo w' w.heap.size (.slice (some ⟨w.heap.size, 0, none⟩) len len) len xs ∧ Below w.heap.size w w' := by
  obtain ⟨i0, hi, hz0, hz1, hz2⟩ := info_parts info_bool
  have HS : Hid (Bools w a len xs) := hx
  clear hx
  go_enter Tryz.func16, Tryz.ntmps16
  go_wp2_with (at_make; refine wpList_make_full _ rfl _ _ 47 rfl w.heap.size 4 i0 (.bool false) 1 Tryz.underlying47 hi hz0 hz1 _ _ _ _ len rfl rfl rfl rfl (by rw [hz2]; omega) (by unfold maxLen; omega) (Nat.le_refl _) ?_; intro w1 hown hgrow)
  have hrow : w1.ownsRow w.heap.size 4 1 (.slice (some ⟨w.heap.size, 0, none⟩) len len) len (bcells (browTo xs len 0)) := by
    have : (madeCells (Value.bool false).cells (len * 1)).toList = bcells (browTo xs len 0) := by
      rw [show (Value.bool false).cells = #[Value.bool false] from rfl, toList_madeCells_one]
      simp [browTo, bcells]
    rwa [this] at hown
  have hbel : Below w.heap.size w w1 := (Below.refl _ _).grown hgrow (Nat.le_refl _) (by simp)
  have HR := (show Hid _ from hrow)
  have HB := (show Hid _ from hbel)
  clear hown hgrow hrow hbel
  go_loopw [4] (fun i wr => ∃ k : Nat, k ≤ len ∧ i = .int .i64 k ∧ Hid (wr.ownsRow w.heap.size 4 1 (.slice (some ⟨w.heap.size, 0, none⟩) len len) len (bcells (browTo xs len k))) ∧ Hid (Below w.heap.size w wr)) (fun i _ => len - (intOf i).toNat)
  case atStart => exact ⟨0, Nat.zero_le _, rfl, HR, HB⟩
  case round =>
    clear HR HB
    obtain ⟨k, hk, rfl, HO, HB⟩ := hrel
    by_cases hlt : k < len
    · obtain ⟨ba, oa, x, rfl, hba, hfa, ha0⟩ := HS.out.at hlt
      have ga0 : wr.cell? ⟨ba, oa + k, none⟩ = some (.bool x) := (HB.out.cell (p := ⟨ba, _, none⟩) hba).trans ha0
      have HF : Hid (xs[k]? = some x) := hfa
      clear hfa ha0
      have hki : (k : Int) < (len : Int) := by omega
      have hk0 : (0 : Int) ≤ (k : Int) := by omega
      have hln : (bcells (browTo xs len k)).length = len := by rw [bcells_len, browTo_len xs len k HS.out.1 hk]
      have f0 : wr.frozen? ⟨w.heap.size, k, none⟩ = false := HO.out.frozenAt _
      obtain ⟨u0, hu0⟩ : ∃ u, wr.cell? ⟨w.heap.size, k, none⟩ = some u := by
        rw [HO.out.cellAt _ (by omega)]
        exact ⟨_, List.getElem?_eq_getElem (by omega)⟩
      clear hln
      go_wp2
      go_roundw
      case rel =>
        refine ⟨k + 1, by omega, by go_num, ?_, ?_⟩
        · have h := (HO.out.stored k (.bool x)).1
          rw [bcells_set, browTo_step xs len k x HF.out hlt] at h
          exact h
        · exact HB.out.setCell (Nat.le_refl _) _
      case measure => simp [intOf]; omega
    · go_wp2
      go_ret
      have hkl : k = len := by omega
      subst hkl
      have hl1 := HS.out.1
      have h := HO.out
      rw [show browTo xs k k = xs by simp [browTo, List.take_of_length_le (Nat.le_of_eq hl1)]] at h
      exact ⟨rfl, ⟨h, HS.out.2.1⟩, HB.out⟩

end Go.Proofs.YtclkfjlnhcccdaaGreatDoor
