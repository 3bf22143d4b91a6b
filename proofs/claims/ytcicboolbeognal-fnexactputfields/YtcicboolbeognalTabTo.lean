/- The copy of a table, its size. -/
import Derived.Test.YtcicboolbeognalTabEq
import Derived.Test.YtcicboolbeognalTabRow
import Derived.Deep.QuietTactic
namespace Go.Proofs.Ytcicboolbeognal
open Go.RowKit
set_option linter.unusedVariables false

set_option maxHeartbeats 400000 in
theorem szTable_any (m : Int) (a : Option Addr) (len ca : Nat) (xs : List Fld) (n : Int) (w : World) (hx : Flds w a len xs) (hn : 0 ≤ n) (hn2 : n ≤ 1048576) (hl : len ≤ maxLen) :
    Calls Try.prog 17 #[.agg #[.int .i64 m, .slice a len ca], .int .i64 n] w fun e w' => (∃ v : Int, e = .returned (.int .i64 v) ∧ v ≤ n ∧ (0 ≤ v → v + (len + fldBytes xs) ≤ n)) ∧ Below w.heap.size w w' := by
  have HX : Hid (Flds w a len xs) := hx
  clear hx
  go_enter Try.func17, Try.ntmps17
  go_wp2_with fail
  refine (szFieldS_any a len ca xs n _ (HX.out.below ((Below.refl _ _).alloc (Nat.le_refl _) _)) hn hn2 hl).mono ?_
  rintro e x3 ⟨⟨v, rfl, hv1, hv2⟩, hb3⟩
  have HB3 : Hid (Below w.heap.size w x3) := ((Below.refl _ _).alloc (Nat.le_refl _) _).trans (hb3.mono (by simp))
  have HV : Hid (0 ≤ v → v + (len + fldBytes xs) ≤ n) := hv2
  clear hb3 hv2
  by_cases h : v < 0
  · go_wp2
    go_ret
    exact ⟨⟨_, rfl, by omega, by omega⟩, HB3.out⟩
  · go_wp2
    go_ret
    exact ⟨⟨_, rfl, hv1, HV.out⟩, HB3.out⟩

set_option maxHeartbeats 400000 in
theorem toFieldS_own (a : Option Addr) (len ca : Nat) (xs : List Fld) (w : World) (hx : Flds w a len xs) (hl : len ≤ 1048576) :
    Calls Try.prog 28 #[.slice a len ca] w fun e w' => e = .returned (.slice (some ⟨w.heap.size, 0, none⟩) len len) ∧ w'.ownsRow w.heap.size 44 2 (.slice (some ⟨w.heap.size, 0, none⟩) len len) len (fieldCells xs) ∧ Flds w' (some ⟨w.heap.size, 0, none⟩) len xs ∧ Below w.heap.size w w' := by
  obtain ⟨i0, hi, hz0, hz1, hz2⟩ := info_parts info_field
  have HS : Hid (Flds w a len xs) := hx
  clear hx
  go_enter Try.func28, Try.ntmps28
  go_wp2_with (at_make; refine wpList_make_full _ rfl _ _ 38 rfl w.heap.size 44 i0 (.agg #[.string ⟨#[]⟩, .string ⟨#[]⟩]) 2 Try.underlying38 hi hz0 hz1 _ _ _ _ len rfl rfl rfl rfl (by rw [hz2]; omega) (by unfold maxLen; omega) (Nat.le_refl _) ?_; intro w1 hown hgrow)
  have hrow : w1.ownsRow w.heap.size 44 2 (.slice (some ⟨w.heap.size, 0, none⟩) len len) len (fieldCells (rowTo xs len 0)) := by
    have : (madeCells (Value.agg #[Value.string ⟨#[]⟩, Value.string ⟨#[]⟩]).cells (len * 2)).toList = fieldCells (rowTo xs len 0) := by
      rw [show (Value.agg #[Value.string ⟨#[]⟩, Value.string ⟨#[]⟩]).cells = #[Value.string ⟨#[]⟩, Value.string ⟨#[]⟩] from by kernel_rfl, made_two]
      simp only [rowTo, List.take_zero, List.nil_append, Nat.sub_zero]
      exact (fieldCells_nil len).symm
    rwa [this] at hown
  have hbel : Below w.heap.size w w1 := (Below.refl _ _).grown hgrow (Nat.le_refl _) (by simp)
  have HR := (show Hid _ from hrow)
  have HB := (show Hid _ from hbel)
  clear hown hgrow hrow hbel
  go_loopw [4] (fun i wr => ∃ k : Nat, k ≤ len ∧ i = .int .i64 k ∧ Hid (wr.ownsRow w.heap.size 44 2 (.slice (some ⟨w.heap.size, 0, none⟩) len len) len (fieldCells (rowTo xs len k))) ∧ Hid (Below w.heap.size w wr)) (fun i _ => len - (intOf i).toNat)
  case atStart => exact ⟨0, Nat.zero_le _, rfl, HR, HB⟩
  case round =>
    clear HR HB
    obtain ⟨k, hk, rfl, HO, HB⟩ := hrel
    by_cases hlt : k < len
    · obtain ⟨ba, oa, x, y, rfl, hba, hfa, ha0, ha1⟩ := HS.out.at hlt
      have ga0 : wr.cell? ⟨ba, oa + k * 2, none⟩ = some (.string x) := (HB.out.cell (p := ⟨ba, _, none⟩) hba).trans ha0
      have ga1 : wr.cell? ⟨ba, oa + k * 2 + 1, none⟩ = some (.string y) := (HB.out.cell (p := ⟨ba, _, none⟩) hba).trans ha1
      have HF : Hid (xs[k]? = some (x, y)) := hfa
      clear hfa ha0 ha1
      have hki : (k : Int) < (len : Int) := by omega
      have hk0 : (0 : Int) ≤ (k : Int) := by omega
      go_wp2_with fail
      refine (toField_any x y _).mono ?_
      rintro e x3 ⟨rfl, hb3⟩
      have HO3 : Hid (x3.ownsRow w.heap.size 44 2 (.slice (some ⟨w.heap.size, 0, none⟩) len len) len (fieldCells (rowTo xs len k))) := own_below HO.out hb3
      have HB3 : Hid (Below w.heap.size w x3) := HB.out.trans (hb3.mono HB.out.size)
      clear hb3
      have hln : (fieldCells (rowTo xs len k)).length = 2 * len := by rw [fieldCells_len, rowTo_len xs len k HS.out.1 hk]
      have f0 : x3.frozen? ⟨w.heap.size, k * 2, none⟩ = false := HO3.out.frozenAt _
      have f1 : x3.frozen? ⟨w.heap.size, k * 2 + 1, none⟩ = false := HO3.out.frozenAt _
      obtain ⟨u0, hu0⟩ : ∃ u, x3.cell? ⟨w.heap.size, k * 2, none⟩ = some u := by
        rw [HO3.out.cellAt _ (by omega)]
        exact ⟨_, List.getElem?_eq_getElem (by omega)⟩
      obtain ⟨u1, hu1⟩ : ∃ u, x3.cell? ⟨w.heap.size, k * 2 + 1, none⟩ = some u := by
        rw [HO3.out.cellAt _ (by omega)]
        exact ⟨_, List.getElem?_eq_getElem (by omega)⟩
      clear hln
      go_wp2
      go_roundw
      case rel =>
        refine ⟨k + 1, by omega, by go_num, ?_, ?_⟩
        · have h := ((HO3.out.stored (k * 2) (.string x)).1.stored (k * 2 + 1) (.string y)).1
          rw [fieldCells_set _ x y k (by rw [rowTo_len xs len k HS.out.1 hk]; exact hlt), rowTo_step xs len k x y HF.out hlt] at h
          exact h
        · exact (HB3.out.setCell (Nat.le_refl _) _).setCell (Nat.le_refl _) _
      case measure => simp [intOf]; omega
    · go_wp2
      go_ret
      have hkl : k = len := by omega
      subst hkl
      have hl1 := HS.out.1
      have h := HO.out
      rw [show rowTo xs k k = xs by simp [rowTo, List.take_of_length_le (Nat.le_of_eq hl1)]] at h
      refine ⟨rfl, h, ⟨hl1, HS.out.2.1, ?_⟩, HB.out⟩
      by_cases hz : k = 0
      · exact .inl hz
      · right
        have hc : ∀ i (hi : i < xs.length), wr.cell? ⟨w.heap.size, 0 + i * 2, none⟩ = some (.string (xs[i]).1) ∧ wr.cell? ⟨w.heap.size, 0 + i * 2 + 1, none⟩ = some (.string (xs[i]).2) := by
          intro i hi
          have := fieldCells_at xs i hi
          rw [Nat.mul_comm 2 i] at this
          rw [Nat.zero_add, h.cellAt _ (by omega), h.cellAt _ (by omega)]
          exact this
        exact ⟨_, _, rfl, lt_of_cell (hc 0 (by omega)).1, hc⟩

set_option maxHeartbeats 400000 in
theorem toTable_own (m : Int) (a : Option Addr) (len ca : Nat) (xs : List Fld) (w : World) (hx : Flds w a len xs) (hl : len ≤ 1048576) :
    Calls Try.prog 20 #[.agg #[.int .i64 m, .slice a len ca]] w fun e w' => ∃ g, e = .returned (.agg #[.int .i64 m, .slice (some ⟨g, 0, none⟩) len len]) ∧ w.heap.size ≤ g ∧ w'.ownsRow w.heap.size 44 2 (.slice (some ⟨g, 0, none⟩) len len) len (fieldCells xs) ∧ Flds w' (some ⟨g, 0, none⟩) len xs ∧ Below w.heap.size w w' := by
  have HX : Hid (Flds w a len xs) := hx
  clear hx
  go_enter Try.func20, Try.ntmps20
  go_wp2_with fail
  have hba : Below w.heap.size w (((w.alloc (Obj.cells #[Value.int IntKind.i64 m, Value.slice a len ca] 33)).alloc (Obj.cells #[Value.int IntKind.i64 0, Value.slice none 0 0] 40)).alloc (Obj.cells #[Value.int IntKind.i64 m, Value.slice none 0 0] 40)) := (((Below.refl _ _).alloc (Nat.le_refl _) _).alloc (by simp) _).alloc (by simp; omega) _
  refine (toFieldS_own a len ca xs _ (HX.out.below hba) hl).mono ?_
  rintro e x3 ⟨rfl, ho3, hf3, hb3⟩
  rw [show (((w.alloc (Obj.cells #[Value.int IntKind.i64 m, Value.slice a len ca] 33)).alloc (Obj.cells #[Value.int IntKind.i64 0, Value.slice none 0 0] 40)).alloc (Obj.cells #[Value.int IntKind.i64 m, Value.slice none 0 0] 40)).heap.size = w.heap.size + 1 + 1 + 1 by simp] at ho3 hf3 hb3 ⊢
  have HB3 : Hid (Below w.heap.size w x3) := hba.trans (hb3.mono (by omega))
  have HF3 : Hid (Flds x3 (some ⟨w.heap.size + 1 + 1 + 1, 0, none⟩) len xs) := hf3
  have HO3 : Hid (x3.ownsRow (w.heap.size + 1 + 1 + 1) 44 2 (.slice (some ⟨w.heap.size + 1 + 1 + 1, 0, none⟩) len len) len (fieldCells xs)) := ho3
  have a0 : x3.cell? ⟨w.heap.size + 1, 0, none⟩ = some (.int .i64 0) := (hb3.cell (p := ⟨_, _, none⟩) (by dsimp only; omega)).trans (by simp [go_sem])
  have a1 : x3.cell? ⟨w.heap.size + 1, 1, none⟩ = some (.slice none 0 0) := (hb3.cell (p := ⟨_, _, none⟩) (by dsimp only; omega)).trans (by simp [go_sem])
  have b0 : x3.cell? ⟨w.heap.size + 1 + 1, 0, none⟩ = some (.int .i64 m) := (hb3.cell (p := ⟨_, _, none⟩) (by dsimp only; omega)).trans (by simp [go_sem])
  have b1 : x3.cell? ⟨w.heap.size + 1 + 1, 1, none⟩ = some (.slice none 0 0) := (hb3.cell (p := ⟨_, _, none⟩) (by dsimp only; omega)).trans (by simp [go_sem])
  have f0 : x3.frozen? ⟨w.heap.size + 1, 0, none⟩ = false := (hb3.frozen (p := ⟨_, _, none⟩) (by dsimp only; omega)).trans (by simp [go_sem])
  have f1 : x3.frozen? ⟨w.heap.size + 1, 1, none⟩ = false := (hb3.frozen (p := ⟨_, _, none⟩) (by dsimp only; omega)).trans (by simp [go_sem])
  have f2 : x3.frozen? ⟨w.heap.size + 1 + 1, 1, none⟩ = false := (hb3.frozen (p := ⟨_, _, none⟩) (by dsimp only; omega)).trans (by simp [go_sem])
  clear hb3 hba hf3 ho3
  go_wp2
  refine bodyPost_ret (v := .agg #[.int .i64 m, .slice (some ⟨w.heap.size + 1 + 1 + 1, 0, none⟩) len len]) (by simp [results, Try.f20, go_sem, a0, a1]) rfl ?_
  refine ⟨_, rfl, by omega, ?_, ?_, ?_⟩
  · have h1 := ownsRow_setCell_below (ownsRow_setCell_below (ownsRow_setCell_below HO3.out (a := ⟨w.heap.size + 1 + 1, 1, none⟩) (by dsimp only; omega) (.slice (some ⟨w.heap.size + 1 + 1 + 1, 0, none⟩) len len)) (a := ⟨w.heap.size + 1, 0, none⟩) (by dsimp only; omega) (.int .i64 m)) (a := ⟨w.heap.size + 1, 1, none⟩) (by dsimp only; omega) (.slice (some ⟨w.heap.size + 1 + 1 + 1, 0, none⟩) len len)
    refine ⟨h1.1, ?_⟩
    rcases h1.2 with h0 | ⟨g, cap, cur, he, hg, r⟩
    · exact .inl h0
    · exact .inr ⟨g, cap, cur, he, by omega, r⟩
  · exact ((HF3.out.other (by dsimp only; omega) _).other (by dsimp only; omega) _).other (by dsimp only; omega) _
  · exact ((HB3.out.setCell (by dsimp only; omega) _).setCell (by dsimp only; omega) _).setCell (by dsimp only; omega) _

theorem toTable_any (m : Int) (a : Option Addr) (len ca : Nat) (xs : List Fld) (w : World) (hx : Flds w a len xs) (hl : len ≤ 1048576) :
    Calls Try.prog 20 #[.agg #[.int .i64 m, .slice a len ca]] w fun e w' => ∃ g, e = .returned (.agg #[.int .i64 m, .slice (some ⟨g, 0, none⟩) len len]) ∧ w.heap.size ≤ g ∧ Flds w' (some ⟨g, 0, none⟩) len xs ∧ Below w.heap.size w w' :=
  (toTable_own m a len ca xs w hx hl).mono fun e w' ⟨g, h1, h2, _, h3, h4⟩ => ⟨g, h1, h2, h3, h4⟩

end Go.Proofs.Ytcicboolbeognal
