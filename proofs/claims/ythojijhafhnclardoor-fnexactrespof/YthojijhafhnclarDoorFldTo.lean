/- The copy of fields. -/
import Derived.Test.YthojijhafhnclarDoorTiny
import Derived.Test.YthojijhafhnclarDoorTabFit
import Derived.Test.YthojijhafhnclarDoorTabRow
import Derived.Deep.QuietTactic
namespace Go.Proofs.YthojijhafhnclarDoor
open Go.RowKit
set_option linter.unusedVariables false

set_option maxHeartbeats 400000 in
theorem toField_any (x y : ByteArray) (w : World) : Calls Tryd.prog 25 #[.agg #[.string x, .string y]] w fun e w' => e = .returned (.agg #[.string x, .string y]) ∧ Below w.heap.size w w' := by
  go_enter Tryd.func25, Tryd.ntmps25
  go_wp2
  refine bodyPost_ret (v := .agg #[.string x, .string y]) (by simp [results, Tryd.f25, go_sem]) rfl ?_
  exact ⟨rfl, (((Below.refl _ _).alloc (Nat.le_refl _) _).alloc (by simp) _).alloc (by simp; omega) _⟩

set_option maxHeartbeats 400000 in
theorem toFieldS_own (a : Option Addr) (len ca : Nat) (xs : List Fld) (w : World) (hx : Flds w a len xs) (hl : len ≤ 1048576) :
    Calls Tryd.prog 13 #[.slice a len ca] w fun e w' => e = .returned (.slice (some ⟨w.heap.size, 0, none⟩) len len) ∧ w'.ownsRow w.heap.size 41 2 (.slice (some ⟨w.heap.size, 0, none⟩) len len) len (fieldCells xs) ∧ Flds w' (some ⟨w.heap.size, 0, none⟩) len xs ∧ Below w.heap.size w w' := by
  obtain ⟨i0, hi, hz0, hz1, hz2⟩ := info_parts info_field
  have HS : Hid (Flds w a len xs) := hx
  clear hx
  go_enter Tryd.func13, Tryd.ntmps13
  go_wp2_with (at_make; refine wpList_make_full _ rfl _ _ 24 rfl w.heap.size 41 i0 (.agg #[.string ⟨#[]⟩, .string ⟨#[]⟩]) 2 Tryd.underlying24 hi hz0 hz1 _ _ _ _ len rfl rfl rfl rfl (by rw [hz2]; omega) (by unfold maxLen; omega) (Nat.le_refl _) ?_; intro w1 hown hgrow)
  have hrow : w1.ownsRow w.heap.size 41 2 (.slice (some ⟨w.heap.size, 0, none⟩) len len) len (fieldCells (rowTo xs len 0)) := by
    have : (madeCells (Value.agg #[Value.string ⟨#[]⟩, Value.string ⟨#[]⟩]).cells (len * 2)).toList = fieldCells (rowTo xs len 0) := by
      rw [show (Value.agg #[Value.string ⟨#[]⟩, Value.string ⟨#[]⟩]).cells = #[Value.string ⟨#[]⟩, Value.string ⟨#[]⟩] from by kernel_rfl, made_two]
      simp only [rowTo, List.take_zero, List.nil_append, Nat.sub_zero]
      exact (fieldCells_nil len).symm
    rwa [this] at hown
  have hbel : Below w.heap.size w w1 := (Below.refl _ _).grown hgrow (Nat.le_refl _) (by simp)
  have HR := (show Hid _ from hrow)
  have HB := (show Hid _ from hbel)
  clear hown hgrow hrow hbel
  go_loopw [4] (fun i wr => ∃ k : Nat, k ≤ len ∧ i = .int .i64 k ∧ Hid (wr.ownsRow w.heap.size 41 2 (.slice (some ⟨w.heap.size, 0, none⟩) len len) len (fieldCells (rowTo xs len k))) ∧ Hid (Below w.heap.size w wr)) (fun i _ => len - (intOf i).toNat)
  case atStart => exact ⟨0, Nat.zero_le _, rfl, HR, HB⟩
  case round =>
    clear HR HB
    obtain ⟨k, hk, rfl, HO, HB⟩ := hrel
    by_cases hlt : k < len
    · obtain ⟨ba, oa, x, y, rfl, hba, hfa, ha0, ha1⟩ := HS.out.at hlt
      have ga0 : wr.cell? ⟨ba, oa + k * 2, none⟩ = some (.string x) := (HB.out.cell (p := ⟨ba, _, none⟩) hba).trans ha0
      have ga1 : wr.cell? ⟨ba, oa + k * 2 + 1, none⟩ = some (.string y) := (HB.out.cell (p := ⟨ba, _, none⟩) hba).trans ha1
      have HF : Hid (xs[k]? = some (x, y)) := hfa
      clear hfa ha0 ha1
      have hki : (k : Int) < (len : Int) := by omega
      have hk0 : (0 : Int) ≤ (k : Int) := by omega
      go_wp2_with fail
      refine (toField_any x y _).mono ?_
      rintro e x3 ⟨rfl, hb3⟩
      have HO3 : Hid (x3.ownsRow w.heap.size 41 2 (.slice (some ⟨w.heap.size, 0, none⟩) len len) len (fieldCells (rowTo xs len k))) := own_below HO.out hb3
      have HB3 : Hid (Below w.heap.size w x3) := HB.out.trans (hb3.mono HB.out.size)
      clear hb3
      have hln : (fieldCells (rowTo xs len k)).length = 2 * len := by rw [fieldCells_len, rowTo_len xs len k HS.out.1 hk]
      have f0 : x3.frozen? ⟨w.heap.size, k * 2, none⟩ = false := HO3.out.frozenAt _
      have f1 : x3.frozen? ⟨w.heap.size, k * 2 + 1, none⟩ = false := HO3.out.frozenAt _
      obtain ⟨u0, hu0⟩ : ∃ u, x3.cell? ⟨w.heap.size, k * 2, none⟩ = some u := by
        rw [HO3.out.cellAt _ (by omega)]
        exact ⟨_, List.getElem?_eq_getElem (by omega)⟩
      obtain ⟨u1, hu1⟩ : ∃ u, x3.cell? ⟨w.heap.size, k * 2 + 1, none⟩ = some u := by
        rw [HO3.out.cellAt _ (by omega)]
        exact ⟨_, List.getElem?_eq_getElem (by omega)⟩
      clear hln
      go_wp2
      go_roundw
      case rel =>
        refine ⟨k + 1, by omega, by go_num, ?_, ?_⟩
        · have h := ((HO3.out.stored (k * 2) (.string x)).1.stored (k * 2 + 1) (.string y)).1
          rw [fieldCells_set _ x y k (by rw [rowTo_len xs len k HS.out.1 hk]; exact hlt), rowTo_step xs len k x y HF.out hlt] at h
          exact h
        · exact (HB3.out.setCell (Nat.le_refl _) _).setCell (Nat.le_refl _) _
      case measure => simp [intOf]; omega
    · go_wp2
      go_ret
      have hkl : k = len := by omega
      subst hkl
      have hl1 := HS.out.1
      have h := HO.out
      rw [show rowTo xs k k = xs by simp [rowTo, List.take_of_length_le (Nat.le_of_eq hl1)]] at h
      refine ⟨rfl, h, ⟨hl1, HS.out.2.1, ?_⟩, HB.out⟩
      by_cases hz : k = 0
      · exact .inl hz
      · right
        have hc : ∀ i (hi : i < xs.length), wr.cell? ⟨w.heap.size, 0 + i * 2, none⟩ = some (.string (xs[i]).1) ∧ wr.cell? ⟨w.heap.size, 0 + i * 2 + 1, none⟩ = some (.string (xs[i]).2) := by
          intro i hi
          have := fieldCells_at xs i hi
          rw [Nat.mul_comm 2 i] at this
          rw [Nat.zero_add, h.cellAt _ (by omega), h.cellAt _ (by omega)]
          exact this
        exact ⟨_, _, rfl, lt_of_cell (hc 0 (by omega)).1, hc⟩

end Go.Proofs.YthojijhafhnclarDoor
