/- The copy of a row of texts. -/
import Derived.Test.YtnbmlkkjgecigarStrRow
namespace Go.Proofs.Ytnbmlkkjgecigar
open Go.RowKit
set_option linter.unusedVariables false

set_option maxHeartbeats 400000 in
theorem toStrS_own (a : Option Addr) (len ca : Nat) (xs : List ByteArray) (w : World) (hx : Strs w a len xs) (hl : len ≤ 1048576) :
    Calls Try.prog 24 #[.slice a len ca] w fun e w' => e = .returned (.slice (some ⟨w.heap.size, 0, none⟩) len len) ∧ OwnSt w' w.heap.size (.slice (some ⟨w.heap.size, 0, none⟩) len len) len xs ∧ Below w.heap.size w w' := by
  obtain ⟨i0, hi, hz0, hz1, hz2⟩ := info_parts info_string
  have HS : Hid (Strs w a len xs) := hx
  clear hx
  go_enter Try.func24, Try.ntmps24
  go_wp2_with (at_make; refine wpList_make_full _ rfl _ _ 22 rfl w.heap.size 9 i0 (.string ⟨#[]⟩) 1 Try.underlying22 hi hz0 hz1 _ _ _ _ len rfl rfl rfl rfl (by rw [hz2]; omega) (by unfold maxLen; omega) (Nat.le_refl _) ?_; intro w1 hown hgrow)
  have hrow : w1.ownsRow w.heap.size 9 1 (.slice (some ⟨w.heap.size, 0, none⟩) len len) len (scells (srowTo xs len 0)) := by
    have : (madeCells (Value.string ⟨#[]⟩).cells (len * 1)).toList = scells (srowTo xs len 0) := by
      rw [show (Value.string ⟨#[]⟩).cells = #[Value.string ⟨#[]⟩] from rfl, toList_madeCells_one]
      simp [srowTo, scells]
    rwa [this] at hown
  have hbel : Below w.heap.size w w1 := (Below.refl _ _).grown hgrow (Nat.le_refl _) (by simp)
  have HR := (show Hid _ from hrow)
  have HB := (show Hid _ from hbel)
  clear hown hgrow hrow hbel
  go_loopw [4] (fun i wr => ∃ k : Nat, k ≤ len ∧ i = .int .i64 k ∧ Hid (wr.ownsRow w.heap.size 9 1 (.slice (some ⟨w.heap.size, 0, none⟩) len len) len (scells (srowTo xs len k))) ∧ Hid (Below w.heap.size w wr)) (fun i _ => len - (intOf i).toNat)
  case atStart => exact ⟨0, Nat.zero_le _, rfl, HR, HB⟩
  case round =>
    clear HR HB
    obtain ⟨k, hk, rfl, HO, HB⟩ := hrel
    by_cases hlt : k < len
    · obtain ⟨ba, oa, x, rfl, hba, hfa, ha0⟩ := HS.out.at hlt
      have ga0 : wr.cell? ⟨ba, oa + k, none⟩ = some (.string x) := (HB.out.cell (p := ⟨ba, _, none⟩) hba).trans ha0
      have HF : Hid (xs[k]? = some x) := hfa
      clear hfa ha0
      have hki : (k : Int) < (len : Int) := by omega
      have hk0 : (0 : Int) ≤ (k : Int) := by omega
      have hln : (scells (srowTo xs len k)).length = len := by rw [scells_len, srowTo_len xs len k HS.out.1 hk]
      have f0 : wr.frozen? ⟨w.heap.size, k, none⟩ = false := HO.out.frozenAt _
      obtain ⟨u0, hu0⟩ : ∃ u, wr.cell? ⟨w.heap.size, k, none⟩ = some u := by
        rw [HO.out.cellAt _ (by omega)]
        exact ⟨_, List.getElem?_eq_getElem (by omega)⟩
      clear hln
      go_wp2
      go_roundw
      case rel =>
        refine ⟨k + 1, by omega, by go_num, ?_, ?_⟩
        · have h := (HO.out.stored k (.string x)).1
          rw [scells_set, srowTo_step xs len k x HF.out hlt] at h
          exact h
        · exact HB.out.setCell (Nat.le_refl _) _
      case measure => simp [intOf]; omega
    · go_wp2
      go_ret
      have hkl : k = len := by omega
      subst hkl
      have hl1 := HS.out.1
      have h := HO.out
      rw [show srowTo xs k k = xs by simp [srowTo, List.take_of_length_le (Nat.le_of_eq hl1)]] at h
      exact ⟨rfl, ⟨h, HS.out.2.1⟩, HB.out⟩

end Go.Proofs.Ytnbmlkkjgecigar
