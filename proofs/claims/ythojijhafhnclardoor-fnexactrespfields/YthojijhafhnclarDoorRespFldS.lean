/- What the specification's RespFields answers: the fields of an answer. -/
import Derived.Test.YthojijhafhnclarDoorRespFldN
import Derived.Test.YthojijhafhnclarDoorRespOkS
import Derived.Test.YthojijhafhnclarDoorReqTxtS
import Derived.Test.YthojijhafhnclarDoorTabOwn
import Derived.Test.YthojijhafhnclarDoorTabRow
import Derived.Test.YthojijhafhnclarDoorBox4
import Derived.Lib.Strings
import Derived.Deep.CutBlock
namespace Go.Proofs.YthojijhafhnclarDoor
open Go.RowKit
set_option linter.unusedVariables false

theorem specTxt_any (n : Int) (w : World) (h : 0 ≤ n) (h2 : n ≤ 4294967295) : Calls Tryd.prog 17 #[.int .i64 n] w fun e w' => e = .returned (.string (numT n)) ∧ Below w.heap.size w w' := by
  obtain ⟨u, rfl⟩ := Int.eq_ofNat_of_zero_le h
  exact l1Text_any u w (by omega)

set_option maxRecDepth 10000 in
set_option maxHeartbeats 1600000 in
theorem specRespF_any (st off : Int) (w : World) :
    Calls Tryd.prog 5 #[.agg #[.int .i64 st, .int .i64 off]] w fun e w' => ∃ A C, e = .returned (.slice A (respF st off).length C) ∧ OwnF w' w.heap.size (.slice A (respF st off).length C) (respF st off).length (respF st off) ∧ Below w.heap.size w w' := by
  have HB0 : Hid (Below w.heap.size w (w.alloc (.cells #[.int .i64 st, .int .i64 off] 26))) := (Below.refl _ _).alloc (Nat.le_refl _) _
  have HX0 : Hid ((w.alloc (.cells #[.int .i64 st, .int .i64 off] 26)).heap[w.heap.size]? = some (.cells #[.int .i64 st, .int .i64 off] 26 (0, 0))) := heap_alloc_new w _
  go_enter Tryd.func5, Tryd.ntmps5
  go_wp2_with fail
  obtain ⟨w1, hw1⟩ : ∃ w1, w.alloc (.cells #[.int .i64 st, .int .i64 off] 26) = w1 := ⟨_, rfl⟩
  rw [hw1] at HB0 HX0 ⊢
  clear hw1
  have hlt1 : w.heap.size < w1.heap.size := (Array.getElem?_eq_some_iff.1 HX0.out).1
  refine (specRespOk_any st off w1).mono ?_
  rintro e w2 ⟨rfl, hb2⟩
  have HX2 : Hid (w2.heap[w.heap.size]? = some (.cells #[.int .i64 st, .int .i64 off] 26 (0, 0))) := (hb2.block _ hlt1).trans HX0.out
  have HB2 : Hid (Below w.heap.size w w2) := HB0.out.trans (hb2.mono HB0.out.size)
  clear hb2 HX0 HB0 hlt1
  cases hrq : respB st off
  · have HF : Hid (respF st off = []) := by show _ = _; rw [respF, hrq]; rfl
    have HO : Hid ((w2.alloc (.cells #[] 41)).ownsRow w2.heap.size 41 2 (.slice (some ⟨w2.heap.size, 0, none⟩) 0 0) 0 []) := World.ownsRow_lit w2 #[] 0 (Nat.le_refl _) (Nat.zero_le _) rfl
    go_wp2_with fail
    go_ret
    exact ⟨_, _, by rw [HF.out]; rfl, by rw [HF.out]; exact ⟨own_low HO.out HB2.out.size, by simp⟩, HB2.out.alloc HB2.out.size _⟩
  have HF : Hid (respF st off = (⟨#[58, 115, 116, 97, 116, 117, 115]⟩, numT st) :: (if off < 0 then [] else [(⟨#[117, 112, 108, 111, 97, 100, 45, 111, 102, 102, 115, 101, 116]⟩, numT off)])) := by show _ = _; rw [respF, hrq]; rfl
  simp only [respB, Bool.and_eq_true, decide_eq_true_eq] at hrq
  obtain ⟨hst, hof⟩ := hrq
  have HSz : Hid ((numT st).size ≤ 10) := numT_size (by omega) (by omega)
  have HTs : Hid (∀ W : World, Calls Tryd.prog 17 #[.int .i64 st] W fun e w' => e = .returned (.string (numT st)) ∧ Below W.heap.size W w') := fun W => specTxt_any st W (by omega) (by omega)
  generalize numT st = stt at *
  have hlt2 : w.heap.size < w2.heap.size := (Array.getElem?_eq_some_iff.1 HX2.out).1
  have c0 : w2.cell? ⟨w.heap.size, 0, none⟩ = some (.int .i64 st) := by rw [cell_of_row _ _ _ _ _ _ HX2.out]; rfl
  go_wp2_with fail
  refine (HTs.out _).mono ?_
  rintro e w3 ⟨rfl, hb3⟩
  have HB3 : Hid (Below w.heap.size w w3) := HB2.out.trans (hb3.mono HB2.out.size)
  have hx3 : w3.heap[w.heap.size]? = some (.cells #[.int .i64 st, .int .i64 off] 26 (0, 0)) := (hb3.block _ hlt2).trans HX2.out
  have hlt3 : w.heap.size < w3.heap.size := (Array.getElem?_eq_some_iff.1 hx3).1
  have HO3 : Hid (OwnF (w3.alloc (.cells #[.string ⟨#[58, 115, 116, 97, 116, 117, 115]⟩, .string stt] 41)) w.heap.size (.slice (some ⟨w3.heap.size, 0, none⟩) 1 1) 1 [(⟨#[58, 115, 116, 97, 116, 117, 115]⟩, stt)]) := by
    refine ⟨own_low (World.ownsRow_lit w3 _ 1 (Nat.le_refl _) (by unfold maxLen; omega) rfl) HB3.out.size, ?_⟩
    intro f hf
    obtain rfl : f = (⟨#[58, 115, 116, 97, 116, 117, 115]⟩, stt) := by simpa using hf
    have := HSz.out
    unfold maxLen
    exact ⟨by dsimp only; decide, by dsimp only; omega⟩
  have HBa : Hid (Below w.heap.size w (w3.alloc (.cells #[.string ⟨#[58, 115, 116, 97, 116, 117, 115]⟩, .string stt] 41))) := HB3.out.alloc HB3.out.size _
  have HXa : Hid ((w3.alloc (.cells #[.string ⟨#[58, 115, 116, 97, 116, 117, 115]⟩, .string stt] 41)).heap[w.heap.size]? = some (.cells #[.int .i64 st, .int .i64 off] 26 (0, 0))) := (heap_alloc_old w3 _ hlt3).trans hx3
  clear hb3 HTs HX2 HB2 c0 hx3
  go_upto_region 4 with fail
  obtain ⟨w4, hw4⟩ : ∃ w4, w3.alloc (.cells #[.string ⟨#[58, 115, 116, 97, 116, 117, 115]⟩, .string stt] 41) = w4 := ⟨_, rfl⟩
  rw [hw4] at HO3 HBa HXa ⊢
  clear hw4 HB3 hlt3 hlt2
  generalize w3.heap.size = g at *
  have c1 : w4.cell? ⟨w.heap.size, 1, none⟩ = some (.int .i64 off) := by rw [cell_of_row _ _ _ _ _ _ HXa.out]; rfl
  by_cases ho : off < 0
  · have HF2 : Hid (respF st off = [(⟨#[58, 115, 116, 97, 116, 117, 115]⟩, stt)]) := by show _ = _; rw [HF.out, if_pos ho]
    go_wp2_with fail
    go_ret
    exact ⟨_, _, by rw [HF2.out]; rfl, by rw [HF2.out]; exact HO3.out, HBa.out⟩
  have HF2 : Hid (respF st off = [(⟨#[58, 115, 116, 97, 116, 117, 115]⟩, stt), (⟨#[117, 112, 108, 111, 97, 100, 45, 111, 102, 102, 115, 101, 116]⟩, numT off)]) := by show _ = _; rw [HF.out, if_neg ho]
  have HDs : Hid ((numT off).size ≤ 10) := numT_size (by omega) (by omega)
  have HTo : Hid (∀ W : World, Calls Tryd.prog 17 #[.int .i64 off] W fun e w' => e = .returned (.string (numT off)) ∧ Below W.heap.size W w') := fun W => specTxt_any off W (by omega) (by omega)
  generalize numT off = dt at *
  clear HF
  go_wp2_with fail
  refine (HTo.out _).mono ?_
  rintro e w5 ⟨rfl, hb5⟩
  obtain ⟨i0, hi, hz0, hz1, hz2⟩ := info_parts info_field
  have HB5 : Hid (Below w.heap.size w w5) := HBa.out.trans (hb5.mono HBa.out.size)
  have HO6 : Hid ((w5.alloc (.cells #[.string ⟨#[117, 112, 108, 111, 97, 100, 45, 111, 102, 102, 115, 101, 116]⟩, .string dt] 41)).ownsRow w.heap.size 41 2 (.slice (some ⟨g, 0, none⟩) 1 1) 1 (fieldCells [(⟨#[58, 115, 116, 97, 116, 117, 115]⟩, stt)])) := own_below (own_below HO3.out.1 hb5) ((Below.refl _ _).alloc (Nat.le_refl _) _)
  have HNw : Hid (∀ j v, (fieldCells [((⟨#[117, 112, 108, 111, 97, 100, 45, 111, 102, 102, 115, 101, 116]⟩ : ByteArray), dt)])[j]? = some v → (w5.alloc (.cells #[.string ⟨#[117, 112, 108, 111, 97, 100, 45, 111, 102, 102, 115, 101, 116]⟩, .string dt] 41)).cell? ((⟨w5.heap.size, 0, none⟩ : Addr).add j) = some v) := by
    intro j v hj
    have : j = 0 ∨ j = 1 := by
      have := (List.getElem?_eq_some_iff.1 hj).1
      simp [fieldCells] at this
      omega
    rw [Addr.add_lit, cell_of_row _ _ _ _ _ _ (heap_alloc_new w5 _)]
    rcases this with rfl | rfl <;> simpa [fieldCells] using hj
  have HV : Hid (∀ f ∈ [(⟨#[58, 115, 116, 97, 116, 117, 115]⟩, stt)] ++ [((⟨#[117, 112, 108, 111, 97, 100, 45, 111, 102, 102, 115, 101, 116]⟩ : ByteArray), dt)], f.1.size ≤ maxLen ∧ f.2.size ≤ maxLen) := fun f hf => by
    rcases List.mem_append.1 hf with h | h
    · exact HO3.out.2 f h
    · obtain rfl : f = (⟨#[117, 112, 108, 111, 97, 100, 45, 111, 102, 102, 115, 101, 116]⟩, dt) := by simpa using h
      have h2 := HDs.out
      unfold maxLen
      exact ⟨by dsimp only; decide, by dsimp only; omega⟩
  clear hb5 HTo HXa c1
  go_wp2_with (at_builtin; refine wpList_append_own _ rfl _ _ 24 rfl w.heap.size 41 i0 (.agg #[.string ⟨#[]⟩, .string ⟨#[]⟩]) 2 32 Tryd.underlying24 hi hz0 hz1 hz2 rfl (by decide) (.slice (some ⟨g, 0, none⟩) 1 1) 1 (fieldCells [(⟨#[58, 115, 116, 97, 116, 117, 115]⟩, stt)]) rfl HO6.out ⟨w5.heap.size, 0, none⟩ 1 1 (fieldCells [((⟨#[117, 112, 108, 111, 97, 100, 45, 111, 102, 102, 115, 101, 116]⟩ : ByteArray), dt)]) rfl rfl HNw.out (fieldCells_one _) (by unfold maxLen; omega) (by omega) (by have := HB5.out.size; simp; omega) ?_; intro v1 w6 hown1 hgrow1 _; refine Hid.out ?_)
  refine hidden ?_
  obtain ⟨a6, c6, rfl⟩ := OwnF.shape (xs := [(⟨#[58, 115, 116, 97, 116, 117, 115]⟩, stt)] ++ [((⟨#[117, 112, 108, 111, 97, 100, 45, 111, 102, 102, 115, 101, 116]⟩ : ByteArray), dt)]) ⟨by rw [fieldCells_append]; exact hown1, HV.out⟩
  have HO7 : Hid (OwnF w6 w.heap.size (.slice a6 2 c6) 2 ([(⟨#[58, 115, 116, 97, 116, 117, 115]⟩, stt)] ++ [((⟨#[117, 112, 108, 111, 97, 100, 45, 111, 102, 102, 115, 101, 116]⟩ : ByteArray), dt)])) := ⟨by rw [fieldCells_append]; exact hown1, HV.out⟩
  have HB7 : Hid (Below w.heap.size w w6) := (HB5.out.alloc HB5.out.size _).grown hgrow1 (by have := HB5.out.size; simp; omega) (fun q hq => (HO6.out.lt q hq).1)
  clear hown1 hgrow1 HO6 HNw
  go_wp2_with fail
  go_ret
  exact ⟨a6, c6, by rw [HF2.out]; rfl, by rw [HF2.out]; exact HO7.out, HB7.out⟩

end Go.Proofs.YthojijhafhnclarDoor
