/- What the program's RespFields answers: the fields of an answer, in memory of its own. Under the library's table. -/
import Derived.Test.YthojijhafhnclaeDoorRespOkI
import Derived.Test.YthojijhafhnclaeDoorRespNs
import Derived.Test.YthojijhafhnclaeDoorTextI
import Derived.Test.YthojijhafhnclaeDoorTabOwn
import Derived.Test.YthojijhafhnclaeDoorTabRow
import Derived.Deep.CutBlock
namespace Go.Proofs.YthojijhafhnclaeDoor
open Go.RowKit
set_option linter.unusedVariables false

theorem txt_numT {n : Int} (h : 0 ≤ n) (h2 : n ≤ 1000000000) : (⟨(txt n).toArray⟩ : ByteArray) = numT n := by rw [txt, if_pos ⟨h, h2⟩, numT]

theorem field_newR (y : World) (p q : ByteArray) : ∀ j v, (fieldCells [(p, q)])[j]? = some v → (y.alloc (.cells #[.string p, .string q] 38)).cell? ((⟨y.heap.size, 0, none⟩ : Addr).add j) = some v := by
  intro j v hj
  have : j = 0 ∨ j = 1 := by
    have := (List.getElem?_eq_some_iff.1 hj).1
    simp [fieldCells] at this
    omega
  rw [Addr.add_lit, cell_of_row _ _ _ _ _ _ (heap_alloc_new y _)]
  rcases this with rfl | rfl <;> simpa [fieldCells] using hj

set_option maxRecDepth 10000 in
set_option maxHeartbeats 1600000 in
theorem implRespF_any (st off : Int) (w : World) (hst : TabT w) :
    Calls Tryd.prog 10 #[.agg #[.int .i64 st, .int .i64 off]] w fun e w' => ∃ A C, e = .returned (.slice A (respF st off).length C) ∧ OwnF w' w.heap.size (.slice A (respF st off).length C) (respF st off).length (respF st off) ∧ Below w.heap.size w w' := by
  have HS : Hid (TabT w) := hst
  clear hst
  have HB0 : Hid (Below w.heap.size w (w.alloc (.cells #[.int .i64 st, .int .i64 off] 27))) := (Below.refl _ _).alloc (Nat.le_refl _) _
  have HX0 : Hid (Box2R (w.alloc (.cells #[.int .i64 st, .int .i64 off] 27)) w.heap.size 27 (.int .i64 st) (.int .i64 off)) := Box2R.new _ _ _ _
  go_enter Tryd.func10, Tryd.ntmps10
  go_wp2_with fail
  obtain ⟨w1, hw1⟩ : ∃ w1, w.alloc (.cells #[.int .i64 st, .int .i64 off] 27) = w1 := ⟨_, rfl⟩
  rw [hw1] at HB0 HX0 ⊢
  clear hw1
  refine (implRespOk_any st off w1).mono ?_
  rintro e w2 ⟨rfl, hb2⟩
  have HX2 := (show Hid (Box2R w2 w.heap.size 27 (.int .i64 st) (.int .i64 off)) from HX0.out.stays hb2)
  have HB2 : Hid (Below w.heap.size w w2) := HB0.out.trans (hb2.mono HB0.out.size)
  clear hb2 HX0 HB0
  cases hrq : respB st off
  · have HF : Hid (respF st off = []) := by show _ = _; rw [respF, hrq]; rfl
    have HO : Hid ((w2.alloc (.cells #[] 38)).ownsRow w2.heap.size 38 2 (.slice (some ⟨w2.heap.size, 0, none⟩) 0 0) 0 []) := World.ownsRow_lit w2 #[] 0 (Nat.le_refl _) (Nat.zero_le _) rfl
    go_wp2_with fail
    go_ret
    exact ⟨_, _, by rw [HF.out]; rfl, by rw [HF.out]; exact ⟨own_low HO.out HB2.out.size, by simp⟩, HB2.out.alloc HB2.out.size _⟩
  have HF : Hid (respF st off = (⟨#[58, 115, 116, 97, 116, 117, 115]⟩, numT st) :: (if off < 0 then [] else [(⟨#[117, 112, 108, 111, 97, 100, 45, 111, 102, 102, 115, 101, 116]⟩, numT off)])) := by show _ = _; rw [respF, hrq]; rfl
  simp only [respB, Bool.and_eq_true, decide_eq_true_eq] at hrq
  obtain ⟨hst, hof⟩ := hrq
  have HSz : Hid ((numT st).size ≤ 10) := numT_size (by omega) (by omega)
  have HTs : Hid (∀ W : World, Below w.heap.size w W → Calls Tryd.prog 26 #[.int .i64 st] W fun e w' => e = .returned (.string (numT st)) ∧ Below W.heap.size W w') := fun W hW => by
    rw [← txt_numT (by omega) (by omega)]
    exact implText_any st W (HS.out.below hW)
  have HTo : Hid (0 ≤ off → ∀ W : World, Below w.heap.size w W → Calls Tryd.prog 26 #[.int .i64 off] W fun e w' => e = .returned (.string (numT off)) ∧ Below W.heap.size W w') := fun h W hW => by
    rw [← txt_numT h (by omega)]
    exact implText_any off W (HS.out.below hW)
  generalize numT st = stt at *
  obtain ⟨c0, c1⟩ := HX2.out.cells
  go_wp2_with fail
  refine (HTs.out w2 HB2.out).mono ?_
  rintro e w3 ⟨rfl, hb3⟩
  have HX3 := (show Hid (Box2R w3 w.heap.size 27 (.int .i64 st) (.int .i64 off)) from HX2.out.stays hb3)
  have HB3 : Hid (Below w.heap.size w w3) := HB2.out.trans (hb3.mono HB2.out.size)
  clear hb3 HX2 HB2 c0 c1 HTs
  have HO4 : Hid (OwnF (w3.alloc (.cells #[.string ⟨#[58, 115, 116, 97, 116, 117, 115]⟩, .string stt] 38)) w.heap.size (.slice (some ⟨w3.heap.size, 0, none⟩) 1 1) 1 [(⟨#[58, 115, 116, 97, 116, 117, 115]⟩, stt)]) := by
    refine ⟨own_low (World.ownsRow_lit w3 _ 1 (Nat.le_refl _) (by unfold maxLen; omega) rfl) HB3.out.size, ?_⟩
    intro f hf
    obtain rfl : f = (⟨#[58, 115, 116, 97, 116, 117, 115]⟩, stt) := by simpa using hf
    have := HSz.out
    unfold maxLen
    exact ⟨by dsimp only; decide, by dsimp only; omega⟩
  have HB4 : Hid (Below w.heap.size w (w3.alloc (.cells #[.string ⟨#[58, 115, 116, 97, 116, 117, 115]⟩, .string stt] 38))) := HB3.out.alloc HB3.out.size _
  have HX4 : Hid (Box2R (w3.alloc (.cells #[.string ⟨#[58, 115, 116, 97, 116, 117, 115]⟩, .string stt] 38)) w.heap.size 27 (.int .i64 st) (.int .i64 off)) := HX3.out.alloc _
  have hgw3 : w.heap.size < w3.heap.size := HX3.out.lt
  go_upto_region 4 with fail
  obtain ⟨w4, hw4⟩ : ∃ w4, w3.alloc (.cells #[.string ⟨#[58, 115, 116, 97, 116, 117, 115]⟩, .string stt] 38) = w4 := ⟨_, rfl⟩
  rw [hw4] at HO4 HB4 HX4 ⊢
  clear hw4 HX3 HB3
  generalize w3.heap.size = g3 at *
  obtain ⟨d0, d1⟩ := HX4.out.cells
  by_cases ho : off < 0
  · have hom : off = -1 := by omega
    have hoe : (off == -1) = true := by simpa using hom
    have hon : (off != -1) = false := by simpa using hom
    have HF2 : Hid (respF st off = [(⟨#[58, 115, 116, 97, 116, 117, 115]⟩, stt)]) := by show _ = _; rw [HF.out, if_pos ho]
    go_wp2_with fail
    go_ret
    exact ⟨_, _, by rw [HF2.out]; rfl, by rw [HF2.out]; exact HO4.out, HB4.out⟩
  have hoe : (off == -1) = false := by simp; omega
  have hon : (off != -1) = true := by simp; omega
  have HF2 : Hid (respF st off = [(⟨#[58, 115, 116, 97, 116, 117, 115]⟩, stt)] ++ [(⟨#[117, 112, 108, 111, 97, 100, 45, 111, 102, 102, 115, 101, 116]⟩, numT off)]) := by show _ = _; rw [HF.out, if_neg ho]; rfl
  have HDs : Hid ((numT off).size ≤ 10) := numT_size (by omega) (by omega)
  have HTx := (show Hid (∀ W : World, Below w.heap.size w W → Calls Tryd.prog 26 #[.int .i64 off] W fun e w' => e = .returned (.string (numT off)) ∧ Below W.heap.size W w') from HTo.out (by omega))
  generalize numT off = dt at *
  clear HF HTo
  go_wp2_with fail
  obtain ⟨i0, hi, hz0, hz1, hz2⟩ := info_parts info_field
  have HV : Hid (∀ f ∈ [(⟨#[58, 115, 116, 97, 116, 117, 115]⟩, stt)] ++ [((⟨#[117, 112, 108, 111, 97, 100, 45, 111, 102, 102, 115, 101, 116]⟩ : ByteArray), dt)], f.1.size ≤ maxLen ∧ f.2.size ≤ maxLen) := fun f hf => by
    rcases List.mem_append.1 hf with h | h
    · exact HO4.out.2 f h
    · obtain rfl : f = (⟨#[117, 112, 108, 111, 97, 100, 45, 111, 102, 102, 115, 101, 116]⟩, dt) := by simpa using h
      have h2 := HDs.out
      unfold maxLen
      exact ⟨by dsimp only; decide, by dsimp only; omega⟩
  refine (HTx.out w4 HB4.out).mono ?_
  rintro e w5 ⟨rfl, hb5⟩
  have HB5 : Hid (Below w.heap.size w w5) := HB4.out.trans (hb5.mono HB4.out.size)
  have HO6 : Hid ((w5.alloc (.cells #[.string ⟨#[117, 112, 108, 111, 97, 100, 45, 111, 102, 102, 115, 101, 116]⟩, .string dt] 38)).ownsRow w.heap.size 38 2 (.slice (some ⟨g3, 0, none⟩) 1 1) 1 (fieldCells [(⟨#[58, 115, 116, 97, 116, 117, 115]⟩, stt)])) := own_below (own_below HO4.out.1 hb5) ((Below.refl _ _).alloc (Nat.le_refl _) _)
  have HNw : Hid (∀ j v, (fieldCells [((⟨#[117, 112, 108, 111, 97, 100, 45, 111, 102, 102, 115, 101, 116]⟩ : ByteArray), dt)])[j]? = some v → (w5.alloc (.cells #[.string ⟨#[117, 112, 108, 111, 97, 100, 45, 111, 102, 102, 115, 101, 116]⟩, .string dt] 38)).cell? ((⟨w5.heap.size, 0, none⟩ : Addr).add j) = some v) := field_newR w5 _ dt
  clear hb5 HTx HX4 d0 d1
  go_wp2_with (at_builtin; refine wpList_append_own _ rfl _ _ 30 rfl w.heap.size 38 i0 (.agg #[.string ⟨#[]⟩, .string ⟨#[]⟩]) 2 32 Tryd.underlying30 hi hz0 hz1 hz2 rfl (by decide) (.slice (some ⟨g3, 0, none⟩) 1 1) 1 (fieldCells [(⟨#[58, 115, 116, 97, 116, 117, 115]⟩, stt)]) rfl HO6.out ⟨w5.heap.size, 0, none⟩ 1 1 (fieldCells [((⟨#[117, 112, 108, 111, 97, 100, 45, 111, 102, 102, 115, 101, 116]⟩ : ByteArray), dt)]) rfl rfl HNw.out (fieldCells_one _) (by unfold maxLen; omega) (by omega) (by have := HB5.out.size; simp; omega) ?_; intro v1 w6 hown1 hgrow1 _; refine Hid.out ?_)
  refine hidden ?_
  obtain ⟨a6, c6, rfl⟩ := OwnF.shape (xs := [(⟨#[58, 115, 116, 97, 116, 117, 115]⟩, stt)] ++ [((⟨#[117, 112, 108, 111, 97, 100, 45, 111, 102, 102, 115, 101, 116]⟩ : ByteArray), dt)]) ⟨by rw [fieldCells_append]; exact hown1, HV.out⟩
  have HO7 : Hid (OwnF w6 w.heap.size (.slice a6 2 c6) 2 ([(⟨#[58, 115, 116, 97, 116, 117, 115]⟩, stt)] ++ [((⟨#[117, 112, 108, 111, 97, 100, 45, 111, 102, 102, 115, 101, 116]⟩ : ByteArray), dt)])) := ⟨by rw [fieldCells_append]; exact hown1, HV.out⟩
  have HB7 : Hid (Below w.heap.size w w6) := (HB5.out.alloc HB5.out.size _).grown hgrow1 (by have := HB5.out.size; simp; omega) (fun q hq => (HO6.out.lt q hq).1)
  clear hown1 hgrow1 HO6 HNw
  go_wp2_with fail
  go_ret
  exact ⟨a6, c6, by rw [HF2.out]; rfl, by rw [HF2.out]; exact HO7.out, HB7.out⟩

end Go.Proofs.YthojijhafhnclaeDoor
