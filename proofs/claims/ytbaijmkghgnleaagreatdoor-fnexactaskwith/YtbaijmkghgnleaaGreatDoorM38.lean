/- What the specification's FieldsOf answers: the fields of a request. -/
import Derived.Test.YtbaijmkghgnleaaGreatDoorM24
import Derived.Test.YtbaijmkghgnleaaGreatDoorM36
import Derived.Test.YtbaijmkghgnleaaGreatDoorM37
import Derived.Test.YtbaijmkghgnleaaGreatDoorM37
import Derived.Test.YtbaijmkghgnleaaGreatDoorM10
import Derived.Test.YtbaijmkghgnleaaGreatDoorM09
import Derived.Lib.Strings
import Derived.Deep.CutBlock
import Derived.Deep.RegionWith
namespace Go.Proofs.YtbaijmkghgnleaaGreatDoor
open Go.RowKit
set_option linter.unusedVariables false

set_option maxRecDepth 10000 in
set_option maxHeartbeats 1600000 in
theorem specFields_any (op : Int) (s : ByteArray) (n : Int) (w : World) (hm : s.size ≤ 9223372036854775807) :
    Calls Tryz.prog 23 #[.agg #[.int .i64 op, .string s, .int .i64 n]] w fun e w' => ∃ A C, e = .returned (.slice A (fieldsR op s n).length C) ∧ OwnF w' w.heap.size (.slice A (fieldsR op s n).length C) (fieldsR op s n).length (fieldsR op s n) ∧ Below w.heap.size w w' := by
  have HB0 : Hid (Below w.heap.size w (w.alloc (.cells #[.int .i64 op, .string s, .int .i64 n] 36))) := (Below.refl _ _).alloc (Nat.le_refl _) _
  have HX0 : Hid (Box3 (w.alloc (.cells #[.int .i64 op, .string s, .int .i64 n] 36)) w.heap.size 36 (.int .i64 op) (.string s) (.int .i64 n)) := Box3.new _ _ _ _ _
  go_enter Tryz.func23, Tryz.ntmps23
  go_wp2_with fail
  obtain ⟨w1, hw1⟩ : ∃ w1, w.alloc (.cells #[.int .i64 op, .string s, .int .i64 n] 36) = w1 := ⟨_, rfl⟩
  rw [hw1] at HB0 HX0 ⊢
  clear hw1
  refine (specReqOk_any op s n w1 hm).mono ?_
  rintro e w2 ⟨rfl, hb2⟩
  have HX2 := (show Hid (Box3 w2 w.heap.size 36 (.int .i64 op) (.string s) (.int .i64 n)) from HX0.out.stays hb2)
  have HB2 : Hid (Below w.heap.size w w2) := HB0.out.trans (hb2.mono HB0.out.size)
  clear hb2 HX0 HB0
  cases hrq : reqB op s.data.toList n
  · have HF : Hid (fieldsR op s n = []) := by show _ = _; rw [fieldsR, hrq]; rfl
    have HO : Hid ((w2.alloc (.cells #[] 69)).ownsRow w2.heap.size 69 2 (.slice (some ⟨w2.heap.size, 0, none⟩) 0 0) 0 []) := World.ownsRow_lit w2 #[] 0 (Nat.le_refl _) (Nat.zero_le _) rfl
    go_wp2_with fail
    go_ret
    exact ⟨_, _, by rw [HF.out]; rfl, by rw [HF.out]; exact ⟨own_low HO.out HB2.out.size, by simp⟩, HB2.out.alloc HB2.out.size _⟩
  obtain ⟨hs8, hop, hnn⟩ := reqB_id hrq
  have HF : Hid (fieldsR op s n = threeF op s ++ numF op n) := by show _ = _; rw [fieldsR, hrq]; rfl
  have HM : Hid (∀ W : World, Calls Tryz.prog 46 #[.int .i64 op] W fun e w' => e = .returned (.string (methT op)) ∧ Below W.heap.size W w') := fun W => specMeth_any op W hop
  have HMs : Hid ((methT op).size ≤ 6) := methT_size op
  have HTh : Hid (threeF op s = [(⟨#[58, 109, 101, 116, 104, 111, 100]⟩, methT op), (⟨#[58, 115, 99, 104, 101, 109, 101]⟩, ⟨#[104, 116, 116, 112, 115]⟩), (⟨#[58, 112, 97, 116, 104]⟩, ⟨#[47, 117, 112, 47]⟩ ++ s)]) := rfl
  have HNn : Hid ((nameT op).toList ≠ [] → 0 ≤ n ∧ n ≤ 4294967295) := hnn
  clear hrq hop hnn
  obtain ⟨c0, c1, c2⟩ := HX2.out.cells
  have hlt2 : w.heap.size < w2.heap.size := HX2.out.lt
  go_upto_region 3 with fail
  go_cut [3] from 3 (fun v W => ∃ g, v = .slice (some ⟨g, 0, none⟩) 3 3 ∧ Hid (Below w2.heap.size w2 W ∧ OwnF W w2.heap.size (.slice (some ⟨g, 0, none⟩) 3 3) 3 (threeF op s)))
  case first =>
    generalize methT op = me at *
    go_region_with (first | (go_at_call 46; refine (HM.out _).mono ?_; rintro e y ⟨rfl, hb⟩; have hb' : Below w2.heap.size w2 y := (Below.refl w2.heap.size w2).drew.trans (hb.mono (Nat.le_refl _)); obtain ⟨e0, e1, e2⟩ := (HX2.out.stays hb').cells) | fail)
    all_goals
      have HOw : Hid (Below w2.heap.size w2 (y.alloc (.cells #[.string ⟨#[58, 109, 101, 116, 104, 111, 100]⟩, .string me, .string ⟨#[58, 115, 99, 104, 101, 109, 101]⟩, .string ⟨#[104, 116, 116, 112, 115]⟩, .string ⟨#[58, 112, 97, 116, 104]⟩, .string (⟨#[47, 117, 112, 47]⟩ ++ s)] 69)) ∧ OwnF (y.alloc (.cells #[.string ⟨#[58, 109, 101, 116, 104, 111, 100]⟩, .string me, .string ⟨#[58, 115, 99, 104, 101, 109, 101]⟩, .string ⟨#[104, 116, 116, 112, 115]⟩, .string ⟨#[58, 112, 97, 116, 104]⟩, .string (⟨#[47, 117, 112, 47]⟩ ++ s)] 69)) w2.heap.size (.slice (some ⟨y.heap.size, 0, none⟩) 3 3) 3 (threeF op s)) := by
        refine ⟨hb'.alloc hb'.size _, ?_, ?_⟩
        · rw [HTh.out]
          exact own_low (World.ownsRow_lit y _ 3 (Nat.le_refl _) (by unfold maxLen; omega) rfl) hb'.size
        · rw [HTh.out]
          have h6 := HMs.out
          have hsz : ((⟨#[47, 117, 112, 47]⟩ : ByteArray) ++ s).size = 4 + s.size := by rw [ByteArray.size_append]; rfl
          intro f hf
          simp only [List.mem_cons, List.not_mem_nil, or_false] at hf
          unfold maxLen
          rcases hf with rfl | rfl | rfl
          · exact ⟨by dsimp only; decide, by dsimp only; omega⟩
          · exact ⟨by decide, by decide⟩
          · exact ⟨by dsimp only; decide, by dsimp only; omega⟩
      go_wp2_with fail
      go_meet
      exact ⟨_, rfl, HOw.out⟩
  case rest =>
  obtain ⟨g, rfl, HOc⟩ := hcut
  obtain ⟨w3, hw3⟩ : ∃ w3, wc = w3 := ⟨_, rfl⟩
  rw [hw3] at HOc ⊢
  have HX3 := (show Hid (Box3 w3 w.heap.size 36 (.int .i64 op) (.string s) (.int .i64 n)) from HX2.out.stays HOc.out.1)
  have HB3 : Hid (Below w.heap.size w w3) := HB2.out.trans (HOc.out.1.mono HB2.out.size)
  have HO3 : Hid (OwnF w3 w.heap.size (.slice (some ⟨g, 0, none⟩) 3 3) 3 (threeF op s)) := ⟨own_low HOc.out.2.1 HB2.out.size, HOc.out.2.2⟩
  clear hw3 HOc HX2 HB2 c0 c1 c2 HM HMs HTh hlt2
  obtain ⟨c0, c1, c2⟩ := HX3.out.cells
  go_wp2_with fail
  refine (specName_any op _).mono ?_
  rintro e w4 ⟨rfl, hw4⟩
  subst hw4
  have HNs : Hid ((nameT op).size ≤ 13) := nameT_size op
  have HNu : Hid (numF op n = if (nameT op).toList = [] then [] else [(nameT op, ⟨(Lib.decDigits n.toNat).toArray⟩)]) := rfl
  generalize nameT op = nt at *
  have HTl : Hid ((threeF op s).length = 3) := rfl
  by_cases hnt : nt.toList = []
  · have hne : (nt.toList == []) = true := by rw [hnt]; rfl
    have hnf : (nt.toList != []) = false := by rw [hnt]; rfl
    have HF2 : Hid (fieldsR op s n = threeF op s) := by show _ = _; rw [HF.out, HNu.out, if_pos hnt, List.append_nil]
    go_wp2_with fail
    go_ret
    exact ⟨_, _, by rw [HF2.out, HTl.out]; rfl, by rw [HF2.out, HTl.out]; exact HO3.out, HB3.out⟩
  have hne : (nt.toList == []) = false := by simpa using hnt
  have hnf : (nt.toList != []) = true := by simpa using hnt
  obtain ⟨hn0, hn1⟩ := HNn.out hnt
  obtain ⟨u, rfl⟩ := Int.eq_ofNat_of_zero_le hn0
  have HF2 : Hid (fieldsR op s (u : Int) = threeF op s ++ [(nt, ⟨(Lib.decDigits u).toArray⟩)]) := by show _ = _; rw [HF.out, HNu.out, if_neg hnt, Int.toNat_natCast]
  have HTx : Hid (∀ W : World, Calls Tryz.prog 48 #[.int .i64 (u : Int)] W fun e w' => e = .returned (.string ⟨(Lib.decDigits u).toArray⟩) ∧ Below W.heap.size W w') := fun W => l1Text_any u W (by omega)
  have HDs : Hid ((⟨(Lib.decDigits u).toArray⟩ : ByteArray).size ≤ 10) := by
    show _ ≤ _
    have := decDigits_small 9 u (by omega)
    show (Lib.decDigits u).toArray.size ≤ 10
    simpa using this
  clear HNu HF HNn hn0 hn1
  generalize (⟨(Lib.decDigits u).toArray⟩ : ByteArray) = dt at *
  go_wp2_with fail
  refine (HTx.out _).mono ?_
  rintro e w5 ⟨rfl, hb5⟩
  obtain ⟨i0, hi, hz0, hz1, hz2⟩ := info_parts info_field
  have HB5 : Hid (Below w.heap.size w w5) := HB3.out.trans (hb5.mono HB3.out.size)
  have HO6 : Hid ((w5.alloc (.cells #[.string nt, .string dt] 69)).ownsRow w.heap.size 69 2 (.slice (some ⟨g, 0, none⟩) 3 3) 3 (fieldCells (threeF op s))) := own_below (own_below HO3.out.1 hb5) ((Below.refl _ _).alloc (Nat.le_refl _) _)
  have HNw : Hid (∀ j v, (fieldCells [(nt, dt)])[j]? = some v → (w5.alloc (.cells #[.string nt, .string dt] 69)).cell? ((⟨w5.heap.size, 0, none⟩ : Addr).add j) = some v) := by
    intro j v hj
    have : j = 0 ∨ j = 1 := by
      have := (List.getElem?_eq_some_iff.1 hj).1
      simp [fieldCells] at this
      omega
    rw [Addr.add_lit, cell_of_row _ _ _ _ _ _ (heap_alloc_new w5 _)]
    rcases this with rfl | rfl <;> simpa [fieldCells] using hj
  have HV : Hid (∀ f ∈ threeF op s ++ [(nt, dt)], f.1.size ≤ maxLen ∧ f.2.size ≤ maxLen) := fun f hf => by
    rcases List.mem_append.1 hf with h | h
    · exact HO3.out.2 f h
    · obtain rfl : f = (nt, dt) := by simpa using h
      have h1 := HNs.out
      have h2 := HDs.out
      unfold maxLen
      exact ⟨by dsimp only; omega, by dsimp only; omega⟩
  clear hb5 HTx HX3 c0 c1 c2
  go_wp2_with (at_builtin; refine wpList_append_own _ rfl _ _ 30 rfl w.heap.size 69 i0 (.agg #[.string ⟨#[]⟩, .string ⟨#[]⟩]) 2 32 Tryz.underlying30 hi hz0 hz1 hz2 rfl (by decide) (.slice (some ⟨g, 0, none⟩) 3 3) 3 (fieldCells (threeF op s)) rfl HO6.out ⟨w5.heap.size, 0, none⟩ 1 1 (fieldCells [(nt, dt)]) rfl rfl HNw.out (fieldCells_one _) (by unfold maxLen; omega) (by omega) (by have := HB5.out.size; simp; omega) ?_; intro v1 w6 hown1 hgrow1 _; refine Hid.out ?_)
  refine hidden ?_
  obtain ⟨a6, c6, rfl⟩ := OwnF.shape (xs := threeF op s ++ [(nt, dt)]) ⟨by rw [fieldCells_append]; exact hown1, HV.out⟩
  have HO7 : Hid (OwnF w6 w.heap.size (.slice a6 4 c6) 4 (threeF op s ++ [(nt, dt)])) := ⟨by rw [fieldCells_append]; exact hown1, HV.out⟩
  have HB7 : Hid (Below w.heap.size w w6) := (HB5.out.alloc HB5.out.size _).grown hgrow1 (by have := HB5.out.size; simp; omega) (fun q hq => (HO6.out.lt q hq).1)
  clear hown1 hgrow1 HO6 HNw
  go_wp2_with fail
  go_ret
  have hlen : (threeF op s ++ [(nt, dt)]).length = 4 := by rw [List.length_append, HTl.out]; rfl
  exact ⟨a6, c6, by rw [HF2.out, hlen]; rfl, by rw [HF2.out, hlen]; exact HO7.out, HB7.out⟩

end Go.Proofs.YtbaijmkghgnleaaGreatDoor
