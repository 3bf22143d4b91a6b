/- What the program's FieldsOf answers: the fields of a request, in memory of its own. Under the program's table and the library's. -/
import Derived.Test.YthojijhafhnclaeDoorReqTabI
import Derived.Test.YthojijhafhnclaeDoorReqFldN
import Derived.Test.YthojijhafhnclaeDoorNumUp
import Derived.Test.YthojijhafhnclaeDoorTabOwn
import Derived.Test.YthojijhafhnclaeDoorTabRow
import Derived.Deep.CutBlock
import Derived.Deep.RegionWith
import Derived.Deep.RegionHeld3
import Derived.Test.YthojijhafhnclaeDoorHimStep
namespace Go.Proofs.YthojijhafhnclaeDoor
open Go.RowKit
set_option linter.unusedVariables false

theorem itoa_dec (u : Nat) : (⟨(Lib.itoa (u : Int)).toArray⟩ : ByteArray) = ⟨(Lib.decDigits u).toArray⟩ := by rw [Lib.itoa_nonneg]

theorem cell_old {w : World} {a : Addr} {v : Value} (o : Obj) (h : w.cell? a = some v) (hb : a.block < w.heap.size) : (w.alloc o).cell? a = some v := by
  rw [((Below.refl w.heap.size w).alloc (Nat.le_refl _) o).cell hb]
  exact h

theorem field_new (y : World) (p q : ByteArray) : ∀ j v, (fieldCells [(p, q)])[j]? = some v → (y.alloc (.cells #[.string p, .string q] 38)).cell? ((⟨y.heap.size, 0, none⟩ : Addr).add j) = some v := by
  intro j v hj
  have : j = 0 ∨ j = 1 := by
    have := (List.getElem?_eq_some_iff.1 hj).1
    simp [fieldCells] at this
    omega
  rw [Addr.add_lit, cell_of_row _ _ _ _ _ _ (heap_alloc_new y _)]
  rcases this with rfl | rfl <;> simpa [fieldCells] using hj

set_option maxRecDepth 10000 in
set_option maxHeartbeats 1600000 in
theorem implFields_any (op : Int) (s : ByteArray) (n : Int) (w : World) (hm : s.size ≤ 9223372036854775807) (ht : MethT w) (hst : TabT w) :
    Calls Tryd.prog 7 #[.agg #[.int .i64 op, .string s, .int .i64 n]] w fun e w' => ∃ A C, e = .returned (.slice A (fieldsR op s n).length C) ∧ OwnF w' w.heap.size (.slice A (fieldsR op s n).length C) (fieldsR op s n).length (fieldsR op s n) ∧ Below w.heap.size w w' := by
  have HM : Hid (MethT w) := ht
  have HS : Hid (TabT w) := hst
  clear ht hst
  have HB0 : Hid (Below w.heap.size w (w.alloc (.cells #[.int .i64 op, .string s, .int .i64 n] 25))) := (Below.refl _ _).alloc (Nat.le_refl _) _
  have HX0 : Hid (Box3 (w.alloc (.cells #[.int .i64 op, .string s, .int .i64 n] 25)) w.heap.size 25 (.int .i64 op) (.string s) (.int .i64 n)) := Box3.new _ _ _ _ _
  go_enter Tryd.func7, Tryd.ntmps7
  go_wp2_with fail
  obtain ⟨w1, hw1⟩ : ∃ w1, w.alloc (.cells #[.int .i64 op, .string s, .int .i64 n] 25) = w1 := ⟨_, rfl⟩
  rw [hw1] at HB0 HX0 ⊢
  clear hw1
  refine (implReqOk_any op s n w1 hm (HM.out.below HB0.out)).mono ?_
  rintro e w2 ⟨rfl, hb2⟩
  have HX2 := (show Hid (Box3 w2 w.heap.size 25 (.int .i64 op) (.string s) (.int .i64 n)) from HX0.out.stays hb2)
  have HB2 : Hid (Below w.heap.size w w2) := HB0.out.trans (hb2.mono HB0.out.size)
  clear hb2 HX0 HB0
  cases hrq : reqB op s.data.toList n
  · have HF : Hid (fieldsR op s n = []) := by show _ = _; rw [fieldsR, hrq]; rfl
    have HO : Hid ((w2.alloc (.cells #[] 38)).ownsRow w2.heap.size 38 2 (.slice (some ⟨w2.heap.size, 0, none⟩) 0 0) 0 []) := World.ownsRow_lit w2 #[] 0 (Nat.le_refl _) (Nat.zero_le _) rfl
    go_wp2_with fail
    go_ret
    exact ⟨_, _, by rw [HF.out]; rfl, by rw [HF.out]; exact ⟨own_low HO.out HB2.out.size, by simp⟩, HB2.out.alloc HB2.out.size _⟩
  obtain ⟨hs8, hop, hnn⟩ := reqB_id hrq
  have HF : Hid (fieldsR op s n = threeF op s ++ numF op n) := by show _ = _; rw [fieldsR, hrq]; rfl
  obtain ⟨k, rfl⟩ := Int.eq_ofNat_of_zero_le (show 0 ≤ op by omega)
  have hk6 : k ≤ 6 := by omega
  have hk0 : (0 : Int) ≤ (k : Int) := by omega
  have hk7 : (k : Int) < 7 := by omega
  have HMs : Hid ((methT (k : Int)).size ≤ 6) := methT_size (k : Int)
  have HNs : Hid ((nameT (k : Int)).size ≤ 13) := nameT_size (k : Int)
  have HTh : Hid (threeF (k : Int) s = [(⟨#[58, 109, 101, 116, 104, 111, 100]⟩, methT (k : Int)), (⟨#[58, 115, 99, 104, 101, 109, 101]⟩, ⟨#[104, 116, 116, 112, 115]⟩), (⟨#[58, 112, 97, 116, 104]⟩, ⟨#[47, 117, 112, 47]⟩ ++ s)]) := rfl
  have HTl : Hid ((threeF (k : Int) s).length = 3) := rfl
  have HNn : Hid ((nameT (k : Int)).toList ≠ [] → 0 ≤ n ∧ n ≤ 4294967295) := hnn
  have HNu : Hid (numF (k : Int) n = if (nameT (k : Int)).toList = [] then [] else [(nameT (k : Int), ⟨(Lib.decDigits n.toNat).toArray⟩)]) := rfl
  clear hrq hop hnn
  obtain ⟨c0, c1, c2⟩ := HX2.out.cells
  obtain ⟨m0, m1, m2⟩ := (HM.out.below HB2.out).2 k hk6
  generalize methT (k : Int) = me at *
  generalize nameT (k : Int) = nt at *
  generalize mostT k = mo at *
  have HX3 : Hid (Box3 (w2.alloc (.cells #[.string me, .string nt, .int .i64 mo] 47)) w2.heap.size 47 (.string me) (.string nt) (.int .i64 mo)) := Box3.new _ _ _ _ _
  have HY3 : Hid (Box3 (w2.alloc (.cells #[.string me, .string nt, .int .i64 mo] 47)) w.heap.size 25 (.int .i64 (k : Int)) (.string s) (.int .i64 n)) := HX2.out.alloc _
  have HB3 : Hid (Below w.heap.size w (w2.alloc (.cells #[.string me, .string nt, .int .i64 mo] 47))) := HB2.out.alloc HB2.out.size _
  go_upto_region 4 with fail
  obtain ⟨w3, hw3⟩ : ∃ w3, w2.alloc (.cells #[.string me, .string nt, .int .i64 mo] 47) = w3 := ⟨_, rfl⟩
  rw [hw3] at HX3 HY3 HB3 ⊢
  clear hw3 c0 c1 c2 m0 m1 m2 HX2 HB2
  generalize w2.heap.size = g2 at *
  have HO4 : Hid (OwnF (w3.alloc (.cells #[.string ⟨#[58, 109, 101, 116, 104, 111, 100]⟩, .string me, .string ⟨#[58, 115, 99, 104, 101, 109, 101]⟩, .string ⟨#[104, 116, 116, 112, 115]⟩, .string ⟨#[58, 112, 97, 116, 104]⟩, .string (⟨#[47, 117, 112, 47]⟩ ++ s)] 38)) w.heap.size (.slice (some ⟨w3.heap.size, 0, none⟩) 3 3) 3 (threeF (k : Int) s)) := by
    refine ⟨?_, ?_⟩
    · rw [HTh.out]
      exact own_low (World.ownsRow_lit w3 _ 3 (Nat.le_refl _) (by unfold maxLen; omega) rfl) HB3.out.size
    · rw [HTh.out]
      have h6 := HMs.out
      have hsz : ((⟨#[47, 117, 112, 47]⟩ : ByteArray) ++ s).size = 4 + s.size := by rw [ByteArray.size_append]; rfl
      intro f hf
      simp only [List.mem_cons, List.not_mem_nil, or_false] at hf
      unfold maxLen
      rcases hf with rfl | rfl | rfl
      · exact ⟨by dsimp only; decide, by dsimp only; omega⟩
      · exact ⟨by decide, by decide⟩
      · exact ⟨by dsimp only; decide, by dsimp only; omega⟩
  have HB4 : Hid (Below w.heap.size w (w3.alloc (.cells #[.string ⟨#[58, 109, 101, 116, 104, 111, 100]⟩, .string me, .string ⟨#[58, 115, 99, 104, 101, 109, 101]⟩, .string ⟨#[104, 116, 116, 112, 115]⟩, .string ⟨#[58, 112, 97, 116, 104]⟩, .string (⟨#[47, 117, 112, 47]⟩ ++ s)] 38))) := HB3.out.alloc HB3.out.size _
  have HX4 : Hid (Box3 (w3.alloc (.cells #[.string ⟨#[58, 109, 101, 116, 104, 111, 100]⟩, .string me, .string ⟨#[58, 115, 99, 104, 101, 109, 101]⟩, .string ⟨#[104, 116, 116, 112, 115]⟩, .string ⟨#[58, 112, 97, 116, 104]⟩, .string (⟨#[47, 117, 112, 47]⟩ ++ s)] 38)) g2 47 (.string me) (.string nt) (.int .i64 mo)) := HX3.out.alloc _
  have HY4 : Hid (Box3 (w3.alloc (.cells #[.string ⟨#[58, 109, 101, 116, 104, 111, 100]⟩, .string me, .string ⟨#[58, 115, 99, 104, 101, 109, 101]⟩, .string ⟨#[104, 116, 116, 112, 115]⟩, .string ⟨#[58, 112, 97, 116, 104]⟩, .string (⟨#[47, 117, 112, 47]⟩ ++ s)] 38)) w.heap.size 25 (.int .i64 (k : Int)) (.string s) (.int .i64 n)) := HY3.out.alloc _
  obtain ⟨c0, c1, c2⟩ := HX3.out.cells
  obtain ⟨d0, d1, d2⟩ := HY3.out.cells
  go_upto_region 5 with fail
  obtain ⟨w4, hw4⟩ : ∃ w4, w3.alloc (.cells #[.string ⟨#[58, 109, 101, 116, 104, 111, 100]⟩, .string me, .string ⟨#[58, 115, 99, 104, 101, 109, 101]⟩, .string ⟨#[104, 116, 116, 112, 115]⟩, .string ⟨#[58, 112, 97, 116, 104]⟩, .string (⟨#[47, 117, 112, 47]⟩ ++ s)] 38) = w4 := ⟨_, rfl⟩
  rw [hw4] at HO4 HB4 HX4 HY4 ⊢
  clear hw4 c0 c1 c2 d0 d1 d2 HB3
  have hg23 : g2 < w3.heap.size := HX3.out.lt
  have hgw3 : w.heap.size < w3.heap.size := HY3.out.lt
  clear HX3 HY3
  generalize w3.heap.size = g3 at *
  obtain ⟨c0, c1, c2⟩ := HX4.out.cells
  obtain ⟨d0, d1, d2⟩ := HY4.out.cells
  by_cases hnt : nt.toList = []
  · have hne : (nt.toList == []) = true := by rw [hnt]; rfl
    have hnf : (nt.toList != []) = false := by rw [hnt]; rfl
    have hie : nt.toList.isEmpty = true := by rw [hnt]; rfl
    have HF2 : Hid (fieldsR (k : Int) s n = threeF (k : Int) s) := by show _ = _; rw [HF.out, HNu.out, if_pos hnt, List.append_nil]
    go_wp2_with fail
    go_ret
    exact ⟨_, _, by rw [HF2.out, HTl.out]; rfl, by rw [HF2.out, HTl.out]; exact HO4.out, HB4.out⟩
  have hne : (nt.toList == []) = false := by simpa using hnt
  have hnf : (nt.toList != []) = true := by simpa using hnt
  have hie : nt.toList.isEmpty = false := by simpa using hnt
  obtain ⟨hn0, hn1⟩ := HNn.out hnt
  obtain ⟨u, rfl⟩ := Int.eq_ofNat_of_zero_le hn0
  have HF2 : Hid (fieldsR (k : Int) s (u : Int) = threeF (k : Int) s ++ [(nt, ⟨(Lib.decDigits u).toArray⟩)]) := by show _ = _; rw [HF.out, HNu.out, if_neg hnt, Int.toNat_natCast]
  have HTx : Hid (∀ W : World, Below w.heap.size w W → Calls Tryd.prog 18 #[.int .i64 (u : Int)] W fun e w' => e = .returned (.string ⟨(Lib.decDigits u).toArray⟩) ∧ Below W.heap.size W w') := fun W hW => by
    rw [← itoa_dec]
    refine (Tryd.strconv_Itoa _ (by omega) (by omega) _ (HS.out.below hW)).mono ?_
    rintro e w' ⟨rfl, j, os, rfl⟩
    exact ⟨rfl, Lib.below_grow _ _ (Nat.le_refl _) _ _⟩
  have HDs : Hid ((⟨(Lib.decDigits u).toArray⟩ : ByteArray).size ≤ 10) := by
    show _ ≤ _
    have := decDigits_le 9 u (by omega)
    show (Lib.decDigits u).toArray.size ≤ 10
    simpa using this
  clear HNu HF HNn hn0 hn1 hnt
  generalize (⟨(Lib.decDigits u).toArray⟩ : ByteArray) = dt at *
  go_wp2_with fail
  obtain ⟨i0, hi, hz0, hz1, hz2⟩ := info_parts info_field
  have HB4d : Hid (Below w.heap.size w w4.drew) := HB4.out.drew
  have HO4d : Hid (w4.drew.ownsRow w.heap.size 38 2 (.slice (some ⟨g3, 0, none⟩) 3 3) 3 (fieldCells (threeF (k : Int) s))) := own_below HO4.out.1 (Below.refl _ _).drew
  have HV : Hid (∀ f ∈ threeF (k : Int) s ++ [(nt, dt)], f.1.size ≤ maxLen ∧ f.2.size ≤ maxLen) := fun f hf => by
    rcases List.mem_append.1 hf with h | h
    · exact HO4.out.2 f h
    · obtain rfl : f = (nt, dt) := by simpa using h
      have h1 := HNs.out
      have h2 := HDs.out
      unfold maxLen
      exact ⟨by dsimp only; omega, by dsimp only; omega⟩
  have HX4d := (show Hid (Box3 w4.drew g2 47 (.string me) (.string nt) (.int .i64 mo)) from HX4.out.stays (Below.refl _ _).drew)
  have HY4d := (show Hid (Box3 w4.drew w.heap.size 25 (.int .i64 (k : Int)) (.string s) (.int .i64 (u : Int))) from HY4.out.stays (Below.refl _ _).drew)
  have hn2 : (some g3 : Option Nat) ≠ some g2 := fun e => by injection e with e; omega
  have hnw : (some g3 : Option Nat) ≠ some w.heap.size := fun e => by injection e with e; omega
  go_region_held3 (fun W => W.cell? ⟨g2, 1, none⟩ = some (.string nt) ∧ W.cell? ⟨w.heap.size, 2, none⟩ = some (.int .i64 (u : Int))) (first | (refine ⟨?_, ?_⟩ <;> assumption) | (exact ⟨cell_old _ (by assumption) (by assumption), cell_old _ (by assumption) (by assumption)⟩) | go_keep) (first
    | (refine step_append_own rfl (.tmp 25) (.tmp 32) 30 rfl w.heap.size 38 i0 (.agg #[.string ⟨#[]⟩, .string ⟨#[]⟩]) 2 32 Tryd.underlying30 hi hz0 hz1 hz2 rfl (by decide) (.slice (some ⟨g3, 0, none⟩) 3 3) 3 (fieldCells (threeF (k : Int) s)) rfl (ho1.alloc _) ⟨y1.heap.size, 0, none⟩ 1 1 (fieldCells [(nt, dt)]) rfl rfl (field_new y1 nt dt) (fieldCells_one _) (by unfold maxLen; omega) (by omega) (by have := hbw1.size; simp; omega) ?_; intro v2 y2 hown2 hgrow2; have hb2 : Below w.heap.size w y2 := (hbw1.alloc hbw1.size _).grown hgrow2 (by have := hbw1.size; simp; omega) (fun q hq => (ho1.lt q hq).1); obtain ⟨z0, z1, z2⟩ := ((hx1.alloc _).grown hgrow2 hn2).cells; obtain ⟨z3, z4, z5⟩ := ((hy1.alloc _).grown hgrow2 hnw).cells)
    | (go_at_call 18; refine (HTx.out _ HB4d.out).mono ?_; rintro e y1 ⟨rfl, hb1⟩; have ho1 := own_below HO4d.out hb1; have hbw1 : Below w.heap.size w y1 := HB4d.out.trans (hb1.mono HB4d.out.size); have hx1 := HX4d.out.stays hb1; have hy1 := HY4d.out.stays hb1; obtain ⟨s0, s1, s2⟩ := hx1.cells; obtain ⟨s3, s4, s5⟩ := hy1.cells; have hg2' : g2 < y1.heap.size := hx1.lt; have hgw' : w.heap.size < y1.heap.size := hy1.lt)
    | fail)
  all_goals
    obtain ⟨a6, c6, rfl⟩ := OwnF.shape (xs := threeF (k : Int) s ++ [(nt, dt)]) ⟨by rw [fieldCells_append]; exact hown2, HV.out⟩
    have HO7 : Hid (OwnF y2 w.heap.size (.slice a6 4 c6) 4 (threeF (k : Int) s ++ [(nt, dt)])) := ⟨by rw [fieldCells_append]; exact hown2, HV.out⟩
    have HB7 : Hid (Below w.heap.size w y2) := hb2
    clear hown2 hgrow2 hb2 ho1 hbw1 hx1 hy1 hb1
    go_wp2_with fail
    go_ret
    have hlen : (threeF (k : Int) s ++ [(nt, dt)]).length = 4 := by rw [List.length_append, HTl.out]; rfl
    exact ⟨a6, c6, by rw [HF2.out, hlen]; rfl, by rw [HF2.out, hlen]; exact HO7.out, HB7.out⟩

end Go.Proofs.YthojijhafhnclaeDoor
