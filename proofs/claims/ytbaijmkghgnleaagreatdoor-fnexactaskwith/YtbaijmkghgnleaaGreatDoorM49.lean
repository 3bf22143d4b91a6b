/- What the program's FieldsOf answers: the fields of a request, in memory of its own. Under the program's table and the library's. What the program's PutFields answers. The law FnExactAskWith under the program's tables. A table that comes in: its fields. A request that comes in: its numbers and its text. From what the row lists of the program's table of methods to its cells: no statement of the program but its table of types. -/
import Derived.Test.YtbaijmkghgnleaaGreatDoorM48
import Derived.Test.YtbaijmkghgnleaaGreatDoorM24
import Derived.Test.YtbaijmkghgnleaaGreatDoorM48
import Derived.Test.YtbaijmkghgnleaaGreatDoorM10
import Derived.Test.YtbaijmkghgnleaaGreatDoorM09
import Derived.Deep.CutBlock
import Derived.Deep.RegionWith
import Derived.Deep.RegionHeld3
import Derived.Test.YtbaijmkghgnleaaGreatDoorM08
import Derived.Test.YtbaijmkghgnleaaGreatDoorM19
import Derived.Deep.Cut
import Derived.Test.YtbaijmkghgnleaaGreatDoorM47
import Derived.Test.YtbaijmkghgnleaaGreatDoorM05
import Derived.Deep.SlicePairs
import Derived.Lib.SmallJoins
import Derived.Test.YtbaijmkghgnleaaGreatDoorM01
import Derived.OpenShut
import Derived.ChangeOld
import Derived.WalkKit
import Derived.ProofKit
import Derived.LaidLaws
import Derived.LaidHandle
import Derived.Lib.LaidTab
namespace Go.Proofs.YtbaijmkghgnleaaGreatDoor
open Go.RowKit
set_option linter.unusedVariables false

theorem itoa_dec (u : Nat) : (⟨(Lib.itoa (u : Int)).toArray⟩ : ByteArray) = ⟨(Lib.decDigits u).toArray⟩ := by rw [Lib.itoa_nonneg]

theorem cell_old {w : World} {a : Addr} {v : Value} (o : Obj) (h : w.cell? a = some v) (hb : a.block < w.heap.size) : (w.alloc o).cell? a = some v := by
  rw [((Below.refl w.heap.size w).alloc (Nat.le_refl _) o).cell hb]
  exact h

theorem field_new (y : World) (p q : ByteArray) : ∀ j v, (fieldCells [(p, q)])[j]? = some v → (y.alloc (.cells #[.string p, .string q] 69)).cell? ((⟨y.heap.size, 0, none⟩ : Addr).add j) = some v := by
  intro j v hj
  have : j = 0 ∨ j = 1 := by
    have := (List.getElem?_eq_some_iff.1 hj).1
    simp [fieldCells] at this
    omega
  rw [Addr.add_lit, cell_of_row _ _ _ _ _ _ (heap_alloc_new y _)]
  rcases this with rfl | rfl <;> simpa [fieldCells] using hj

set_option maxRecDepth 10000 in
set_option maxHeartbeats 1600000 in
theorem implFields_any (op : Int) (s : ByteArray) (n : Int) (w : World) (hm : s.size ≤ 9223372036854775807) (ht : MethT w) (hst : TabT w) :
    Calls Tryz.prog 33 #[.agg #[.int .i64 op, .string s, .int .i64 n]] w fun e w' => ∃ A C, e = .returned (.slice A (fieldsR op s n).length C) ∧ OwnF w' w.heap.size (.slice A (fieldsR op s n).length C) (fieldsR op s n).length (fieldsR op s n) ∧ Below w.heap.size w w' := by
  have HM : Hid (MethT w) := ht
  have HS : Hid (TabT w) := hst
  clear ht hst
  have HB0 : Hid (Below w.heap.size w (w.alloc (.cells #[.int .i64 op, .string s, .int .i64 n] 36))) := (Below.refl _ _).alloc (Nat.le_refl _) _
  have HX0 : Hid (Box3 (w.alloc (.cells #[.int .i64 op, .string s, .int .i64 n] 36)) w.heap.size 36 (.int .i64 op) (.string s) (.int .i64 n)) := Box3.new _ _ _ _ _
  go_enter Tryz.func33, Tryz.ntmps33
  go_wp2_with fail
  obtain ⟨w1, hw1⟩ : ∃ w1, w.alloc (.cells #[.int .i64 op, .string s, .int .i64 n] 36) = w1 := ⟨_, rfl⟩
  rw [hw1] at HB0 HX0 ⊢
  clear hw1
  refine (implReqOk_any op s n w1 hm (HM.out.below HB0.out)).mono ?_
  rintro e w2 ⟨rfl, hb2⟩
  have HX2 := (show Hid (Box3 w2 w.heap.size 36 (.int .i64 op) (.string s) (.int .i64 n)) from HX0.out.stays hb2)
  have HB2 : Hid (Below w.heap.size w w2) := HB0.out.trans (hb2.mono HB0.out.size)
  clear hb2 HX0 HB0
  cases hrq : reqB op s.data.toList n
  · have HF : Hid (fieldsR op s n = []) := by show _ = _; rw [fieldsR, hrq]; rfl
    have HO : Hid ((w2.alloc (.cells #[] 69)).ownsRow w2.heap.size 69 2 (.slice (some ⟨w2.heap.size, 0, none⟩) 0 0) 0 []) := World.ownsRow_lit w2 #[] 0 (Nat.le_refl _) (Nat.zero_le _) rfl
    go_wp2_with fail
    go_ret
    exact ⟨_, _, by rw [HF.out]; rfl, by rw [HF.out]; exact ⟨own_low HO.out HB2.out.size, by simp⟩, HB2.out.alloc HB2.out.size _⟩
  obtain ⟨hs8, hop, hnn⟩ := reqB_id hrq
  have HF : Hid (fieldsR op s n = threeF op s ++ numF op n) := by show _ = _; rw [fieldsR, hrq]; rfl
  obtain ⟨k, rfl⟩ := Int.eq_ofNat_of_zero_le (show 0 ≤ op by omega)
  have hk6 : k ≤ 6 := by omega
  have hk0 : (0 : Int) ≤ (k : Int) := by omega
  have hk7 : (k : Int) < 7 := by omega
  have HMs : Hid ((methT (k : Int)).size ≤ 6) := methT_size (k : Int)
  have HNs : Hid ((nameT (k : Int)).size ≤ 13) := nameT_size (k : Int)
  have HTh : Hid (threeF (k : Int) s = [(⟨#[58, 109, 101, 116, 104, 111, 100]⟩, methT (k : Int)), (⟨#[58, 115, 99, 104, 101, 109, 101]⟩, ⟨#[104, 116, 116, 112, 115]⟩), (⟨#[58, 112, 97, 116, 104]⟩, ⟨#[47, 117, 112, 47]⟩ ++ s)]) := rfl
  have HTl : Hid ((threeF (k : Int) s).length = 3) := rfl
  have HNn : Hid ((nameT (k : Int)).toList ≠ [] → 0 ≤ n ∧ n ≤ 4294967295) := hnn
  have HNu : Hid (numF (k : Int) n = if (nameT (k : Int)).toList = [] then [] else [(nameT (k : Int), ⟨(Lib.decDigits n.toNat).toArray⟩)]) := rfl
  clear hrq hop hnn
  obtain ⟨c0, c1, c2⟩ := HX2.out.cells
  obtain ⟨m0, m1, m2⟩ := (HM.out.below HB2.out).2 k hk6
  generalize methT (k : Int) = me at *
  generalize nameT (k : Int) = nt at *
  generalize mostT k = mo at *
  have HX3 : Hid (Box3 (w2.alloc (.cells #[.string me, .string nt, .int .i64 mo] 76)) w2.heap.size 76 (.string me) (.string nt) (.int .i64 mo)) := Box3.new _ _ _ _ _
  have HY3 : Hid (Box3 (w2.alloc (.cells #[.string me, .string nt, .int .i64 mo] 76)) w.heap.size 36 (.int .i64 (k : Int)) (.string s) (.int .i64 n)) := HX2.out.alloc _
  have HB3 : Hid (Below w.heap.size w (w2.alloc (.cells #[.string me, .string nt, .int .i64 mo] 76))) := HB2.out.alloc HB2.out.size _
  go_upto_region 4 with fail
  obtain ⟨w3, hw3⟩ : ∃ w3, w2.alloc (.cells #[.string me, .string nt, .int .i64 mo] 76) = w3 := ⟨_, rfl⟩
  rw [hw3] at HX3 HY3 HB3 ⊢
  clear hw3 c0 c1 c2 m0 m1 m2 HX2 HB2
  generalize w2.heap.size = g2 at *
  have HO4 : Hid (OwnF (w3.alloc (.cells #[.string ⟨#[58, 109, 101, 116, 104, 111, 100]⟩, .string me, .string ⟨#[58, 115, 99, 104, 101, 109, 101]⟩, .string ⟨#[104, 116, 116, 112, 115]⟩, .string ⟨#[58, 112, 97, 116, 104]⟩, .string (⟨#[47, 117, 112, 47]⟩ ++ s)] 69)) w.heap.size (.slice (some ⟨w3.heap.size, 0, none⟩) 3 3) 3 (threeF (k : Int) s)) := by
    refine ⟨?_, ?_⟩
    · rw [HTh.out]
      exact own_low (World.ownsRow_lit w3 _ 3 (Nat.le_refl _) (by unfold maxLen; omega) rfl) HB3.out.size
    · rw [HTh.out]
      have h6 := HMs.out
      have hsz : ((⟨#[47, 117, 112, 47]⟩ : ByteArray) ++ s).size = 4 + s.size := by rw [ByteArray.size_append]; rfl
      intro f hf
      simp only [List.mem_cons, List.not_mem_nil, or_false] at hf
      unfold maxLen
      rcases hf with rfl | rfl | rfl
      · exact ⟨by dsimp only; decide, by dsimp only; omega⟩
      · exact ⟨by decide, by decide⟩
      · exact ⟨by dsimp only; decide, by dsimp only; omega⟩
  have HB4 : Hid (Below w.heap.size w (w3.alloc (.cells #[.string ⟨#[58, 109, 101, 116, 104, 111, 100]⟩, .string me, .string ⟨#[58, 115, 99, 104, 101, 109, 101]⟩, .string ⟨#[104, 116, 116, 112, 115]⟩, .string ⟨#[58, 112, 97, 116, 104]⟩, .string (⟨#[47, 117, 112, 47]⟩ ++ s)] 69))) := HB3.out.alloc HB3.out.size _
  have HX4 : Hid (Box3 (w3.alloc (.cells #[.string ⟨#[58, 109, 101, 116, 104, 111, 100]⟩, .string me, .string ⟨#[58, 115, 99, 104, 101, 109, 101]⟩, .string ⟨#[104, 116, 116, 112, 115]⟩, .string ⟨#[58, 112, 97, 116, 104]⟩, .string (⟨#[47, 117, 112, 47]⟩ ++ s)] 69)) g2 76 (.string me) (.string nt) (.int .i64 mo)) := HX3.out.alloc _
  have HY4 : Hid (Box3 (w3.alloc (.cells #[.string ⟨#[58, 109, 101, 116, 104, 111, 100]⟩, .string me, .string ⟨#[58, 115, 99, 104, 101, 109, 101]⟩, .string ⟨#[104, 116, 116, 112, 115]⟩, .string ⟨#[58, 112, 97, 116, 104]⟩, .string (⟨#[47, 117, 112, 47]⟩ ++ s)] 69)) w.heap.size 36 (.int .i64 (k : Int)) (.string s) (.int .i64 n)) := HY3.out.alloc _
  obtain ⟨c0, c1, c2⟩ := HX3.out.cells
  obtain ⟨d0, d1, d2⟩ := HY3.out.cells
  go_upto_region 5 with fail
  obtain ⟨w4, hw4⟩ : ∃ w4, w3.alloc (.cells #[.string ⟨#[58, 109, 101, 116, 104, 111, 100]⟩, .string me, .string ⟨#[58, 115, 99, 104, 101, 109, 101]⟩, .string ⟨#[104, 116, 116, 112, 115]⟩, .string ⟨#[58, 112, 97, 116, 104]⟩, .string (⟨#[47, 117, 112, 47]⟩ ++ s)] 69) = w4 := ⟨_, rfl⟩
  rw [hw4] at HO4 HB4 HX4 HY4 ⊢
  clear hw4 c0 c1 c2 d0 d1 d2 HB3
  have hg23 : g2 < w3.heap.size := HX3.out.lt
  have hgw3 : w.heap.size < w3.heap.size := HY3.out.lt
  clear HX3 HY3
  generalize w3.heap.size = g3 at *
  obtain ⟨c0, c1, c2⟩ := HX4.out.cells
  obtain ⟨d0, d1, d2⟩ := HY4.out.cells
  by_cases hnt : nt.toList = []
  · have hne : (nt.toList == []) = true := by rw [hnt]; rfl
    have hnf : (nt.toList != []) = false := by rw [hnt]; rfl
    have hie : nt.toList.isEmpty = true := by rw [hnt]; rfl
    have HF2 : Hid (fieldsR (k : Int) s n = threeF (k : Int) s) := by show _ = _; rw [HF.out, HNu.out, if_pos hnt, List.append_nil]
    go_wp2_with fail
    go_ret
    exact ⟨_, _, by rw [HF2.out, HTl.out]; rfl, by rw [HF2.out, HTl.out]; exact HO4.out, HB4.out⟩
  have hne : (nt.toList == []) = false := by simpa using hnt
  have hnf : (nt.toList != []) = true := by simpa using hnt
  have hie : nt.toList.isEmpty = false := by simpa using hnt
  obtain ⟨hn0, hn1⟩ := HNn.out hnt
  obtain ⟨u, rfl⟩ := Int.eq_ofNat_of_zero_le hn0
  have HF2 : Hid (fieldsR (k : Int) s (u : Int) = threeF (k : Int) s ++ [(nt, ⟨(Lib.decDigits u).toArray⟩)]) := by show _ = _; rw [HF.out, HNu.out, if_neg hnt, Int.toNat_natCast]
  have HTx : Hid (∀ W : World, Below w.heap.size w W → Calls Tryz.prog 57 #[.int .i64 (u : Int)] W fun e w' => e = .returned (.string ⟨(Lib.decDigits u).toArray⟩) ∧ Below W.heap.size W w') := fun W hW => by
    rw [← itoa_dec]
    refine (Tryz.strconv_Itoa _ (by omega) (by omega) _ (HS.out.below hW)).mono ?_
    rintro e w' ⟨rfl, j, os, rfl⟩
    exact ⟨rfl, Lib.below_grow _ _ (Nat.le_refl _) _ _⟩
  have HDs : Hid ((⟨(Lib.decDigits u).toArray⟩ : ByteArray).size ≤ 10) := by
    show _ ≤ _
    have := decDigits_le 9 u (by omega)
    show (Lib.decDigits u).toArray.size ≤ 10
    simpa using this
  clear HNu HF HNn hn0 hn1 hnt
  generalize (⟨(Lib.decDigits u).toArray⟩ : ByteArray) = dt at *
  go_wp2_with fail
  obtain ⟨i0, hi, hz0, hz1, hz2⟩ := info_parts info_field
  have HB4d : Hid (Below w.heap.size w w4.drew) := HB4.out.drew
  have HO4d : Hid (w4.drew.ownsRow w.heap.size 69 2 (.slice (some ⟨g3, 0, none⟩) 3 3) 3 (fieldCells (threeF (k : Int) s))) := own_below HO4.out.1 (Below.refl _ _).drew
  have HV : Hid (∀ f ∈ threeF (k : Int) s ++ [(nt, dt)], f.1.size ≤ maxLen ∧ f.2.size ≤ maxLen) := fun f hf => by
    rcases List.mem_append.1 hf with h | h
    · exact HO4.out.2 f h
    · obtain rfl : f = (nt, dt) := by simpa using h
      have h1 := HNs.out
      have h2 := HDs.out
      unfold maxLen
      exact ⟨by dsimp only; omega, by dsimp only; omega⟩
  have HX4d := (show Hid (Box3 w4.drew g2 76 (.string me) (.string nt) (.int .i64 mo)) from HX4.out.stays (Below.refl _ _).drew)
  have HY4d := (show Hid (Box3 w4.drew w.heap.size 36 (.int .i64 (k : Int)) (.string s) (.int .i64 (u : Int))) from HY4.out.stays (Below.refl _ _).drew)
  have hn2 : (some g3 : Option Nat) ≠ some g2 := fun e => by injection e with e; omega
  have hnw : (some g3 : Option Nat) ≠ some w.heap.size := fun e => by injection e with e; omega
  go_region_held3 (fun W => W.cell? ⟨g2, 1, none⟩ = some (.string nt) ∧ W.cell? ⟨w.heap.size, 2, none⟩ = some (.int .i64 (u : Int))) (first | (refine ⟨?_, ?_⟩ <;> assumption) | (exact ⟨cell_old _ (by assumption) (by assumption), cell_old _ (by assumption) (by assumption)⟩) | go_keep) (first
    | (refine step_append_own rfl (.tmp 25) (.tmp 32) 30 rfl w.heap.size 69 i0 (.agg #[.string ⟨#[]⟩, .string ⟨#[]⟩]) 2 32 Tryz.underlying30 hi hz0 hz1 hz2 rfl (by decide) (.slice (some ⟨g3, 0, none⟩) 3 3) 3 (fieldCells (threeF (k : Int) s)) rfl (ho1.alloc _) ⟨y1.heap.size, 0, none⟩ 1 1 (fieldCells [(nt, dt)]) rfl rfl (field_new y1 nt dt) (fieldCells_one _) (by unfold maxLen; omega) (by omega) (by have := hbw1.size; simp; omega) ?_; intro v2 y2 hown2 hgrow2; have hb2 : Below w.heap.size w y2 := (hbw1.alloc hbw1.size _).grown hgrow2 (by have := hbw1.size; simp; omega) (fun q hq => (ho1.lt q hq).1); obtain ⟨z0, z1, z2⟩ := ((hx1.alloc _).grown hgrow2 hn2).cells; obtain ⟨z3, z4, z5⟩ := ((hy1.alloc _).grown hgrow2 hnw).cells)
    | (go_at_call 57; refine (HTx.out _ HB4d.out).mono ?_; rintro e y1 ⟨rfl, hb1⟩; have ho1 := own_below HO4d.out hb1; have hbw1 : Below w.heap.size w y1 := HB4d.out.trans (hb1.mono HB4d.out.size); have hx1 := HX4d.out.stays hb1; have hy1 := HY4d.out.stays hb1; obtain ⟨s0, s1, s2⟩ := hx1.cells; obtain ⟨s3, s4, s5⟩ := hy1.cells; have hg2' : g2 < y1.heap.size := hx1.lt; have hgw' : w.heap.size < y1.heap.size := hy1.lt)
    | fail)
  all_goals
    obtain ⟨a6, c6, rfl⟩ := OwnF.shape (xs := threeF (k : Int) s ++ [(nt, dt)]) ⟨by rw [fieldCells_append]; exact hown2, HV.out⟩
    have HO7 : Hid (OwnF y2 w.heap.size (.slice a6 4 c6) 4 (threeF (k : Int) s ++ [(nt, dt)])) := ⟨by rw [fieldCells_append]; exact hown2, HV.out⟩
    have HB7 : Hid (Below w.heap.size w y2) := hb2
    clear hown2 hgrow2 hb2 ho1 hbw1 hx1 hy1 hb1
    go_wp2_with fail
    go_ret
    have hlen : (threeF (k : Int) s ++ [(nt, dt)]).length = 4 := by rw [List.length_append, HTl.out]; rfl
    exact ⟨a6, c6, by rw [HF2.out, hlen]; rfl, by rw [HF2.out, hlen]; exact HO7.out, HB7.out⟩

end Go.Proofs.YtbaijmkghgnleaaGreatDoor

namespace Go.Proofs.YtbaijmkghgnleaaGreatDoor
open Go.RowKit
set_option linter.unusedVariables false

set_option maxRecDepth 10000 in
set_option maxHeartbeats 3200000 in
theorem implPuts_any (m : Int) (a : Option Addr) (len ca : Nat) (xs : List Fld) (la : Option Addr) (ll lc : Nat) (L : List Fld) (w : World) (hx : Flds w a len xs) (hL : Flds w la ll L) (hl : len + ll + fldBytes xs + fldBytes L ≤ 1048576) :
    Calls Tryz.prog 32 #[.agg #[.int .i64 m, .slice a len ca], .slice la ll lc] w fun e w' => ∃ (q : List Int) (a' : Option Addr) (c' : Nat) (v : Value) (n : Nat) (ys : List Fld), e = .returned (.tuple #[.slice a' q.length c', .agg #[.int .i64 m, v]]) ∧ PutN L m xs ll q ys ∧ Owns w' w.heap.size a' q.length c' q ∧ OwnF w' w.heap.size v n ys ∧ Below w.heap.size w w' := by
  obtain ⟨i0, hi, hz0, hz1, hz2⟩ := info_parts Tryz.info5
  have HX : Hid (Flds w a len xs) := hx
  have HL : Hid (Flds w la ll L) := hL
  have hlen := hx.1
  have hll := hL.1
  clear hx hL
  obtain ⟨w2, hw2⟩ : ∃ w2, ((w.alloc (.cells #[.int .i64 m, .slice a len ca] 32)).alloc (.cells #[.int .i64 0, .slice none 0 0] 32)) = w2 := ⟨_, rfl⟩
  have q1 : Box2 w2 w.heap.size 32 (.int .i64 m) (.slice a len ca) := by rw [← hw2]; exact (Box2.new _ _ _ _).alloc _
  have q2 : Box2 w2 (w.heap.size + 1) 32 (.int .i64 0) (.slice none 0 0) := by
    rw [← hw2]
    have := Box2.new (w.alloc (.cells #[.int .i64 m, .slice a len ca] 32)) 32 (.int .i64 0) (.slice none 0 0)
    rwa [World.size_alloc] at this
  have HB2 : Hid (Below w.heap.size w w2) := by show Below _ _ _; rw [← hw2]; exact ((Below.refl _ _).alloc (Nat.le_refl _) _).alloc (by simp) _
  have HW2 : Hid (w2.heap.size = w.heap.size + 2) := by show _ = _; rw [← hw2]; simp
  have HQ2 : Hid (Box2 w2 (w.heap.size + 1) 32 (.int .i64 0) (.slice none 0 0)) := q2
  obtain ⟨c0, c1, _, _⟩ := q1.cells
  clear q2
  obtain ⟨w3, hw3⟩ : ∃ w3, w2.alloc (.cells #[] 5) = w3 := ⟨_, rfl⟩
  have hb3 : Below w2.heap.size w2 w3 := by rw [← hw3]; exact (Below.refl _ _).alloc (Nat.le_refl _) _
  have HO3 : Hid (Owns w3 w2.heap.size (some ⟨w2.heap.size, 0, none⟩) 0 0 []) := by
    show Owns _ _ _ _ _ _
    rw [← hw3]
    exact ⟨⟨rfl, .inr ⟨w2.heap.size, 0, #[], rfl, Nat.le_refl _, heap_alloc_new w2 _, Nat.le_refl _, by decide, rfl, rfl⟩⟩, by simp⟩
  have HB3 : Hid (Below w2.heap.size w2 w3) := hb3
  obtain ⟨d0, d1, _, _⟩ := (q1.stays hb3).cells
  clear hb3 q1
  go_enter Tryz.func32, Tryz.ntmps32
  go_wp2_with fail
  refine (implCopy_any m a len ca xs _ (HX.out.below (HB2.out.trans (HB3.out.mono HB2.out.size))) (by omega)).mono ?_
  rintro e w4 ⟨v4, rfl, how4, hb4⟩
  obtain ⟨a4, c4, rfl⟩ := how4.shape
  have HS4 : Hid (PSt w (w4.alloc (.cells #[.int .i64 m, .slice a4 len c4] 32)) w4.heap.size m [] 0 w2.heap.size 0 a4 len c4 xs) := by
    have hb24 : Below w2.heap.size w2 w4 := HB3.out.trans (hb4.mono HB3.out.size)
    have hn := (Below.refl w4.heap.size w4).alloc (Nat.le_refl _) (.cells #[.int .i64 m, .slice a4 len c4] 32)
    have hs := HW2.out
    have hs4 := hb24.size
    have hs3 := HB3.out.size
    have hb5 : Below w.heap.size w w4 := HB2.out.trans (hb24.mono HB2.out.size)
    refine ⟨hb5.alloc hb5.size _, by omega, (HQ2.out.stays hb24).stays hn, Box2.new _ _ _ _, ?_, ?_⟩
    · exact ((HO3.out.below hb4).below hn).low (by omega)
    · have := how4.stays hn
      exact ⟨own_down this.1 (by omega), this.2⟩
  clear hb4 how4 HO3 HB3 HQ2 c0 c1 d0 d1 hw2 hw3
  go_wp2_with fail
  obtain ⟨bb, hbb⟩ : ∃ bb, w4.heap.size = bb := ⟨_, rfl⟩
  obtain ⟨w5, hw5⟩ : ∃ w5, w4.alloc (.cells #[.int .i64 m, .slice a4 len c4] 32) = w5 := ⟨_, rfl⟩
  rw [hw5, hbb] at HS4
  rw [hw5, hbb]
  clear hw5 hbb
  go_loopw [6, 17] (fun v i wr => ∃ (k : Nat) (q : List Int) (ql g c : Nat) (va : Option Addr) (n vc : Nat) (ys : List Fld), k ≤ ll ∧ i = .int .i64 k ∧ v = .slice (some ⟨g, 0, none⟩) ql c ∧ Hid (q.length = ql) ∧ Hid (PutN L m xs k q ys) ∧ Hid (PSt w wr bb m q ql g c va n vc ys)) (fun _ i _ => ll - (intOf i).toNat)
  case atStart => exact ⟨0, [], 0, _, 0, a4, len, c4, xs, Nat.zero_le _, rfl, rfl, rfl, ⟨rfl, rfl⟩, HS4⟩
  case round =>
    clear HS4
    obtain ⟨k, q, ql, g, c, va, n, vc, ys, hk, rfl, rfl, HQL, HP, HS⟩ := hrel
    have hfit := HP.out.fits
    have hyn : ys.length = n := HS.out.2.2.2.2.2.len
    have hql := HQL.out
    by_cases hlt : k < ll
    · obtain ⟨ba, oa, x, y, rfl, hba, hfa, ha0, ha1⟩ := HL.out.at hlt
      have ga0 : wr.cell? ⟨ba, oa + k * 2, none⟩ = some (.string x) := (HS.out.1.cell (p := ⟨ba, _, none⟩) hba).trans ha0
      have ga1 : wr.cell? ⟨ba, oa + k * 2 + 1, none⟩ = some (.string y) := (HS.out.1.cell (p := ⟨ba, _, none⟩) hba).trans ha1
      have hst := fldBytes_step L k x y hfa
      have hle := fldBytes_take L (k + 1)
      have hbd : n + (x.size + y.size) + fldBytes ys ≤ 1048576 := by omega
      have hqb : ql + (x.size + y.size + 18) ≤ 100000000 := by omega
      have hxs : x.size ≤ maxLen := by unfold maxLen; omega
      have hys : y.size ≤ maxLen := by unfold maxLen; omega
      have HF : Hid (L[k]? = some (x, y)) := hfa
      clear hfa hst hle ha0 ha1 hfit hyn hql
      have hki : (k : Int) < (ll : Int) := by omega
      have hk0 : (0 : Int) ≤ (k : Int) := by omega
      obtain ⟨x1, hx1⟩ : ∃ x1, wr.alloc (.cells #[.string x, .string y] 69) = x1 := ⟨_, rfl⟩
      have hb1 : Below wr.heap.size wr x1 := by rw [← hx1]; exact (Below.refl _ _).alloc (Nat.le_refl _) _
      have HS1 : Hid (PSt w x1 bb m q ql g c va n vc ys) := HS.out.stays hb1
      obtain ⟨u0, u1, _, _⟩ := HS1.out.2.2.2.1.cells
      obtain ⟨u2, u3, _, _⟩ : x1.cell? ⟨wr.heap.size, 0, none⟩ = some (.string x) ∧ x1.cell? ⟨wr.heap.size, 1, none⟩ = some (.string y) ∧ x1.frozen? ⟨wr.heap.size, 0, none⟩ = false ∧ x1.frozen? ⟨wr.heap.size, 1, none⟩ = false := by rw [← hx1]; exact (Box2.new wr 69 (.string x) (.string y)).cells
      clear hb1
      by_cases hsx : (x.toList == [97, 117, 116, 104, 111, 114, 105, 122, 97, 116, 105, 111, 110]) = true
      · have HMd : Hid (fmode x = 3) := by show _ = _; rw [fmode, if_pos hsx]
        go_wp2_with fail
        refine (implPutF_any m va n vc ys x y 3 _ HS1.out.2.2.2.2.2.flds ⟨hxs, hys⟩ hbd).mono ?_
        rintro e x2 ⟨r, ra, rc, v2, n2, zs, rfl, hadd, hor, how, hb⟩
        obtain ⟨a2, c2, rfl⟩ := how.shape
        obtain ⟨rl, hrl⟩ : ∃ rl, r.length = rl := ⟨_, rfl⟩
        have HAdd : Hid (PutAns m ys x y (fmode x) r zs) := by show PutAns _ _ _ _ _ _ _; rw [HMd.out]; exact hadd
        have hrl2 : rl ≤ x.size + y.size + 18 := by have := hadd.fits.2.2; omega
        rw [hrl] at hor ⊢
        have HRL : Hid (r.length = rl) := hrl
        have hs2 := HS1.out.stays hb
        have HS3 : Hid (PSt w ((x2.setCell ⟨bb, 0, none⟩ (.int .i64 m)).setCell ⟨bb, 1, none⟩ (.slice a2 n2 c2)) bb m q ql g c a2 n2 c2 zs) := hs2.put HS1.out.1.size how
        have HR3 : Hid (Owns ((x2.setCell ⟨bb, 0, none⟩ (.int .i64 m)).setCell ⟨bb, 1, none⟩ (.slice a2 n2 c2)) x1.heap.size ra rl rc r) := owns_setTwo hor hs2.2.2.2.1 _ _
        obtain ⟨b0, b1, b2, b3⟩ := hs2.2.2.2.1.cells
        clear hadd hor how hb hrl hs2 u0 u1 u2 u3 ga0 ga1 hx1
        obtain ⟨x3, hx3⟩ : ∃ x3, (x2.setCell ⟨bb, 0, none⟩ (.int .i64 m)).setCell ⟨bb, 1, none⟩ (.slice a2 n2 c2) = x3 := ⟨_, rfl⟩
        rw [hx3] at HS3 HR3
        have HSrc : Hid (Src Tryz.prog 1 27 (.slice ra rl rc) rl (r.map (Value.int .u8)) x3) := Src.ofSeg Tryz.underlying27 HR3.out.seg HR3.out.none
        have hA : ql + rl ≤ maxLen := by unfold maxLen; omega
        have hA2 : (ql + rl) * 1 ≤ 140737488355328 := by omega
        go_wp2_with (at_builtin; refine wpList_append_got rfl _ _ 27 27 rfl w.heap.size 5 i0 (.int .u8 0) 1 1 Tryz.underlying27 hi hz0 hz1 hz2 rfl (by decide) g ql c (q.map (Value.int .u8)) rfl HS3.out.2.2.2.2.1.1 (.slice ra rl rc) rl (r.map (Value.int .u8)) rfl HSrc.out hA hA2 HS3.out.1.size ?_; intro g' c' x4 hown hgrow; refine Hid.out ?_)
        refine hidden ?_
        have HS5 : Hid (PSt w x4 bb m (q ++ r) (ql + rl) g' c' a2 n2 c2 zs) := HS3.out.app hgrow hown HR3.out.2
        clear hown hgrow HS3 HR3 HSrc hx3 b0 b1 b2 b3 hA hA2
        go_wp2
        go_roundw
        case rel =>
          refine ⟨k + 1, q ++ r, ql + rl, g', c', a2, n2, c2, zs, by omega, by go_num, rfl, ?_, ⟨q, ys, x, y, r, HP.out, HF.out, HAdd.out, rfl⟩, HS5⟩
          show _ = _
          rw [List.length_append, HQL.out, HRL.out]
        case measure => simp [intOf]; omega
      · have HMd : Hid (fmode x = 1) := by show _ = _; rw [fmode, if_neg hsx]
        have hs1 : (x.toList == [97, 117, 116, 104, 111, 114, 105, 122, 97, 116, 105, 111, 110]) = false := by simpa using hsx
        clear hsx
        go_wp2_with fail
        refine (implPutF_any m va n vc ys x y 1 _ HS1.out.2.2.2.2.2.flds ⟨hxs, hys⟩ hbd).mono ?_
        rintro e x2 ⟨r, ra, rc, v2, n2, zs, rfl, hadd, hor, how, hb⟩
        obtain ⟨a2, c2, rfl⟩ := how.shape
        obtain ⟨rl, hrl⟩ : ∃ rl, r.length = rl := ⟨_, rfl⟩
        have HAdd : Hid (PutAns m ys x y (fmode x) r zs) := by show PutAns _ _ _ _ _ _ _; rw [HMd.out]; exact hadd
        have hrl2 : rl ≤ x.size + y.size + 18 := by have := hadd.fits.2.2; omega
        rw [hrl] at hor ⊢
        have HRL : Hid (r.length = rl) := hrl
        have hs2 := HS1.out.stays hb
        have HS3 : Hid (PSt w ((x2.setCell ⟨bb, 0, none⟩ (.int .i64 m)).setCell ⟨bb, 1, none⟩ (.slice a2 n2 c2)) bb m q ql g c a2 n2 c2 zs) := hs2.put HS1.out.1.size how
        have HR3 : Hid (Owns ((x2.setCell ⟨bb, 0, none⟩ (.int .i64 m)).setCell ⟨bb, 1, none⟩ (.slice a2 n2 c2)) x1.heap.size ra rl rc r) := owns_setTwo hor hs2.2.2.2.1 _ _
        obtain ⟨b0, b1, b2, b3⟩ := hs2.2.2.2.1.cells
        clear hadd hor how hb hrl hs2 u0 u1 u2 u3 ga0 ga1 hx1
        obtain ⟨x3, hx3⟩ : ∃ x3, (x2.setCell ⟨bb, 0, none⟩ (.int .i64 m)).setCell ⟨bb, 1, none⟩ (.slice a2 n2 c2) = x3 := ⟨_, rfl⟩
        rw [hx3] at HS3 HR3
        have HSrc : Hid (Src Tryz.prog 1 27 (.slice ra rl rc) rl (r.map (Value.int .u8)) x3) := Src.ofSeg Tryz.underlying27 HR3.out.seg HR3.out.none
        have hA : ql + rl ≤ maxLen := by unfold maxLen; omega
        have hA2 : (ql + rl) * 1 ≤ 140737488355328 := by omega
        go_wp2_with (at_builtin; refine wpList_append_got rfl _ _ 27 27 rfl w.heap.size 5 i0 (.int .u8 0) 1 1 Tryz.underlying27 hi hz0 hz1 hz2 rfl (by decide) g ql c (q.map (Value.int .u8)) rfl HS3.out.2.2.2.2.1.1 (.slice ra rl rc) rl (r.map (Value.int .u8)) rfl HSrc.out hA hA2 HS3.out.1.size ?_; intro g' c' x4 hown hgrow; refine Hid.out ?_)
        refine hidden ?_
        have HS5 : Hid (PSt w x4 bb m (q ++ r) (ql + rl) g' c' a2 n2 c2 zs) := HS3.out.app hgrow hown HR3.out.2
        clear hown hgrow HS3 HR3 HSrc hx3 b0 b1 b2 b3 hA hA2
        go_wp2
        go_roundw
        case rel =>
          refine ⟨k + 1, q ++ r, ql + rl, g', c', a2, n2, c2, zs, by omega, by go_num, rfl, ?_, ⟨q, ys, x, y, r, HP.out, HF.out, HAdd.out, rfl⟩, HS5⟩
          show _ = _
          rw [List.length_append, HQL.out, HRL.out]
        case measure => simp [intOf]; omega
    · obtain rfl : k = ll := by omega
      have hki : ¬ (k : Int) < (k : Int) := by omega
      obtain ⟨c0, c1, _, _⟩ := HS.out.2.2.2.1.cells
      obtain ⟨c2, c3, c4', c5⟩ := HS.out.2.2.1.cells
      have HFn : Hid _ := HS.out.fin
      clear hfit hyn hql
      go_wp2_with fail
      go_region
      all_goals
        clear c0 c1 c4' c5
        go_wp2_with fail
        refine bodyPost_ret (v := .tuple #[.slice (some ⟨g, 0, none⟩) ql c, .agg #[.int .i64 m, .slice va n vc]]) (by simp [results, Tryz.f32, go_sem, c2, c3]) rfl ?_
        exact ⟨q, _, _, _, n, ys, by rw [HQL.out], HP.out, by rw [HQL.out]; exact HFn.out.2.2.1, HFn.out.2.2.2, HFn.out.1⟩

end Go.Proofs.YtbaijmkghgnleaaGreatDoor

namespace Go.Proofs.YtbaijmkghgnleaaGreatDoor
open Go.RowKit
set_option linter.unusedVariables false

theorem fieldsR_small {op n : Int} {x : ByteArray} (h : reqB op x.data.toList n = true) : fldBytes (fieldsR op x n) ≤ 1000 := by
  obtain ⟨h8, _, hn⟩ := reqB_id h
  have hm := methT_size op
  have hk := nameT_size op
  rw [fieldsR, if_pos h]
  have happ : fldBytes (threeF op x ++ numF op n) = fldBytes (threeF op x) + fldBytes (numF op n) := by simp [fldBytes]
  have h3 : fldBytes (threeF op x) = (7 + (methT op).size) + ((7 + 5) + ((5 + ((⟨#[47, 117, 112, 47]⟩ : ByteArray) ++ x).size) + 0)) := rfl
  have h4 : ((⟨#[47, 117, 112, 47]⟩ : ByteArray) ++ x).size = 4 + x.size := by rw [ByteArray.size_append]; rfl
  have h5 : fldBytes (numF op n) ≤ 100 := by
    unfold numF
    split
    · simp [fldBytes]
    · rename_i hne
      obtain ⟨hn0, hn1⟩ := hn hne
      have hd := decDigits_le 9 n.toNat (by omega)
      show (nameT op).size + (Lib.decDigits n.toNat).toArray.size + 0 ≤ 100
      rw [List.size_toArray]
      omega
  omega

theorem askLaw (m : Int) (a : Option Addr) (len ca : Nat) (xs : List Fld) (s op n : Int) (x : ByteArray) (ba : Option Addr) (L C : Nat) (zs : List Int) (most : Int) (w : World) (hl : len ≤ maxLen) (hx : Flds w a len xs) (hxs : x.size ≤ maxLen) (hL : L ≤ maxLen) (hs : Seg w ba L zs) (ht : MethT w) (hst : TabT w) :
    Calls Tryz.prog 3 #[.agg #[.int .i64 m, .slice a len ca], .int .i64 s, .agg #[.int .i64 op, .string x, .int .i64 n], .slice ba L C, .int .i64 most] w fun e w' => e = .returned (.bool true) ∧ Below w.heap.size w w' := by
  have hmm : maxLen < 9223372036854775808 := by decide
  refine askWalk m a len ca xs s op x n ba L C zs most w hx hl hxs hs hL (fun h => by have := fieldsR_small h; omega) ?_
  intro g gb W hb hsz hL2 hf hsg
  refine implAsk_any m _ len len xs s op x n gb 0 L L zs most W hf (by omega) hsg (Nat.le_refl _) hL2 ?_ ?_
  · exact fun V hV => implReqOk_any op x n V (by omega) ((ht.below hb).below hV)
  · intro hrq hok V hV
    refine (implFields_any op x n V (by omega) ((ht.below hb).below hV) ((hst.below hb).below hV)).mono ?_
    rintro e v1 ⟨A, C1, rfl, ho, hb1⟩
    refine ⟨A, _, C1, rfl, hb1, fun V' hV' => ?_⟩
    have hbs := fieldsR_small hrq
    have hfl := fieldsR_len op x n
    have hxk := okT_short hok
    have hxl : xs.length = len := hf.1
    have hVV : Below W.heap.size W V' := hV.trans ((hb1.trans (hV'.mono hb1.size)).mono hV.size)
    refine (implPuts_any m _ len len xs A _ C1 (fieldsR op x n) V' (hf.below hVV) (ho.flds.below hV') (by omega)).mono ?_
    rintro e v2 ⟨q, a', c', v, k, ys, rfl, hp, hoq, hof, hb2⟩
    have hq := hp.fits.2.2
    have htk := fldBytes_take (fieldsR op x n) (fieldsR op x n).length
    exact ⟨q, a', _, c', v, k, ys, rfl, hp, by omega, hoq, hof, hb2⟩

end Go.Proofs.YtbaijmkghgnleaaGreatDoor

namespace Go.Proofs.YtbaijmkghgnleaaGreatDoor
open Go.RowKit Go.ChangeShapes Go.WideShapes
set_option linter.unusedVariables false

theorem Flds.opened {H : Type} {enc : TypeId × Value → H} {w : World} {fuel : Nat} {v : Value} {x : DataW H × List MemPlace} (h : DataW.trod enc Tryz.prog w 0 (fun _ => true) true fuel 22 [v] = some x) :
    ∃ a len cap xs, v = .slice a len cap ∧ len ≤ maxLen ∧ Flds w a len xs := by
  rcases Go.Deep.open_slice_pairs Tryz.underlying22 Tryz.underlying65 (by kernel_rfl) rfl rfl (by kernel_rfl) (by kernel_rfl) h with ⟨hcs, _⟩ | ⟨a, len, cap, m, n, V0, V1, D0, D1, P0, P1, hcs, _, hl, hm, hmm, _, hc⟩
  · simp at hcs
    exact ⟨none, 0, 0, [], hcs, Nat.zero_le _, rfl, by simp, .inl rfl⟩
  · simp at hcs hmm
    subst hmm
    have hs : ∀ i, i < m → ∃ f : Fld, V0 i = .string f.1 ∧ V1 i = .string f.2 ∧ f.1.size ≤ maxLen ∧ f.2.size ≤ maxLen := by
      intro i hi
      obtain ⟨_, _, h0, h1⟩ := hc i hi
      obtain ⟨s, e0, _, z0⟩ := DataW.trod_string Tryz.underlying9 h0
      obtain ⟨t, e1, _, z1⟩ := DataW.trod_string Tryz.underlying9 h1
      exact ⟨(s, t), by simpa using e0, by simpa using e1, z0, z1⟩
    refine ⟨some a, len, m, (List.range len).map fun i => if hi : i < m then Classical.choose (hs i hi) else (⟨#[]⟩, ⟨#[]⟩), hcs, by omega, by simp, ?_, ?_⟩
    · intro f hf
      obtain ⟨i, hi, rfl⟩ := List.mem_map.1 hf
      have him : i < m := by have := List.mem_range.1 hi; omega
      rw [dif_pos him]
      exact (Classical.choose_spec (hs i him)).2.2
    · by_cases h0 : len = 0
      · exact .inl h0
      · right
        obtain ⟨b, off, spot⟩ := a
        have hspot : spot = none := by simpa [Addr.add] using World.cell?_spot (hc 0 (by omega)).1
        subst hspot
        have key : ∀ i (hi : i < m), w.cell? ⟨b, off + i * 2, none⟩ = some (.string (Classical.choose (hs i hi)).1) ∧ w.cell? ⟨b, off + i * 2 + 1, none⟩ = some (.string (Classical.choose (hs i hi)).2) := by
          intro i hi
          have hq := Classical.choose_spec (hs i hi)
          have hcc := hc i hi
          rw [← hq.1, ← hq.2.1]
          by_cases hi0 : i = 0
          · subst hi0
            exact ⟨by simpa [Addr.add] using hcc.1, by simpa [Addr.add] using hcc.2.1⟩
          · exact ⟨by simpa [Addr.add, show ¬ i * 2 = 0 by omega] using hcc.1, by simpa [Addr.add, Nat.add_assoc] using hcc.2.1⟩
        refine ⟨b, off, rfl, lt_of_cell (key 0 (by omega)).1, fun i hi => ?_⟩
        have hil : i < len := by simpa using hi
        have := key i (by omega)
        simpa [show i < m by omega] using this

set_option maxRecDepth 100000 in
theorem table_opened {H : Type} {enc : TypeId × Value → H} {w : World} {r : Reach} {b0 : Nat} {v : Value} {d : DataW H} {p : List MemPlace} (hv : Value.okWide Tryz.prog w r b0 24 v) (h : DataW.Trod enc Tryz.prog w 0 (fun _ => true) true 24 v d p) :
    ∃ (m : Int) (a : Option Addr) (len cap : Nat) (xs : List Fld), v = .agg #[.int .i64 m, .slice a len cap] ∧ (Lit.int .i64 m).wf = true ∧ len ≤ maxLen ∧ Flds w a len xs := by
  obtain ⟨v0, v1, y0, y1, n, rfl, _, _, h0, h1⟩ := Go.Joins.open_agg2 Tryz.underlying24 (by kernel_rfl) (by kernel_rfl) hv h
  obtain ⟨m, e0, _, hm⟩ := DataW.trod_int Tryz.underlying3 h0
  obtain ⟨a, len, cap, xs, rfl, hl, hx⟩ := Flds.opened h1
  exact ⟨m, a, len, cap, xs, by simp at e0; rw [e0], hm, hl, hx⟩

set_option maxRecDepth 100000 in
theorem field_opened {H : Type} {enc : TypeId × Value → H} {w : World} {r : Reach} {b0 : Nat} {v : Value} {d : DataW H} {p : List MemPlace} (hv : Value.okWide Tryz.prog w r b0 65 v) (h : DataW.Trod enc Tryz.prog w 0 (fun _ => true) true 65 v d p) :
    ∃ (x y : ByteArray), v = .agg #[.string x, .string y] ∧ x.size ≤ maxLen ∧ y.size ≤ maxLen := by
  obtain ⟨v0, v1, y0, y1, n, rfl, _, _, h0, h1⟩ := Go.Joins.open_agg2 Tryz.underlying65 (by kernel_rfl) (by kernel_rfl) hv h
  obtain ⟨s, e0, _, z0⟩ := DataW.trod_string Tryz.underlying9 h0
  obtain ⟨t, e1, _, z1⟩ := DataW.trod_string Tryz.underlying9 h1
  exact ⟨s, t, by simp at e0 e1; rw [e0, e1], z0, z1⟩

end Go.Proofs.YtbaijmkghgnleaaGreatDoor

namespace Go.Proofs.YtbaijmkghgnleaaGreatDoor
open Go.RowKit Go.ChangeShapes Go.WideShapes
set_option linter.unusedVariables false

set_option maxRecDepth 100000 in
theorem req_opened {H : Type} {enc : TypeId × Value → H} {w : World} {r : Reach} {b0 : Nat} {v : Value} {d : DataW H} {p : List MemPlace} (hv : Value.okWide Tryz.prog w r b0 26 v) (h : DataW.Trod enc Tryz.prog w 0 (fun _ => true) true 26 v d p) :
    ∃ (op n : Int) (s : ByteArray), v = .agg #[.int .i64 op, .string s, .int .i64 n] ∧ s.size ≤ maxLen ∧ (-9223372036854775808 ≤ op ∧ op ≤ 9223372036854775807) ∧ (-9223372036854775808 ≤ n ∧ n ≤ 9223372036854775807) := by
  obtain ⟨v0, v1, v2, y0, y1, y2, m, rfl, _, _, h0, h1, h2⟩ := Go.Joins.open_agg3 Tryz.underlying26 (by kernel_rfl) (by kernel_rfl) hv h
  obtain ⟨op, e0, _, ho⟩ := DataW.trod_int Tryz.underlying3 h0
  obtain ⟨s, e1, _, z1⟩ := DataW.trod_string Tryz.underlying9 h1
  obtain ⟨n, e2, _, hn⟩ := DataW.trod_int Tryz.underlying3 h2
  exact ⟨op, n, s, by simp at e0 e1 e2; rw [e0, e1, e2], z1, bounds_i64 ho, bounds_i64 hn⟩

end Go.Proofs.YtbaijmkghgnleaaGreatDoor

namespace Go.Proofs.YtbaijmkghgnleaaGreatDoor
open Go.RowKit Go.ChangeShapes Go.WideShapes
set_option linter.unusedVariables false

/-- A row of the table, as it is read. -/
def rowD {H : Type} (k : Nat) : DataW H := .agg [.lit (.string (methT (k : Int)).data.toList), .lit (.string (nameT (k : Int)).data.toList), .lit (.int .i64 (mostT k))]

/-- The table, as it is read. -/
def methD {H : Type} : DataW H := .agg ((List.range 7).map rowD)

theorem str_of {H : Type} {enc : TypeId × Value → H} {w : World} {base fuel : Nat} {sp : Nat → Bool} {held : Bool} {x : Value} {m : ByteArray} {p : List MemPlace}
    (h : DataW.trod enc Tryz.prog w base sp held fuel 9 [x] = some (.lit (.string m.data.toList), p)) : x = .string m := by
  obtain ⟨s, e1, e2, _⟩ := DataW.trod_string Tryz.underlying9 h
  simp only [Prod.mk.injEq, DataW.lit.injEq, Lit.string.injEq] at e2
  have : s.data = m.data := Array.ext' e2.1.symm
  cases s
  cases m
  simp only at this
  subst this
  simpa using e1

theorem int_of {H : Type} {enc : TypeId × Value → H} {w : World} {base fuel : Nat} {sp : Nat → Bool} {held : Bool} {x : Value} {n : Int} {p : List MemPlace}
    (h : DataW.trod enc Tryz.prog w base sp held fuel 3 [x] = some (.lit (.int .i64 n), p)) : x = .int .i64 n := by
  obtain ⟨z, e1, e2, _⟩ := DataW.trod_int Tryz.underlying3 h
  simp only [Prod.mk.injEq, DataW.lit.injEq, Lit.int.injEq] at e2
  rw [e2.1.2]
  simpa using e1

theorem methCellsE : Tryz.prog.cellsOf 76 = 3 := by kernel_rfl
theorem methCellsS : Tryz.prog.cellsOf 9 = 1 := by kernel_rfl
theorem methCellsI : Tryz.prog.cellsOf 3 = 1 := by kernel_rfl
theorem methCellsT : Tryz.prog.cellsOf 77 = 21 := by kernel_rfl

theorem three_of {l : List Value} (h : l.length = 3) : ∃ a b c, l = [a, b, c] := by
  rcases l with _ | ⟨a, _ | ⟨b, _ | ⟨c, _ | ⟨d, r⟩⟩⟩⟩
  · cases h
  · cases h
  · cases h
  · exact ⟨a, b, c, rfl⟩
  · exact absurd h (by simp)

theorem row_of {H : Type} {enc : TypeId × Value → H} {w : World} {base fuel : Nat} {sp : Nat → Bool} {held : Bool} {cs : List Value} {k : Nat} {p : List MemPlace}
    (h : DataW.trod enc Tryz.prog w base sp held fuel 76 cs = some (rowD k, p)) : cs = [.string (methT (k : Int)), .string (nameT (k : Int)), .int .i64 (mostT k)] := by
  cases fuel with
  | zero => simp [DataW.trod] at h
  | succ fuel =>
    simp only [DataW.trod, Tryz.underlying76, methCellsE] at h
    split at h
    · rename_i hl
      obtain ⟨a, b, c, rfl⟩ := three_of hl
      simp [methCellsS, methCellsI, rowD, Option.bind_eq_some_iff] at h
      obtain ⟨r1, p1, h1, l, ⟨r2, p2, h2, l2, ⟨r3, p3, h3, rfl⟩, rfl⟩, ⟨e1, e2⟩, _⟩ := h
      simp at e2
      obtain ⟨e2, e3⟩ := e2
      subst e1 e2 e3
      rw [str_of h1, str_of h2, int_of h3]
    · cases h

theorem methG : Tryz.prog.globalNamed "loop.example/g00199/impl.methods" = some 0 := by kernel_rfl
theorem methGT : (Tryz.prog.globals[0]?).map (·.type) = some 77 := by kernel_rfl

theorem methT_of_laid {W : World} {rest : List (String × DataW Unit)} (h : laidMet Tryz.prog (("loop.example/g00199/impl.methods", methD) :: rest) W) : MethT W := by
  obtain ⟨ps, ⟨g', t', cs, fuel, p, q, hg', ht', hvar, hd, _, _⟩, _⟩ := h
  obtain rfl := Option.some.inj (methG.symm.trans hg')
  obtain rfl := Option.some.inj (methGT.symm.trans ht')
  have hcell := fun i => World.var?_cell methG hvar i
  have hrow : ∀ k, k < 7 → (cs.toList.drop (k * 3)).take 3 = [.string (methT (k : Int)), .string (nameT (k : Int)), .int .i64 (mostT k)] := by
    intro k hk
    cases fuel with
    | zero => simp [DataW.trod] at hd
    | succ fuel =>
      simp only [DataW.trod, Tryz.underlying77, methCellsE, methCellsT] at hd
      split at hd
      · obtain ⟨xs, hm, hx⟩ := Option.map_eq_some_iff.1 hd
        have hxs : xs.map (·.1) = (List.range 7).map rowD := by
          have := congrArg Prod.fst hx
          simpa [methD] using this
        obtain ⟨b, hb, hf⟩ := Lib.mapM_at hm k k (by simp [hk])
        have h2 : (xs.map (·.1))[k]? = some b.1 := by simp [hb]
        rw [hxs, List.getElem?_map, List.getElem?_range hk] at h2
        simp only [Option.map_some, Option.some.injEq] at h2
        obtain ⟨b1, b2⟩ := b
        dsimp only at h2
        subst h2
        exact row_of hf
      · cases hd
  refine ⟨?_, fun k hk => ?_⟩
  · have h0 := hrow 0 (by omega)
    have := hcell 0
    have h1 : cs[0]? = some (.string (methT 0)) := by
      have := congrArg (·[0]?) h0
      simpa using this
    rw [h1] at this
    exact lt_of_cell this
  · have h0 := hrow k (by omega)
    rw [hcell, hcell, hcell]
    have h1 := congrArg (·[0]?) h0
    have h2 := congrArg (·[1]?) h0
    have h3 := congrArg (·[2]?) h0
    simp only [List.getElem?_take, List.getElem?_drop] at h1 h2 h3
    simp at h1 h2 h3
    exact ⟨h1, h2, h3⟩

end Go.Proofs.YtbaijmkghgnleaaGreatDoor
