/- The law of requests: a drawn request that is right comes back of its fields, and an answer does, too. Under the program's table, the library's and its two errors. -/
import Derived.Test.YthojijhafhnclaeDoorReqBack
import Derived.Test.YthojijhafhnclaeDoorDrawReqP
import Derived.Test.YthojijhafhnclaeDoorRespOfI
import Derived.Test.YthojijhafhnclaeDoorReqFldI
import Derived.Test.YthojijhafhnclaeDoorLawBig
namespace Go.Proofs.YthojijhafhnclaeDoor
open Go.RowKit
set_option linter.unusedVariables false

theorem fieldsR_small (op n : Int) (s : ByteArray) (hs : s.size ≤ 8) (h : reqB op s.data.toList n = true) : ∀ f ∈ fieldsR op s n, f.2.size ≤ 281474976710656 := by
  intro f hf
  rw [fieldsR, if_pos h] at hf
  rcases List.mem_append.1 hf with h1 | h1
  · simp only [threeF, List.mem_cons, List.not_mem_nil, or_false] at h1
    have hm := methT_size op
    have hsz : ((⟨#[47, 117, 112, 47]⟩ : ByteArray) ++ s).size = 4 + s.size := by rw [ByteArray.size_append]; rfl
    rcases h1 with rfl | rfl | rfl
    · dsimp only; omega
    · decide
    · dsimp only; omega
  · unfold numF at h1
    split at h1
    · cases h1
    · rename_i hnt
      obtain rfl : f = (nameT op, ⟨(Lib.decDigits n.toNat).toArray⟩) := by simpa using h1
      have hb := (reqB_id h).2.2 hnt
      have := decDigits_le 9 n.toNat (by omega)
      show (Lib.decDigits n.toNat).toArray.size ≤ _
      simp
      omega

theorem respF_small (st off : Int) (h : respB st off = true) : ∀ f ∈ respF st off, f.2.size ≤ 281474976710656 := by
  have hb := respB_st h
  intro f hf
  by_cases ho : off < 0
  · obtain rfl : off = -1 := by omega
    rw [respF_one h] at hf
    obtain rfl : f = (⟨#[58, 115, 116, 97, 116, 117, 115]⟩, numT st) := by simpa using hf
    have := numT_size (n := st) (by omega) (by omega)
    dsimp only
    omega
  · rw [respF_two h (by omega)] at hf
    simp only [List.mem_cons, List.not_mem_nil, or_false] at hf
    have h1 := numT_size (n := st) (by omega) (by omega)
    have h2 := numT_size (n := off) (by omega) (by omega)
    rcases hf with rfl | rfl <;> dsimp only <;> omega

set_option maxRecDepth 10000 in
set_option maxHeartbeats 3200000 in
theorem lawReqs_any (a : Option Addr) (len cap : Nat) (zs : List Int) (w : World) (hm : len ≤ maxLen) (hs : Seg w a len zs) (ht : MethT w) (hst : StdT w) :
    Calls Tryd.prog 3 #[.slice a len cap] w fun e w' => e = .returned (.bool true) ∧ Below w.heap.size w w' := by
  have HS : Hid (Seg w a len zs) := hs
  have HM : Hid (MethT w) := ht
  have HT : Hid (StdT w) := hst
  clear hs ht hst
  go_enter Tryd.func3, Tryd.ntmps3
  go_wp2_with fail
  refine (big_any a len cap w hm).mono ?_
  rintro e w0 ⟨rfl, hw0⟩
  subst hw0
  by_cases hbig : (1048576 : Int) < (len : Int)
  · rw [decide_eq_true hbig]
    go_wp2_with fail
    go_ret
    exact ⟨rfl, Below.refl _ _⟩
  rw [decide_eq_false hbig]
  have hl : len ≤ 1099511627776 := by omega
  clear hbig hm
  go_wp2_with fail
  refine (drawReq_any a len cap zs w0 HS.out hl).mono ?_
  rintro e w1 ⟨op, n, s, st, off, rfl, hr, hs8, hrs, hb1⟩
  have HB1 : Hid (Below w0.heap.size w0 w1) := hb1
  have HR : Hid (reqB op s.data.toList n = true) := hr
  have HRs : Hid (respB st off = true) := hrs
  have hs9 : s.size ≤ 9223372036854775807 := by omega
  have HFl : Hid (∀ f ∈ fieldsR op s n, f.2.size ≤ 281474976710656) := fieldsR_small op n s hs8 hr
  have HRl : Hid (∀ f ∈ respF st off, f.2.size ≤ 281474976710656) := respF_small st off hrs
  clear hb1 hr hs8 hrs HS
  have HX2 : Hid (Box3 (w1.alloc (.cells #[.int .i64 op, .string s, .int .i64 n] 25)) w1.heap.size 25 (.int .i64 op) (.string s) (.int .i64 n)) := Box3.new _ _ _ _ _
  have HB2 : Hid (Below w0.heap.size w0 (w1.alloc (.cells #[.int .i64 op, .string s, .int .i64 n] 25))) := HB1.out.alloc HB1.out.size _
  have HY3 : Hid (Box2R ((w1.alloc (.cells #[.int .i64 op, .string s, .int .i64 n] 25)).alloc (.cells #[.int .i64 st, .int .i64 off] 27)) (w1.heap.size + 1) 27 (.int .i64 st) (.int .i64 off)) := by
    have := Box2R.new (w1.alloc (.cells #[.int .i64 op, .string s, .int .i64 n] 25)) 27 (.int .i64 st) (.int .i64 off)
    rwa [World.size_alloc] at this
  have HX3 : Hid (Box3 ((w1.alloc (.cells #[.int .i64 op, .string s, .int .i64 n] 25)).alloc (.cells #[.int .i64 st, .int .i64 off] 27)) w1.heap.size 25 (.int .i64 op) (.string s) (.int .i64 n)) := HX2.out.alloc _
  have HB3 : Hid (Below w0.heap.size w0 ((w1.alloc (.cells #[.int .i64 op, .string s, .int .i64 n] 25)).alloc (.cells #[.int .i64 st, .int .i64 off] 27))) := HB2.out.alloc HB2.out.size _
  go_wp2_with fail
  obtain ⟨w3, hw3⟩ : ∃ w3, (w1.alloc (.cells #[.int .i64 op, .string s, .int .i64 n] 25)).alloc (.cells #[.int .i64 st, .int .i64 off] 27) = w3 := ⟨_, rfl⟩
  rw [hw3] at HX3 HY3 HB3 ⊢
  clear hw3 HX2 HB2 HB1
  generalize w1.heap.size = g1 at *
  refine (implFields_any op s n w3 hs9 (HM.out.below HB3.out) (HT.out.below HB3.out).1).mono ?_
  rintro e w4 ⟨lA, lC, rfl, ho4, hb4⟩
  have HL : Hid ((fieldsR op s n).length ≤ 4) := fieldsR_len op s n
  have HL3 : Hid (3 ≤ (fieldsR op s n).length) := by
    show _ ≤ _
    rw [fieldsR, if_pos HR.out, List.length_append]
    exact Nat.le_add_right 3 _
  have HBk : Hid (∀ tl, tl = [] ∨ tl = [otherF] → reqOfR (fieldsR op s n ++ tl) = ((op, s, n), 0)) := fun tl h => req_back HR.out tl h
  obtain ⟨fs, hfs⟩ : ∃ fs, fieldsR op s n = fs := ⟨_, rfl⟩
  rw [hfs] at ho4 HL HL3 HFl HBk ⊢
  clear hfs
  have HO4 : Hid (OwnF w4 w3.heap.size (.slice lA fs.length lC) fs.length fs) := ho4
  have HX4 := (show Hid (Box3 w4 g1 25 (.int .i64 op) (.string s) (.int .i64 n)) from HX3.out.stays hb4)
  have HY4 := (show Hid (Box2R w4 (g1 + 1) 27 (.int .i64 st) (.int .i64 off)) from HY3.out.stays hb4)
  have HB4 : Hid (Below w0.heap.size w0 w4) := HB3.out.trans (hb4.mono HB3.out.size)
  clear ho4 hb4 HX3 HY3 HB3
  have HR0 := (show Hid (reqOfR fs = ((op, s, n), 0)) from by have := HBk.out [] (.inl rfl); rw [List.append_nil] at this; exact this)
  have hfl := HL.out
  have hf3 := HL3.out
  obtain ⟨lq, rfl⟩ : ∃ lq, lA = some ⟨lq, 0, none⟩ := by
    rcases HO4.out.1.2 with ⟨e, h⟩ | ⟨g, cap', cur, e, _⟩
    · omega
    · injection e with e1 _ _
      exact ⟨g, e1⟩
  go_wp2_with fail
  refine (implReqOf_any (some ⟨lq, 0, none⟩) fs.length lC fs w4 HO4.out.flds (by omega) HFl.out (HM.out.below HB4.out) (HT.out.below HB4.out)).mono ?_
  rintro e w5 ⟨rfl, hb5⟩
  rw [HR0.out]
  have HO5 : Hid (OwnF w5 w3.heap.size (.slice (some ⟨lq, 0, none⟩) fs.length lC) fs.length fs) := ⟨own_below HO4.out.1 hb5, HO4.out.2⟩
  have HX5 := (show Hid (Box3 w5 g1 25 (.int .i64 op) (.string s) (.int .i64 n)) from HX4.out.stays hb5)
  have HY5 := (show Hid (Box2R w5 (g1 + 1) 27 (.int .i64 st) (.int .i64 off)) from HY4.out.stays hb5)
  have HB5 : Hid (Below w0.heap.size w0 w5) := HB4.out.trans (hb5.mono HB4.out.size)
  clear hb5 HO4 HX4 HY4 HB4
  obtain ⟨d0, d1⟩ := HY5.out.cells
  have HU6 : Hid (Box3 (w5.alloc (.cells #[.int .i64 op, .string s, .int .i64 n] 25)) w5.heap.size 25 (.int .i64 op) (.string s) (.int .i64 n)) := Box3.new _ _ _ _ _
  have HO6 : Hid (OwnF (w5.alloc (.cells #[.int .i64 op, .string s, .int .i64 n] 25)) w3.heap.size (.slice (some ⟨lq, 0, none⟩) fs.length lC) fs.length fs) := ⟨own_below HO5.out.1 ((Below.refl _ _).alloc (Nat.le_refl _) _), HO5.out.2⟩
  have HX6 : Hid (Box3 (w5.alloc (.cells #[.int .i64 op, .string s, .int .i64 n] 25)) g1 25 (.int .i64 op) (.string s) (.int .i64 n)) := HX5.out.alloc _
  have HY6 : Hid (Box2R (w5.alloc (.cells #[.int .i64 op, .string s, .int .i64 n] 25)) (g1 + 1) 27 (.int .i64 st) (.int .i64 off)) := HY5.out.alloc _
  have HB6 : Hid (Below w0.heap.size w0 (w5.alloc (.cells #[.int .i64 op, .string s, .int .i64 n] 25))) := HB5.out.alloc HB5.out.size _
  obtain ⟨d0, d1⟩ := HY6.out.cells
  go_wp2_with fail
  obtain ⟨w6, hw6⟩ : ∃ w6, w5.alloc (.cells #[.int .i64 op, .string s, .int .i64 n] 25) = w6 := ⟨_, rfl⟩
  rw [hw6] at HU6 HO6 HX6 HY6 HB6 ⊢
  clear hw6 d0 d1 HO5 HX5 HY5 HB5
  generalize w5.heap.size = g5 at *
  refine (implRespF_any st off w6 (HT.out.below HB6.out).1).mono ?_
  rintro e w7 ⟨rA, rC, rfl, ho7, hb7⟩
  have HLr : Hid ((respF st off).length ≤ 4) := respF_len st off
  have HRb : Hid (respOfR (respF st off) = ((st, off), true)) := resp_back HRs.out
  obtain ⟨rs, hrs⟩ : ∃ rs, respF st off = rs := ⟨_, rfl⟩
  rw [hrs] at ho7 HLr HRl HRb ⊢
  clear hrs
  have hrl := HLr.out
  have HF7 : Hid (Flds w7 rA rs.length rs) := ho7.flds
  have HO7 : Hid (OwnF w7 w3.heap.size (.slice (some ⟨lq, 0, none⟩) fs.length lC) fs.length fs) := ⟨own_below HO6.out.1 hb7, HO6.out.2⟩
  have HU7 := (show Hid (Box3 w7 g5 25 (.int .i64 op) (.string s) (.int .i64 n)) from HU6.out.stays hb7)
  have HX7 := (show Hid (Box3 w7 g1 25 (.int .i64 op) (.string s) (.int .i64 n)) from HX6.out.stays hb7)
  have HY7 := (show Hid (Box2R w7 (g1 + 1) 27 (.int .i64 st) (.int .i64 off)) from HY6.out.stays hb7)
  have HB7 : Hid (Below w0.heap.size w0 w7) := HB6.out.trans (hb7.mono HB6.out.size)
  clear ho7 hb7 HO6 HU6 HX6 HY6 HB6
  go_wp2_with fail
  refine (implRespOf_any rA rs.length rC rs w7 HF7.out (by omega) HRl.out (HT.out.below HB7.out)).mono ?_
  rintro e w8 ⟨rfl, hb8⟩
  rw [HRb.out]
  have HO8 : Hid (OwnF w8 w3.heap.size (.slice (some ⟨lq, 0, none⟩) fs.length lC) fs.length fs) := ⟨own_below HO7.out.1 hb8, HO7.out.2⟩
  have HU8 := (show Hid (Box3 w8 g5 25 (.int .i64 op) (.string s) (.int .i64 n)) from HU7.out.stays hb8)
  have HX8 := (show Hid (Box3 w8 g1 25 (.int .i64 op) (.string s) (.int .i64 n)) from HX7.out.stays hb8)
  have HY8 := (show Hid (Box2R w8 (g1 + 1) 27 (.int .i64 st) (.int .i64 off)) from HY7.out.stays hb8)
  have HB8 : Hid (Below w0.heap.size w0 w8) := HB7.out.trans (hb8.mono HB7.out.size)
  clear hb8 HO7 HU7 HX7 HY7 HB7 HF7
  have HV9 : Hid (Box2R (w8.alloc (.cells #[.int .i64 st, .int .i64 off] 27)) w8.heap.size 27 (.int .i64 st) (.int .i64 off)) := Box2R.new _ _ _ _
  have HO9 : Hid (OwnF (w8.alloc (.cells #[.int .i64 st, .int .i64 off] 27)) w3.heap.size (.slice (some ⟨lq, 0, none⟩) fs.length lC) fs.length fs) := ⟨own_below HO8.out.1 ((Below.refl _ _).alloc (Nat.le_refl _) _), HO8.out.2⟩
  have HU9 : Hid (Box3 (w8.alloc (.cells #[.int .i64 st, .int .i64 off] 27)) g5 25 (.int .i64 op) (.string s) (.int .i64 n)) := HU8.out.alloc _
  have HX9 : Hid (Box3 (w8.alloc (.cells #[.int .i64 st, .int .i64 off] 27)) g1 25 (.int .i64 op) (.string s) (.int .i64 n)) := HX8.out.alloc _
  have HY9 : Hid (Box2R (w8.alloc (.cells #[.int .i64 st, .int .i64 off] 27)) (g1 + 1) 27 (.int .i64 st) (.int .i64 off)) := HY8.out.alloc _
  have HB9 : Hid (Below w0.heap.size w0 (w8.alloc (.cells #[.int .i64 st, .int .i64 off] 27))) := HB8.out.alloc HB8.out.size _
  obtain ⟨i0, hi, hz0, hz1, hz2⟩ := info_parts info_field
  have hgl : g1 + 1 < w8.heap.size := HY8.out.lt
  have hgu : g5 < w8.heap.size := HU8.out.lt
  have hbs : w0.heap.size ≤ w8.heap.size := HB8.out.size
  have HOe : Hid (((w8.alloc (.cells #[.int .i64 st, .int .i64 off] 27)).alloc (.cells #[] 38)).ownsRow (w8.heap.size + 1) 38 2 (.slice (some ⟨w8.heap.size + 1, 0, none⟩) 0 0) 0 []) := by
    have := World.ownsRow_lit (base := w8.heap.size + 1) (e := 38) (size := 2) (w8.alloc (.cells #[.int .i64 st, .int .i64 off] 27)) #[] 0 (by simp) (Nat.zero_le _) rfl
    rwa [World.size_alloc] at this
  have HSrc : Hid (∀ j v, (fieldCells fs)[j]? = some v → ((w8.alloc (.cells #[.int .i64 st, .int .i64 off] 27)).alloc (.cells #[] 38)).cell? ((⟨lq, 0, none⟩ : Addr).add j) = some v) := by
    intro j v hj
    have h9 : OwnF ((w8.alloc (.cells #[.int .i64 st, .int .i64 off] 27)).alloc (.cells #[] 38)) w3.heap.size (.slice (some ⟨lq, 0, none⟩) fs.length lC) fs.length fs := ⟨own_below HO9.out.1 ((Below.refl _ _).alloc (Nat.le_refl _) _), HO9.out.2⟩
    rw [Addr.add_lit, Nat.zero_add]
    have hlt := (List.getElem?_eq_some_iff.1 hj).1
    rw [h9.1.cellAt j (by rw [fieldCells_len] at hlt; omega)]
    exact hj
  have HBe : Hid (Below w0.heap.size w0 ((w8.alloc (.cells #[.int .i64 st, .int .i64 off] 27)).alloc (.cells #[] 38))) := HB9.out.alloc (by simp; omega) _
  have HVe : Hid (Box2R ((w8.alloc (.cells #[.int .i64 st, .int .i64 off] 27)).alloc (.cells #[] 38)) w8.heap.size 27 (.int .i64 st) (.int .i64 off)) := HV9.out.alloc _
  have HUe : Hid (Box3 ((w8.alloc (.cells #[.int .i64 st, .int .i64 off] 27)).alloc (.cells #[] 38)) g5 25 (.int .i64 op) (.string s) (.int .i64 n)) := HU9.out.alloc _
  have HXe : Hid (Box3 ((w8.alloc (.cells #[.int .i64 st, .int .i64 off] 27)).alloc (.cells #[] 38)) g1 25 (.int .i64 op) (.string s) (.int .i64 n)) := HX9.out.alloc _
  have HYe : Hid (Box2R ((w8.alloc (.cells #[.int .i64 st, .int .i64 off] 27)).alloc (.cells #[] 38)) (g1 + 1) 27 (.int .i64 st) (.int .i64 off)) := HY9.out.alloc _
  have HFv : Hid (∀ f ∈ fs, f.1.size ≤ maxLen ∧ f.2.size ≤ maxLen) := HO9.out.2
  clear HV9 HO9 HU9 HX9 HY9 HB9 HO8 HU8 HX8 HY8 HB8
  go_wp2_with (at_builtin; refine wpList_append_own _ rfl _ _ 30 rfl (w8.heap.size + 1) 38 i0 (.agg #[.string ⟨#[]⟩, .string ⟨#[]⟩]) 2 32 Tryd.underlying30 hi hz0 hz1 hz2 rfl (by decide) (.slice (some ⟨w8.heap.size + 1, 0, none⟩) 0 0) 0 [] rfl HOe.out ⟨lq, 0, none⟩ fs.length lC (fieldCells fs) rfl (by rw [fieldCells_len]; omega) HSrc.out (fieldCells_one _) (by unfold maxLen; omega) (by omega) (by simp) ?_; intro v1 x1 hown1 hgrow1 _; refine Hid.out ?_)
  refine hidden ?_
  have hr1 : ∀ b : Nat, b < w8.heap.size + 1 → (Value.slice (some ⟨w8.heap.size + 1, 0, none⟩) 0 0).ownBlock ≠ some b := fun b hb e => by have := (HOe.out.lt b e).1; omega
  have HB10 : Hid (Below w0.heap.size w0 x1) := HBe.out.grown hgrow1 (by simp; omega) (fun q hq => by have := (HOe.out.lt q hq).1; omega)
  have HV10 := (show Hid (Box2R x1 w8.heap.size 27 (.int .i64 st) (.int .i64 off)) from HVe.out.grown hgrow1 (hr1 _ (by omega)))
  have HU10 := (show Hid (Box3 x1 g5 25 (.int .i64 op) (.string s) (.int .i64 n)) from HUe.out.grown hgrow1 (hr1 _ (by omega)))
  have HX10 := (show Hid (Box3 x1 g1 25 (.int .i64 op) (.string s) (.int .i64 n)) from HXe.out.grown hgrow1 (hr1 _ (by omega)))
  have HY10 := (show Hid (Box2R x1 (g1 + 1) 27 (.int .i64 st) (.int .i64 off)) from HYe.out.grown hgrow1 (hr1 _ (by omega)))
  have HO10 : Hid (x1.ownsRow (w8.heap.size + 1) 38 2 v1 fs.length (fieldCells fs)) := by rw [Nat.zero_add] at hown1; exact hown1
  have hsz1 : w8.heap.size + 1 < x1.heap.size := by have := hgrow1.size; simp at this; omega
  clear hown1 hgrow1 hr1 HOe HSrc HBe HVe HUe HXe HYe
  have HOf : Hid ((x1.alloc (.cells #[.string ⟨#[120, 45, 111, 116, 104, 101, 114]⟩, .string ⟨#[49]⟩] 38)).ownsRow (w8.heap.size + 1) 38 2 v1 (fs.length) (fieldCells fs)) := HO10.out.alloc _
  have HNw : Hid (∀ j v, (fieldCells [otherF])[j]? = some v → (x1.alloc (.cells #[.string ⟨#[120, 45, 111, 116, 104, 101, 114]⟩, .string ⟨#[49]⟩] 38)).cell? ((⟨x1.heap.size, 0, none⟩ : Addr).add j) = some v) := field_new x1 _ _
  go_wp2_with (at_builtin; refine wpList_append_own _ rfl _ _ 30 rfl (w8.heap.size + 1) 38 i0 (.agg #[.string ⟨#[]⟩, .string ⟨#[]⟩]) 2 32 Tryd.underlying30 hi hz0 hz1 hz2 rfl (by decide) v1 (fs.length) (fieldCells fs) rfl HOf.out ⟨x1.heap.size, 0, none⟩ 1 1 (fieldCells [otherF]) rfl rfl HNw.out (fieldCells_one _) (by unfold maxLen; omega) (by omega) (by simp; omega) ?_; intro v2 x2 hown2 hgrow2 _; refine Hid.out ?_)
  refine hidden ?_
  have hr2 : ∀ b : Nat, b < w8.heap.size + 1 → v1.ownBlock ≠ some b := fun b hb e => by have := (HO10.out.lt b e).1; omega
  have HB11 : Hid (Below w0.heap.size w0 x2) := (HB10.out.alloc HB10.out.size _).grown hgrow2 (by have := HB10.out.size; simp; omega) (fun q hq => by have := (HO10.out.lt q hq).1; omega)
  have HV11 := (show Hid (Box2R x2 w8.heap.size 27 (.int .i64 st) (.int .i64 off)) from (HV10.out.alloc _).grown hgrow2 (hr2 _ (by omega)))
  have HU11 := (show Hid (Box3 x2 g5 25 (.int .i64 op) (.string s) (.int .i64 n)) from (HU10.out.alloc _).grown hgrow2 (hr2 _ (by omega)))
  have HX11 := (show Hid (Box3 x2 g1 25 (.int .i64 op) (.string s) (.int .i64 n)) from (HX10.out.alloc _).grown hgrow2 (hr2 _ (by omega)))
  have HY11 := (show Hid (Box2R x2 (g1 + 1) 27 (.int .i64 st) (.int .i64 off)) from (HY10.out.alloc _).grown hgrow2 (hr2 _ (by omega)))
  have HO11 : Hid (OwnF x2 (w8.heap.size + 1) v2 (fs.length + 1) (fs ++ [otherF])) := ⟨by rw [fieldCells_append]; exact hown2, fun f hf => by
    rcases List.mem_append.1 hf with h | h
    · exact HFv.out f h
    · obtain rfl : f = otherF := by simpa using h
      exact ⟨by decide, by decide⟩⟩
  clear hown2 hgrow2 hr2 HOf HNw HO10 HB10 HV10 HU10 HX10 HY10
  obtain ⟨vA, vC, rfl⟩ := HO11.out.shape
  have HF11 : Hid (Flds x2 vA (fs.length + 1) (fs ++ [otherF])) := HO11.out.flds
  have HR11 := (show Hid (reqOfR (fs ++ [otherF]) = ((op, s, n), 0)) from HBk.out _ (.inr rfl))
  have HFb : Hid (∀ f ∈ fs ++ [otherF], f.2.size ≤ 281474976710656) := fun f hf => by
    rcases List.mem_append.1 hf with h | h
    · exact HFl.out f h
    · obtain rfl : f = otherF := by simpa using h
      decide
  go_wp2_with fail
  refine (implReqOf_any vA (fs.length + 1) vC (fs ++ [otherF]) x2 HF11.out (by omega) HFb.out (HM.out.below HB11.out) (HT.out.below HB11.out)).mono ?_
  rintro e x3 ⟨rfl, hb12⟩
  rw [HR11.out]
  have HB12 : Hid (Below w0.heap.size w0 x3) := HB11.out.trans (hb12.mono HB11.out.size)
  have HV12 := (show Hid (Box2R x3 w8.heap.size 27 (.int .i64 st) (.int .i64 off)) from HV11.out.stays hb12)
  have HU12 := (show Hid (Box3 x3 g5 25 (.int .i64 op) (.string s) (.int .i64 n)) from HU11.out.stays hb12)
  have HX12 := (show Hid (Box3 x3 g1 25 (.int .i64 op) (.string s) (.int .i64 n)) from HX11.out.stays hb12)
  have HY12 := (show Hid (Box2R x3 (g1 + 1) 27 (.int .i64 st) (.int .i64 off)) from HY11.out.stays hb12)
  clear hb12 HB11 HV11 HU11 HX11 HY11 HO11 HF11 HFb
  have HB13 : Hid (Below w0.heap.size w0 (x3.alloc (.cells #[.int .i64 op, .string s, .int .i64 n] 25))) := HB12.out.alloc HB12.out.size _
  have HV13 : Hid (Box2R (x3.alloc (.cells #[.int .i64 op, .string s, .int .i64 n] 25)) w8.heap.size 27 (.int .i64 st) (.int .i64 off)) := HV12.out.alloc _
  have HU13 : Hid (Box3 (x3.alloc (.cells #[.int .i64 op, .string s, .int .i64 n] 25)) g5 25 (.int .i64 op) (.string s) (.int .i64 n)) := HU12.out.alloc _
  have HX13 : Hid (Box3 (x3.alloc (.cells #[.int .i64 op, .string s, .int .i64 n] 25)) g1 25 (.int .i64 op) (.string s) (.int .i64 n)) := HX12.out.alloc _
  have HY13 : Hid (Box2R (x3.alloc (.cells #[.int .i64 op, .string s, .int .i64 n] 25)) (g1 + 1) 27 (.int .i64 st) (.int .i64 off)) := HY12.out.alloc _
  clear HB12 HV12 HU12 HX12 HY12
  obtain ⟨c0, c1, c2⟩ := HX13.out.cells
  go_wp2_with fail
  obtain ⟨x4, hx4⟩ : ∃ x4, (x3.alloc (.cells #[.int .i64 op, .string s, .int .i64 n] 25)) = x4 := ⟨_, rfl⟩
  rw [hx4] at HB13 HV13 HU13 HX13 HY13 ⊢
  clear hx4 c0 c1 c2
  refine (implReqOk_any op s n x4 hs9 (HM.out.below HB13.out)).mono ?_
  rintro e x5 ⟨rfl, hb14⟩
  rw [HR.out]
  have HB14 : Hid (Below w0.heap.size w0 x5) := HB13.out.trans (hb14.mono HB13.out.size)
  have HV14 := (show Hid (Box2R x5 w8.heap.size 27 (.int .i64 st) (.int .i64 off)) from HV13.out.stays hb14)
  have HU14 := (show Hid (Box3 x5 g5 25 (.int .i64 op) (.string s) (.int .i64 n)) from HU13.out.stays hb14)
  have HX14 := (show Hid (Box3 x5 g1 25 (.int .i64 op) (.string s) (.int .i64 n)) from HX13.out.stays hb14)
  have HY14 := (show Hid (Box2R x5 (g1 + 1) 27 (.int .i64 st) (.int .i64 off)) from HY13.out.stays hb14)
  clear hb14 HB13 HV13 HU13 HX13 HY13
  obtain ⟨c0, c1, c2⟩ := HX14.out.cells
  obtain ⟨u0, u1, u2⟩ := HU14.out.cells
  obtain ⟨d0, d1⟩ := HY14.out.cells
  obtain ⟨v0, v3⟩ := HV14.out.cells
  have e1 : (op == op) = true := by simp
  have e2 : (s.toList == s.toList) = true := by simp
  have e3 : (n == n) = true := by simp
  have e4 : (st == st) = true := by simp
  have e5 : (off == off) = true := by simp
  go_wp2_with fail
  refine (implRespOk_any st off x5).mono ?_
  rintro e x6 ⟨rfl, hb15⟩
  rw [HRs.out]
  have HB15 : Hid (Below w0.heap.size w0 x6) := HB14.out.trans (hb15.mono HB14.out.size)
  clear hb15
  go_wp2_with fail
  go_ret
  exact ⟨rfl, HB15.out⟩

end Go.Proofs.YthojijhafhnclaeDoor
