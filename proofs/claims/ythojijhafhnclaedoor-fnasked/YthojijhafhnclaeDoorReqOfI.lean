/- What the program's ReqOf answers: the request that fields are, or a fault. For values of at most 2^48 bytes, under the program's table, the library's table and two errors. -/
import Derived.Test.YthojijhafhnclaeDoorReqFormI
import Derived.Test.YthojijhafhnclaeDoorReqOpI
import Derived.Test.YthojijhafhnclaeDoorReqPathI
import Derived.Test.YthojijhafhnclaeDoorReqNumI
import Derived.Test.YthojijhafhnclaeDoorBox4Set
import Derived.Deep.CutBlock
namespace Go.Proofs.YthojijhafhnclaeDoor
open Go.RowKit
set_option linter.unusedVariables false

theorem below_set3' {B : Nat} {w W : World} (h : Below B w W) {b : Nat} (hb : B ≤ b) (x y z : Value) : Below B w (((W.setCell ⟨b, 0, none⟩ x).setCell ⟨b, 1, none⟩ y).setCell ⟨b, 2, none⟩ z) :=
  ((h.setCell (p := ⟨b, 0, none⟩) hb _).setCell (p := ⟨b, 1, none⟩) hb _).setCell (p := ⟨b, 2, none⟩) hb _

theorem reqOfR_form {xs : List Fld} (h : formB xs = false) : reqOfR xs = (zeroR, 1) := by rw [reqOfR, if_pos h]

theorem only_of_form {xs : List Fld} (h : formB xs = true) : onlyR bM xs = (valF bM xs, true) ∧ onlyR bP xs = (valF bP xs, true) := by
  have h2 := (form_iff xs).1 h
  exact ⟨by rw [onlyR, if_pos h2.2.2.1], by rw [onlyR, if_pos h2.2.2.2.2.1]⟩

theorem reqOfR_meth {xs : List Fld} (h : formB xs = true) (h2 : opTo (valF bM xs).toList 6 = 0) : reqOfR xs = (zeroR, 2) := by
  rw [reqOfR, if_neg (by rw [h]; simp), if_pos h2]

theorem reqOfR_path {xs : List Fld} (h : formB xs = true) (h2 : ¬ opTo (valF bM xs).toList 6 = 0) (h3 : pathB (valF bP xs) = false) : reqOfR xs = (zeroR, 3) := by
  rw [reqOfR, if_neg (by rw [h]; simp), if_neg h2, if_pos h3]

theorem reqOfR_plain {xs : List Fld} (h : formB xs = true) {k : Nat} (hk : opTo (valF bM xs).toList 6 = (k : Int)) (hk1 : 1 ≤ k) (hn : ¬ (k = 1 ∨ k = 3 ∨ k = 4)) (h3 : pathB (valF bP xs) = true) : reqOfR xs = (((k : Int), (valF bP xs).extract 4 (valF bP xs).size, 0), 0) := by
  have hnt : (nameT (k : Int)).toList = [] := by rw [nameT, if_neg (by omega), if_neg (by omega), if_neg (by omega), bytes_list]
  rw [reqOfR, if_neg (by rw [h]; simp), hk, if_neg (by omega), if_neg (by rw [h3]; simp), if_pos hnt]

theorem reqOfR_num {xs : List Fld} (h : formB xs = true) {k : Nat} (hk : opTo (valF bM xs).toList 6 = (k : Int)) (hn : k = 1 ∨ k = 3 ∨ k = 4) (h3 : pathB (valF bP xs) = true) :
    reqOfR xs = if (numForR k xs).2 = true then (((k : Int), (valF bP xs).extract 4 (valF bP xs).size, (numForR k xs).1), 0) else (zeroR, 4) := by
  have hnt : ¬ (nameT (k : Int)).toList = [] := by rcases hn with rfl | rfl | rfl <;> simp [nameT, bytes_list]
  have hmo : mostR (k : Int) = mostT k := by rcases hn with rfl | rfl | rfl <;> rfl
  have hk0 : ¬ (k : Int) = 0 := by omega
  rw [reqOfR, if_neg (by rw [h]; simp), hk, if_neg hk0, if_neg (by rw [h3]; simp), if_neg hnt, hmo]
  obtain ⟨e1, e2⟩ := numM_upR (valF (nameT (k : Int)).toList xs).data.toList (mostT k)
  by_cases hc : cntF (nameT (k : Int)).toList xs = 1
  · have e3 : numForR k xs = upR (valF (nameT (k : Int)).toList xs).data.toList (mostT k) := by rw [numForR, if_pos hc]
    rw [e3]
    cases hu : (upR (valF (nameT (k : Int)).toList xs).data.toList (mostT k)).2
    · rw [if_pos (.inl (e1.trans hu)), if_neg (by simp)]
    · have e4 := e2 hu
      rw [if_neg (by rw [e1, hu]; simp [hc]), if_pos rfl, e4]
  · have e3 : numForR k xs = (0, false) := by rw [numForR, if_neg hc]
    rw [if_pos (.inr hc), e3, if_neg (by simp)]

theorem valF_bound (nm : List UInt8) : ∀ xs : List Fld, (∀ f ∈ xs, f.2.size ≤ 281474976710656) → (valF nm xs).size ≤ 281474976710656
  | [], _ => by show (0 : Nat) ≤ _; omega
  | f :: r, h => by
    unfold valF
    split
    · exact h f (by simp)
    · exact valF_bound nm r fun g hg => h g (by simp [hg])

set_option maxRecDepth 10000 in
set_option maxHeartbeats 3200000 in
theorem implReqOf_any (a : Option Addr) (len cap : Nat) (xs : List Fld) (w : World) (hx : Flds w a len xs) (hl : len ≤ 1099511627776) (hv : ∀ f ∈ xs, f.2.size ≤ 281474976710656) (ht : MethT w) (hs : StdT w) :
    Calls Tryd.prog 8 #[.slice a len cap] w fun e w' => e = .returned (.tuple #[.agg #[.int .i64 (reqOfR xs).1.1, .string (reqOfR xs).1.2.1, .int .i64 (reqOfR xs).1.2.2], .int .i64 (reqOfR xs).2]) ∧ Below w.heap.size w w' := by
  have HX : Hid (Flds w a len xs) := hx
  have HM : Hid (MethT w) := ht
  have HS : Hid (StdT w) := hs
  have HVb : Hid (∀ nm : List UInt8, (valF nm xs).size ≤ 281474976710656) := fun nm => valF_bound nm xs hv
  have HTl : Hid ((⟨#[58, 109, 101, 116, 104, 111, 100]⟩ : ByteArray).toList = bM ∧ (⟨#[58, 112, 97, 116, 104]⟩ : ByteArray).toList = bP) := by
    refine ⟨?_, ?_⟩ <;> (rw [bytes_list]; rfl)
  have HB1 : Hid (Below w.heap.size w (w.alloc (.cells #[.int .i64 0, .string ⟨#[]⟩, .int .i64 0] 25))) := (Below.refl _ _).alloc (Nat.le_refl _) _
  have HQ1 : Hid (Box3 (w.alloc (.cells #[.int .i64 0, .string ⟨#[]⟩, .int .i64 0] 25)) w.heap.size 25 (.int .i64 0) (.string ⟨#[]⟩) (.int .i64 0)) := Box3.new _ _ _ _ _
  clear hx ht hs hv
  go_enter Tryd.func8, Tryd.ntmps8
  go_wp2_with fail
  obtain ⟨w1, hw1⟩ : ∃ w1, w.alloc (.cells #[.int .i64 0, .string ⟨#[]⟩, .int .i64 0] 25) = w1 := ⟨_, rfl⟩
  rw [hw1] at HB1 HQ1 ⊢
  clear hw1
  refine (implForm_any a len cap xs w1 (HX.out.below HB1.out) hl).mono ?_
  rintro e w2 ⟨rfl, hb2⟩
  have HQ2 := (show Hid (Box3 w2 w.heap.size 25 (.int .i64 0) (.string ⟨#[]⟩) (.int .i64 0)) from HQ1.out.stays hb2)
  have HB2 : Hid (Below w.heap.size w w2) := HB1.out.trans (hb2.mono HB1.out.size)
  clear hb2 HQ1 HB1
  cases hfm : formB xs
  · have HR : Hid (reqOfR xs = (zeroR, 1)) := reqOfR_form hfm
    obtain ⟨g0, g1, g2⟩ := HQ2.out.cells
    have f0 := HQ2.out.frozen 0
    have f1 := HQ2.out.frozen 1
    have f2 := HQ2.out.frozen 2
    have HBl := (show Hid (Below w.heap.size w _) from below_set3' HB2.out (Nat.le_refl _) (.int .i64 0) (.string ⟨#[]⟩) (.int .i64 0))
    clear HQ2 hfm
    go_wp2
    refine bodyPost_ret (v := .tuple #[.agg #[.int .i64 0, .string ⟨#[]⟩, .int .i64 0], .int .i64 1]) (by simp [results, Tryd.f8, go_sem, g0, g1, g2]) rfl ?_
    exact ⟨by rw [HR.out]; rfl, HBl.out⟩
  have HFm : Hid (formB xs = true) := hfm
  have HOn : Hid (onlyR bM xs = (valF bM xs, true) ∧ onlyR bP xs = (valF bP xs, true)) := only_of_form hfm
  clear hfm
  go_wp2_with fail
  refine (implOnly_any a len cap xs _ w2 (HX.out.below HB2.out) hl).mono ?_
  rintro e w3 ⟨rfl, hb3⟩
  have HQ3 := (show Hid (Box3 w3 w.heap.size 25 (.int .i64 0) (.string ⟨#[]⟩) (.int .i64 0)) from HQ2.out.stays hb3)
  have HB3 : Hid (Below w.heap.size w w3) := HB2.out.trans (hb3.mono HB2.out.size)
  clear hb3 HQ2 HB2
  rw [HTl.out.1, HOn.out.1]
  go_wp2_with fail
  refine (implOp_any (valF bM xs) w3 (HM.out.below HB3.out)).mono ?_
  rintro e w4 ⟨rfl, hw4⟩
  subst hw4
  obtain ⟨k, hk⟩ : ∃ k : Nat, opTo (valF bM xs).toList 6 = (k : Int) := Int.eq_ofNat_of_zero_le (opTo_le _ 6).1
  have hk6 : k ≤ 6 := by have := (opTo_le (valF bM xs).toList 6).2; omega
  have HK : Hid (opTo (valF bM xs).toList 6 = (k : Int)) := hk
  rw [hk]
  clear hk
  by_cases hk0 : k = 0
  · subst hk0
    have HR : Hid (reqOfR xs = (zeroR, 2)) := reqOfR_meth HFm.out HK.out
    obtain ⟨g0, g1, g2⟩ := HQ3.out.cells
    have f0 := HQ3.out.frozen 0
    have f1 := HQ3.out.frozen 1
    have f2 := HQ3.out.frozen 2
    have HBl := (show Hid (Below w.heap.size w _) from below_set3' HB3.out (Nat.le_refl _) (.int .i64 0) (.string ⟨#[]⟩) (.int .i64 0))
    clear HQ3
    go_wp2
    refine bodyPost_ret (v := .tuple #[.agg #[.int .i64 0, .string ⟨#[]⟩, .int .i64 0], .int .i64 2]) (by simp [results, Tryd.f8, go_sem, g0, g1, g2]) rfl ?_
    exact ⟨by rw [HR.out]; rfl, HBl.out⟩
  have hkne : (((k : Int)) != 0) = true := by simp; omega
  rw [hkne]
  go_wp2_with fail
  refine (implOnly_any a len cap xs _ w4 (HX.out.below HB3.out) hl).mono ?_
  rintro e w5 ⟨rfl, hb5⟩
  have HQ5 := (show Hid (Box3 w5 w.heap.size 25 (.int .i64 0) (.string ⟨#[]⟩) (.int .i64 0)) from HQ3.out.stays hb5)
  have HB5 : Hid (Below w.heap.size w w5) := HB3.out.trans (hb5.mono HB3.out.size)
  clear hb5 HQ3 HB3
  rw [HTl.out.2, HOn.out.2]
  go_wp2_with fail
  refine (implIdOf_any (valF bP xs) w5 (by have := HVb.out bP; omega)).mono ?_
  rintro e w6 ⟨rfl, hb6⟩
  have HQ6 := (show Hid (Box3 w6 w.heap.size 25 (.int .i64 0) (.string ⟨#[]⟩) (.int .i64 0)) from HQ5.out.stays hb6)
  have HB6 : Hid (Below w.heap.size w w6) := HB5.out.trans (hb6.mono HB5.out.size)
  clear hb6 HQ5 HB5
  have HI : Hid (idOfR (valF bP xs) = if pathB (valF bP xs) = true then ((valF bP xs).extract 4 (valF bP xs).size, true) else (⟨#[]⟩, false)) := rfl
  cases hpa : pathB (valF bP xs)
  · have HR : Hid (reqOfR xs = (zeroR, 3)) := reqOfR_path HFm.out (by rw [HK.out]; omega) hpa
    rw [hpa, if_neg (by simp)] at HI
    rw [HI.out]
    obtain ⟨g0, g1, g2⟩ := HQ6.out.cells
    have f0 := HQ6.out.frozen 0
    have f1 := HQ6.out.frozen 1
    have f2 := HQ6.out.frozen 2
    have HBl := (show Hid (Below w.heap.size w _) from below_set3' HB6.out (Nat.le_refl _) (.int .i64 0) (.string ⟨#[]⟩) (.int .i64 0))
    clear HQ6 hpa
    go_wp2
    refine bodyPost_ret (v := .tuple #[.agg #[.int .i64 0, .string ⟨#[]⟩, .int .i64 0], .int .i64 3]) (by simp [results, Tryd.f8, go_sem, g0, g1, g2]) rfl ?_
    exact ⟨by rw [HR.out]; rfl, HBl.out⟩
  rw [hpa, if_pos rfl] at HI
  rw [HI.out]
  have HPa : Hid (pathB (valF bP xs) = true) := hpa
  clear hpa HI hkne
  obtain ⟨id, hid⟩ : ∃ id, (valF bP xs).extract 4 (valF bP xs).size = id := ⟨_, rfl⟩
  have HId : Hid ((valF bP xs).extract 4 (valF bP xs).size = id) := hid
  rw [hid]
  clear hid
  have HB7 : Hid (Below w.heap.size w (w6.alloc (.cells #[.int .i64 0, .string ⟨#[]⟩, .int .i64 0] 25))) := HB6.out.alloc HB6.out.size _
  have HQ7 : Hid (Box3 (w6.alloc (.cells #[.int .i64 0, .string ⟨#[]⟩, .int .i64 0] 25)) w.heap.size 25 (.int .i64 0) (.string ⟨#[]⟩) (.int .i64 0)) := HQ6.out.alloc _
  have HP7 : Hid (Box3 (w6.alloc (.cells #[.int .i64 0, .string ⟨#[]⟩, .int .i64 0] 25)) w6.heap.size 25 (.int .i64 0) (.string ⟨#[]⟩) (.int .i64 0)) := Box3.new _ _ _ _ _
  have hlt6 : w.heap.size < w6.heap.size := HQ6.out.lt
  go_upto_block 0 with fail
  obtain ⟨w7, hw7⟩ : ∃ w7, w6.alloc (.cells #[.int .i64 0, .string ⟨#[]⟩, .int .i64 0] 25) = w7 := ⟨_, rfl⟩
  rw [hw7] at HB7 HQ7 HP7 ⊢
  clear hw7 HQ6 HB6
  generalize w6.heap.size = g at *
  have hne : w.heap.size ≠ g := by omega
  by_cases hkn : k = 1 ∨ k = 3 ∨ k = 4
  case neg =>
    have HR : Hid (reqOfR xs = (((k : Int), id, 0), 0)) := by show _ = _; rw [reqOfR_plain HFm.out HK.out (by omega) hkn HPa.out, HId.out]
    have k1 : ((k : Int) == 1) = false := by simp; omega
    have k3 : ((k : Int) == 3) = false := by simp; omega
    have k4 : ((k : Int) == 4) = false := by simp; omega
    have HP8 := (show Hid (Box3 ((w7.setCell ⟨g, 0, none⟩ (.int .i64 (k : Int))).setCell ⟨g, 1, none⟩ (.string id)) g 25 (.int .i64 (k : Int)) (.string id) (.int .i64 0)) from box3_set1 (box3_set0 HP7.out _) _)
    have HQ8 := (show Hid (Box3 ((w7.setCell ⟨g, 0, none⟩ (.int .i64 (k : Int))).setCell ⟨g, 1, none⟩ (.string id)) w.heap.size 25 (.int .i64 0) (.string ⟨#[]⟩) (.int .i64 0)) from box3_other (box3_other HQ7.out hne) hne)
    have HB8 : Hid (Below w.heap.size w ((w7.setCell ⟨g, 0, none⟩ (.int .i64 (k : Int))).setCell ⟨g, 1, none⟩ (.string id))) := (HB7.out.setCell (p := ⟨g, 0, none⟩) (by show _ ≤ g; omega) _).setCell (p := ⟨g, 1, none⟩) (by show _ ≤ g; omega) _
    obtain ⟨p0, p1, p2⟩ := HP7.out.cells
    have q0 := HP7.out.frozen 0
    have q1 := HP7.out.frozen 1
    have q2 := HP7.out.frozen 2
    clear hkn HX HM HS HVb HTl HOn HFm HK HPa HId
    go_upto_region 20 with fail
    obtain ⟨w8, hw8⟩ : ∃ w8, (w7.setCell ⟨g, 0, none⟩ (.int .i64 (k : Int))).setCell ⟨g, 1, none⟩ (.string id) = w8 := ⟨_, rfl⟩
    rw [hw8] at HP8 HQ8 HB8 ⊢
    clear hw8 p0 p1 p2 q0 q1 q2 HP7 HQ7 HB7
    obtain ⟨p0, p1, p2⟩ := HP8.out.cells
    obtain ⟨g0, g1, g2⟩ := HQ8.out.cells
    have f0 := HQ8.out.frozen 0
    have f1 := HQ8.out.frozen 1
    have f2 := HQ8.out.frozen 2
    have HBl := (show Hid (Below w.heap.size w _) from below_set3' HB8.out (Nat.le_refl _) (.int .i64 (k : Int)) (.string id) (.int .i64 0))
    clear HQ8 HP8
    go_wp2
    refine bodyPost_ret (v := .tuple #[.agg #[.int .i64 (k : Int), .string id, .int .i64 0], .int .i64 0]) (by simp [results, Tryd.f8, go_sem, g0, g1, g2]) rfl ?_
    exact ⟨by rw [HR.out], HBl.out⟩
  have HR : Hid (reqOfR xs = if (numForR k xs).2 = true then (((k : Int), id, (numForR k xs).1), 0) else (zeroR, 4)) := by show _ = _; rw [reqOfR_num HFm.out HK.out hkn HPa.out, HId.out]
  have HN : Hid (∀ W, Below w.heap.size w W → Calls Tryd.prog 23 #[.int .i64 (k : Int), .slice a len cap] W fun e w' => e = .returned (.tuple #[.int .i64 (numForR k xs).1, .bool (numForR k xs).2]) ∧ Below W.heap.size W w') := fun W hW => implNumFor_any k hk6 a len cap xs W (HX.out.below hW) hl (HVb.out _) (HM.out.below hW) (HS.out.below hW)
  obtain ⟨nn, hnn⟩ : ∃ nn, numForR k xs = nn := ⟨_, rfl⟩
  rw [hnn] at HR HN
  clear HX HM HS HVb HTl HOn HFm HK HPa HId hnn hk0
  have hkc : (((k : Int) == 1) = true) ∨ (((k : Int) == 1) = false ∧ ((k : Int) == 3) = true) ∨ (((k : Int) == 1) = false ∧ ((k : Int) == 3) = false ∧ ((k : Int) == 4) = true) := by
    rcases hkn with rfl | rfl | rfl <;> simp
  clear hkn
  have hcall : ∀ (Q : Ending → World → Prop), (∀ W, Below w7.heap.size w7 W → Q (.returned (.tuple #[.int .i64 nn.1, .bool nn.2])) W) → Calls Tryd.prog 23 #[.int .i64 (k : Int), .slice a len cap] w7 Q := fun Q hQ => (HN.out w7 HB7.out).mono fun e W ⟨he, hb⟩ => by subst he; exact hQ W hb
  have HCall : Hid (∀ (Q : Ending → World → Prop), (∀ W, Below w7.heap.size w7 W → Q (.returned (.tuple #[.int .i64 nn.1, .bool nn.2])) W) → Calls Tryd.prog 23 #[.int .i64 (k : Int), .slice a len cap] w7 Q) := hcall
  clear hcall HN
  obtain ⟨n, b⟩ := nn
  cases b
  case false =>
    rw [if_neg (by simp)] at HR
    rcases hkc with h1 | ⟨h1, h2⟩ | ⟨h1, h2, h3⟩
    all_goals
      go_wp2_with fail
      refine HCall.out _ fun W hb => ?_
      have HB8 : Hid (Below w.heap.size w W) := HB7.out.trans (hb.mono HB7.out.size)
      have HP8 := (show Hid (Box3 W g 25 (.int .i64 0) (.string ⟨#[]⟩) (.int .i64 0)) from HP7.out.stays hb)
      have HQ8 := (show Hid (Box3 W w.heap.size 25 (.int .i64 0) (.string ⟨#[]⟩) (.int .i64 0)) from HQ7.out.stays hb)
      have HQ9 := (show Hid (Box3 (W.setCell ⟨g, 2, none⟩ (.int .i64 n)) w.heap.size 25 (.int .i64 0) (.string ⟨#[]⟩) (.int .i64 0)) from box3_other HQ8.out hne)
      have HB9 : Hid (Below w.heap.size w (W.setCell ⟨g, 2, none⟩ (.int .i64 n))) := HB8.out.setCell (p := ⟨g, 2, none⟩) (by show _ ≤ g; omega) _
      obtain ⟨p0, p1, p2⟩ := HP8.out.cells
      have q2 := HP8.out.frozen 2
      clear hb HCall HP7 HQ7 HB7 HB8 HP8 HQ8
      go_upto_region 18 with fail
      obtain ⟨w9, hw9⟩ : ∃ w9, W.setCell ⟨g, 2, none⟩ (.int .i64 n) = w9 := ⟨_, rfl⟩
      rw [hw9] at HQ9 HB9 ⊢
      clear hw9 p0 p1 p2 q2
      obtain ⟨g0, g1, g2⟩ := HQ9.out.cells
      have f0 := HQ9.out.frozen 0
      have f1 := HQ9.out.frozen 1
      have f2 := HQ9.out.frozen 2
      have HBl := (show Hid (Below w.heap.size w _) from below_set3' HB9.out (Nat.le_refl _) (.int .i64 0) (.string ⟨#[]⟩) (.int .i64 0))
      clear HQ9
      go_wp2
      refine bodyPost_ret (v := .tuple #[.agg #[.int .i64 0, .string ⟨#[]⟩, .int .i64 0], .int .i64 4]) (by simp [results, Tryd.f8, go_sem, g0, g1, g2]) rfl ?_
      exact ⟨by rw [HR.out]; rfl, HBl.out⟩
  case true =>
    rw [if_pos rfl] at HR
    rcases hkc with h1 | ⟨h1, h2⟩ | ⟨h1, h2, h3⟩
    all_goals
      go_wp2_with fail
      refine HCall.out _ fun W hb => ?_
      have HB8 : Hid (Below w.heap.size w W) := HB7.out.trans (hb.mono HB7.out.size)
      have HP8 := (show Hid (Box3 W g 25 (.int .i64 0) (.string ⟨#[]⟩) (.int .i64 0)) from HP7.out.stays hb)
      have HQ8 := (show Hid (Box3 W w.heap.size 25 (.int .i64 0) (.string ⟨#[]⟩) (.int .i64 0)) from HQ7.out.stays hb)
      have HP9 := (show Hid (Box3 (W.setCell ⟨g, 2, none⟩ (.int .i64 n)) g 25 (.int .i64 0) (.string ⟨#[]⟩) (.int .i64 n)) from box3_set2 HP8.out _)
      have HQ9 := (show Hid (Box3 (W.setCell ⟨g, 2, none⟩ (.int .i64 n)) w.heap.size 25 (.int .i64 0) (.string ⟨#[]⟩) (.int .i64 0)) from box3_other HQ8.out hne)
      have HB9 : Hid (Below w.heap.size w (W.setCell ⟨g, 2, none⟩ (.int .i64 n))) := HB8.out.setCell (p := ⟨g, 2, none⟩) (by show _ ≤ g; omega) _
      obtain ⟨p0, p1, p2⟩ := HP8.out.cells
      have q2 := HP8.out.frozen 2
      clear hb HCall HP7 HQ7 HB7 HB8 HP8 HQ8
      go_upto_region 19 with fail
      obtain ⟨w9, hw9⟩ : ∃ w9, W.setCell ⟨g, 2, none⟩ (.int .i64 n) = w9 := ⟨_, rfl⟩
      rw [hw9] at HP9 HQ9 HB9 ⊢
      clear hw9 p0 p1 p2 q2
      have HP10 := (show Hid (Box3 ((w9.setCell ⟨g, 0, none⟩ (.int .i64 (k : Int))).setCell ⟨g, 1, none⟩ (.string id)) g 25 (.int .i64 (k : Int)) (.string id) (.int .i64 n)) from box3_set1 (box3_set0 HP9.out _) _)
      have HQ10 := (show Hid (Box3 ((w9.setCell ⟨g, 0, none⟩ (.int .i64 (k : Int))).setCell ⟨g, 1, none⟩ (.string id)) w.heap.size 25 (.int .i64 0) (.string ⟨#[]⟩) (.int .i64 0)) from box3_other (box3_other HQ9.out hne) hne)
      have HB10 : Hid (Below w.heap.size w ((w9.setCell ⟨g, 0, none⟩ (.int .i64 (k : Int))).setCell ⟨g, 1, none⟩ (.string id))) := (HB9.out.setCell (p := ⟨g, 0, none⟩) (by show _ ≤ g; omega) _).setCell (p := ⟨g, 1, none⟩) (by show _ ≤ g; omega) _
      obtain ⟨p0, p1, p2⟩ := HP9.out.cells
      have q0 := HP9.out.frozen 0
      have q1 := HP9.out.frozen 1
      clear HP9 HQ9 HB9
      go_upto_region 20 with fail
      obtain ⟨w10, hw10⟩ : ∃ w10, (w9.setCell ⟨g, 0, none⟩ (.int .i64 (k : Int))).setCell ⟨g, 1, none⟩ (.string id) = w10 := ⟨_, rfl⟩
      rw [hw10] at HP10 HQ10 HB10 ⊢
      clear hw10 p0 p1 p2 q0 q1
      obtain ⟨p0, p1, p2⟩ := HP10.out.cells
      obtain ⟨g0, g1, g2⟩ := HQ10.out.cells
      have f0 := HQ10.out.frozen 0
      have f1 := HQ10.out.frozen 1
      have f2 := HQ10.out.frozen 2
      have HBl := (show Hid (Below w.heap.size w _) from below_set3' HB10.out (Nat.le_refl _) (.int .i64 (k : Int)) (.string id) (.int .i64 n))
      clear HQ10 HP10
      go_wp2
      refine bodyPost_ret (v := .tuple #[.agg #[.int .i64 (k : Int), .string id, .int .i64 n], .int .i64 0]) (by simp [results, Tryd.f8, go_sem, g0, g1, g2]) rfl ?_
      exact ⟨by rw [HR.out], HBl.out⟩

end Go.Proofs.YthojijhafhnclaeDoor
