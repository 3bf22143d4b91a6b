/- The walk of the law that UpAt answers as the specification's; under contracts of both functions. Names held against each other; no program in it. -/
import Derived.Test.YtmephcabgccocauM09
import Derived.Test.YtmephcabgccocauM11
import Derived.Test.YtmephcabgccocauM12
import Derived.Deep.RegionHeld3
import Derived.Lib.Strings
namespace Go.Proofs.Ytmephcabgccocau
open Go.RowKit
set_option linter.unusedVariables false

theorem only_within {w w' : World} {a : Option Addr} {lo hi : Nat} (h : Only w w' a) (hr : ∀ q, a.map (·.block) = some q → lo ≤ q ∧ q < hi) : Within w w' lo hi := within_grown h hr

set_option maxRecDepth 10000 in
set_option maxHeartbeats 6400000 in
theorem upAtWalk (a0 : Option Addr) (n0 ca0 : Nat) (xs : List ByteArray) (a1 : Option Addr) (n1 ca1 : Nat) (ys : List ByteArray) (ep nx : Int) (ua : Option Addr) (un uc : Nat) (l : List UE) (id : ByteArray) (w : World) (hl0 : n0 ≤ maxLen) (hl1 : n1 ≤ maxLen) (hlu : un ≤ maxLen) (h1 : Strs w a0 n0 xs) (h2 : Strs w a1 n1 ys) (hu : UpsI w ua un l) (hid : id.size ≤ maxLen)
    (HSp : ∀ (a a' : Option Addr) (ga : Option Addr) (lo : Nat) (l' : List UE) (W : World), UpRow W lo (.slice ga un un) l' → un = l'.length → un ≤ 1048576 → (∀ e ∈ l', e.n ≤ 1048576) → Calls Try.prog 5 #[.agg #[.slice a n0 n0, .slice a' n1 n1, .int .i64 ep, .int .i64 nx, .slice ga un un], .string id] W fun e w' => AnsU W.heap.size (l'.map UE.u) id e w' ∧ Below W.heap.size W w')
    (HIm : ∀ (a a' : Option Addr) (ga : Option Addr) (lo : Nat) (l' : List UE) (W : World), UpRow W lo (.slice ga un un) l' → un = l'.length → un ≤ 1048576 → (∀ e ∈ l', e.n ≤ 1048576) → Calls Try.prog 7 #[.agg #[.slice a n0 n0, .slice a' n1 n1, .int .i64 ep, .int .i64 nx, .slice ga un un], .string id] W fun e w' => AnsU W.heap.size (l'.map UE.u) id e w' ∧ Below W.heap.size W w') :
    Calls Try.prog 3 #[.agg #[.slice a0 n0 ca0, .slice a1 n1 ca1, .int .i64 ep, .int .i64 nx, .slice ua un uc], .string id] w fun e w' => e = .returned (.bool true) ∧ Below w.heap.size w w' := by
  have hmm : maxLen < 9223372036854775808 := by decide
  obtain ⟨w0, hw0⟩ : ∃ w0, w.alloc (.cells #[.slice a0 n0 ca0, .slice a1 n1 ca1, .int .i64 ep, .int .i64 nx, .slice ua un uc] 27) = w0 := ⟨_, rfl⟩
  have HE : Hid (w.alloc (.cells #[.slice a0 n0 ca0, .slice a1 n1 ca1, .int .i64 ep, .int .i64 nx, .slice ua un uc] 27) = w0) := hw0
  have hB0 : Below w.heap.size w w0 := by rw [← hw0]; exact (Below.refl _ _).alloc (Nat.le_refl _) _
  have hQ0 : BoxN w0 w.heap.size 27 [.slice a0 n0 ca0, .slice a1 n1 ca1, .int .i64 ep, .int .i64 nx, .slice ua un uc] := by rw [← hw0]; exact BoxN.new _ _ _
  have HX : Hid (∀ W, Below w0.heap.size w0 W → BoxN W w.heap.size 27 [.slice a0 n0 ca0, .slice a1 n1 ca1, .int .i64 ep, .int .i64 nx, .slice ua un uc] ∧ Strs W a0 n0 xs ∧ Strs W a1 n1 ys ∧ UpsI W ua un l ∧ Below w.heap.size w W) := fun W hb => ⟨hQ0.stays hb, (h1.below hB0).below hb, (h2.below hB0).below hb, (hu.below hB0).below hb, hB0.trans (hb.mono hB0.size)⟩
  have hww : w.heap.size < w0.heap.size := hQ0.lt
  have HP : Hid (∀ (a a' : Option Addr) (ga : Option Addr) (lo : Nat) (l' : List UE) (W : World), UpRow W lo (.slice ga un un) l' → un = l'.length → un ≤ 1048576 → (∀ e ∈ l', e.n ≤ 1048576) → Calls Try.prog 5 #[.agg #[.slice a n0 n0, .slice a' n1 n1, .int .i64 ep, .int .i64 nx, .slice ga un un], .string id] W fun e w' => AnsU W.heap.size (l'.map UE.u) id e w' ∧ Below W.heap.size W w') := HSp
  have HI : Hid (∀ (a a' : Option Addr) (ga : Option Addr) (lo : Nat) (l' : List UE) (W : World), UpRow W lo (.slice ga un un) l' → un = l'.length → un ≤ 1048576 → (∀ e ∈ l', e.n ≤ 1048576) → Calls Try.prog 7 #[.agg #[.slice a n0 n0, .slice a' n1 n1, .int .i64 ep, .int .i64 nx, .slice ga un un], .string id] W fun e w' => AnsU W.heap.size (l'.map UE.u) id e w' ∧ Below W.heap.size W w') := HIm
  have HA0 : Hid (Below w0.heap.size w0 w0) := Below.refl _ _
  clear hw0 h1 h2 hu HSp HIm hQ0 hB0
  by_cases hid2 : 1048576 < (id.size : Int)
  · have HBw : Hid (Below w.heap.size w w0) := (HX.out _ HA0.out).2.2.2.2
    go_enter Try.func3, Try.ntmps3
    go_upto_region 1 with fail
    rw [HE.out]
    clear HE
    go_wp2_with fail
    go_ret
    exact ⟨rfl, HBw.out⟩
  have hidd : decide (1048576 < (id.size : Int)) = false := by simpa using hid2
  obtain ⟨c0, c1, c2, c3, c4⟩ := (show _ ∧ _ ∧ _ ∧ _ ∧ _ from ⟨(HX.out _ HA0.out).1.cell 0 rfl, (HX.out _ HA0.out).1.cell 1 rfl, (HX.out _ HA0.out).1.cell 2 rfl, (HX.out _ HA0.out).1.cell 3 rfl, (HX.out _ HA0.out).1.cell 4 rfl⟩)
  go_enter Try.func3, Try.ntmps3
  go_upto_region 1 with fail
  rw [HE.out]
  clear HE
  go_wp2_with fail
  refine (szStore_any a0 n0 ca0 xs a1 n1 ca1 ys ep nx ua un uc l w0 (HX.out _ HA0.out).2.1 (HX.out _ HA0.out).2.2.1 (HX.out _ HA0.out).2.2.2.1 hl0 hl1 hlu).mono ?_
  rintro e x0 ⟨⟨L, rfl, hL⟩, hb0⟩
  have HB0 : Hid (Below w0.heap.size w0 x0) := hb0
  clear hb0 c0 c1 c2 c3 c4
  by_cases hneg : L < 0
  · have HBw : Hid (Below w.heap.size w x0) := (HX.out _ HB0.out).2.2.2.2
    clear hL
    go_wp2_with fail
    go_ret
    exact ⟨rfl, HBw.out⟩
  have HSz : Hid (SzS n0 xs n1 ys un l) := by
    rcases hL with h | h
    · exact absurd h hneg
    · exact h.1
  have hun1 : un ≤ 1048576 := HSz.out.2.2.2.2.1
  have hn01 : n0 ≤ 1048576 := HSz.out.1
  have hn11 : n1 ≤ 1048576 := HSz.out.2.1
  clear hL
  obtain ⟨c0, c1, c2, c3, c4⟩ := (show _ ∧ _ ∧ _ ∧ _ ∧ _ from ⟨(HX.out _ HB0.out).1.cell 0 rfl, (HX.out _ HB0.out).1.cell 1 rfl, (HX.out _ HB0.out).1.cell 2 rfl, (HX.out _ HB0.out).1.cell 3 rfl, (HX.out _ HB0.out).1.cell 4 rfl⟩)
  go_wp2_with fail
  refine (toStore_any a0 n0 ca0 xs a1 n1 ca1 ys ep nx ua un uc l x0 (HX.out _ HB0.out).2.1 (HX.out _ HB0.out).2.2.1 (HX.out _ HB0.out).2.2.2.1 HSz.out).mono ?_
  rintro e x1 ⟨⟨g1, g1', gu1, l1, rfl, hs1, hm1, hz1⟩, hb1⟩
  have HS1 : Hid (UpRow x1 x0.heap.size (.slice (some ⟨gu1, 0, none⟩) un un) l1 ∧ un = l1.length ∧ (∀ e ∈ l1, e.n ≤ 1048576) ∧ l1.map UE.u = l.map UE.u) := ⟨hs1.ups, hs1.len, hz1, hm1⟩
  have HB1 : Hid (Below w0.heap.size w0 x1) := HB0.out.trans (hb1.mono HB0.out.size)
  clear hs1 hm1 hz1 hb1 c0 c1 c2 c3 c4
  obtain ⟨us, hus⟩ : ∃ us, l.map UE.u = us := ⟨_, rfl⟩
  have HUs : Hid (l.map UE.u = us) := hus
  clear hus
  go_wp2_with fail
  refine (HP.out _ _ _ _ l1 x1 HS1.out.1 HS1.out.2.1 hun1 HS1.out.2.2.1).mono ?_
  rintro e x2 ⟨hans2, hb2⟩
  rw [HS1.out.2.2.2, HUs.out] at hans2
  obtain ⟨wa, wc, rfl, how⟩ := hans2
  obtain ⟨u, hgu⟩ : ∃ u, gotU us id = u := ⟨_, rfl⟩
  obtain ⟨B, hB⟩ : ∃ B, (atU us id).isSome = B := ⟨_, rfl⟩
  obtain ⟨Z, hZ⟩ : ∃ Z, u.zs.length = Z := ⟨_, rfl⟩
  rw [hgu, hZ] at how
  rw [hgu, hB, hZ]
  have HAn : Hid (∀ base e W, AnsU base us id e W → ∃ A C, e = .returned (.tuple #[.agg #[.string u.id, .int .i64 u.want, .slice A Z C, .bool u.done], .bool B]) ∧ Owns W base A Z C u.zs) := fun base e W h => by
    obtain ⟨A, C, h1, h2⟩ := h
    rw [hgu, hB, hZ] at h1
    rw [hgu, hZ] at h2
    exact ⟨A, C, h1, h2⟩
  have hZb : Z ≤ 1048576 := by
    rw [← hZ, ← hgu, gotU]
    cases hk : atU us id with
    | none => simp
    | some k =>
      dsimp only
      have h1 := atU_is hk
      obtain ⟨hkl, _⟩ := h1
      rw [List.getD_eq_getElem?_getD, List.getElem?_eq_getElem hkl]
      have h3 := HS1.out.2.2.2
      rw [HUs.out] at h3
      have hkl1 : k < l1.length := by rw [← h3] at hkl; simpa using hkl
      have h4 : us[k] = (l1[k]).u := by
        have h5 : us[k]? = (l1.map UE.u)[k]? := by rw [h3]
        rw [List.getElem?_eq_getElem hkl, List.getElem?_map, List.getElem?_eq_getElem hkl1] at h5
        simpa using h5
      rw [Option.getD_some, h4, (HS1.out.1.2.1 _ (List.getElem_mem hkl1)).seg.1]
      exact HS1.out.2.2.1 _ (List.getElem_mem hkl1)
  clear hgu hB hZ HP
  have HAw : Hid (UAt (x2.alloc (.cells #[.string u.id, .int .i64 u.want, .slice wa Z wc, .bool u.done] 31)) x1.heap.size x2.heap.size ⟨u, wa, Z, wc⟩) := UAt.new (x := ⟨u, wa, Z, wc⟩) how hb2.size
  have HB2 : Hid (Below w0.heap.size w0 (x2.alloc (.cells #[.string u.id, .int .i64 u.want, .slice wa Z wc, .bool u.done] 31))) := (HB1.out.trans (hb2.mono HB1.out.size)).alloc (HB1.out.trans (hb2.mono HB1.out.size)).size _
  have HZ2 : Hid ((x2.alloc (.cells #[.string u.id, .int .i64 u.want, .slice wa Z wc, .bool u.done] 31)).heap.size = x2.heap.size + 1) := by show _ = _; simp
  have hz12 : x1.heap.size ≤ x2.heap.size := hb2.size
  have hz01 : w0.heap.size ≤ x1.heap.size := HB1.out.size
  clear how hb2 HS1
  obtain ⟨c0, c1, c2, c3, c4⟩ := (show _ ∧ _ ∧ _ ∧ _ ∧ _ from ⟨(HX.out _ HB2.out).1.cell 0 rfl, (HX.out _ HB2.out).1.cell 1 rfl, (HX.out _ HB2.out).1.cell 2 rfl, (HX.out _ HB2.out).1.cell 3 rfl, (HX.out _ HB2.out).1.cell 4 rfl⟩)
  go_wp2_with fail
  obtain ⟨w2, hw2⟩ : ∃ w2, x2.alloc (.cells #[.string u.id, .int .i64 u.want, .slice wa Z wc, .bool u.done] 31) = w2 := ⟨_, rfl⟩
  rw [hw2] at HAw HB2 HZ2 ⊢
  clear hw2 c0 c1 c2 c3 c4
  generalize x2.heap.size = bw at *
  refine (toStore_any a0 n0 ca0 xs a1 n1 ca1 ys ep nx ua un uc l w2 (HX.out _ HB2.out).2.1 (HX.out _ HB2.out).2.2.1 (HX.out _ HB2.out).2.2.2.1 HSz.out).mono ?_
  rintro e x3 ⟨⟨g3, g3', gu3, l3, rfl, hs3, hm3, hz3⟩, hb3⟩
  have HAx : Hid (SAt (x3.alloc (.cells #[.slice (some ⟨g3, 0, none⟩) n0 n0, .slice (some ⟨g3', 0, none⟩) n1 n1, .int .i64 ep, .int .i64 nx, .slice (some ⟨gu3, 0, none⟩) un un] 37)) w2.heap.size x3.heap.size (some ⟨g3, 0, none⟩) n0 n0 xs (some ⟨g3', 0, none⟩) n1 n1 ys ep nx (some ⟨gu3, 0, none⟩) un un l3) := SAt.new hs3 hb3.size
  have HM3 : Hid (l3.map UE.u = us ∧ (∀ e ∈ l3, e.n ≤ 1048576)) := ⟨by rw [hm3, HUs.out], hz3⟩
  have HBa : Hid (Below w2.heap.size w2 (x3.alloc (.cells #[.slice (some ⟨g3, 0, none⟩) n0 n0, .slice (some ⟨g3', 0, none⟩) n1 n1, .int .i64 ep, .int .i64 nx, .slice (some ⟨gu3, 0, none⟩) un un] 37))) := hb3.alloc hb3.size _
  have HZ4 : Hid ((x3.alloc (.cells #[.slice (some ⟨g3, 0, none⟩) n0 n0, .slice (some ⟨g3', 0, none⟩) n1 n1, .int .i64 ep, .int .i64 nx, .slice (some ⟨gu3, 0, none⟩) un un] 37)).heap.size = x3.heap.size + 1) := by show _ = _; simp
  have hz23 : w2.heap.size ≤ x3.heap.size := hb3.size
  clear hs3 hm3 hz3 hb3
  obtain ⟨d0, d1, d2, d3, d4⟩ := (show _ ∧ _ ∧ _ ∧ _ ∧ _ from ⟨HAx.out.box.cell 0 rfl, HAx.out.box.cell 1 rfl, HAx.out.box.cell 2 rfl, HAx.out.box.cell 3 rfl, HAx.out.box.cell 4 rfl⟩)
  go_wp2_with fail
  obtain ⟨w3, hw3⟩ : ∃ w3, x3.alloc (.cells #[.slice (some ⟨g3, 0, none⟩) n0 n0, .slice (some ⟨g3', 0, none⟩) n1 n1, .int .i64 ep, .int .i64 nx, .slice (some ⟨gu3, 0, none⟩) un un] 37) = w3 := ⟨_, rfl⟩
  rw [hw3] at HAx HBa HZ4 ⊢
  clear hw3 d0 d1 d2 d3 d4
  have HAw3 : Hid (UAt w3 x1.heap.size bw ⟨u, wa, Z, wc⟩) := HAw.out.stays HBa.out
  have HB3 : Hid (Below w0.heap.size w0 w3) := HB2.out.trans (HBa.out.mono HB2.out.size)
  clear HAw HBa HB2
  generalize x3.heap.size = bx at *
  refine (HI.out _ _ _ _ l3 w3 HAx.out.sto.ups HAx.out.sto.len hun1 HM3.out.2).mono ?_
  rintro e x4 ⟨hans4, hb4⟩
  rw [HM3.out.1] at hans4
  obtain ⟨ga, gc, rfl, hog⟩ := HAn.out _ _ _ hans4
  have HAg : Hid (UAt (x4.alloc (.cells #[.string u.id, .int .i64 u.want, .slice ga Z gc, .bool u.done] 31)) w3.heap.size x4.heap.size ⟨u, ga, Z, gc⟩) := UAt.new (x := ⟨u, ga, Z, gc⟩) hog hb4.size
  have HBb : Hid (Below w3.heap.size w3 (x4.alloc (.cells #[.string u.id, .int .i64 u.want, .slice ga Z gc, .bool u.done] 31))) := hb4.alloc hb4.size _
  have hz34 : w3.heap.size ≤ x4.heap.size := hb4.size
  clear hans4 hog hb4
  have HAw4 : Hid (UAt (x4.alloc (.cells #[.string u.id, .int .i64 u.want, .slice ga Z gc, .bool u.done] 31)) x1.heap.size bw ⟨u, wa, Z, wc⟩) := HAw3.out.stays HBb.out
  have HAx4 : Hid (SAt (x4.alloc (.cells #[.string u.id, .int .i64 u.want, .slice ga Z gc, .bool u.done] 31)) w2.heap.size bx (some ⟨g3, 0, none⟩) n0 n0 xs (some ⟨g3', 0, none⟩) n1 n1 ys ep nx (some ⟨gu3, 0, none⟩) un un l3) := HAx.out.stays HBb.out
  have HB4 : Hid (Below w0.heap.size w0 (x4.alloc (.cells #[.string u.id, .int .i64 u.want, .slice ga Z gc, .bool u.done] 31))) := HB3.out.trans (HBb.out.mono HB3.out.size)
  clear HAw3 HAx HBb HB3
  obtain ⟨p0, p1, p2, p3⟩ := (show _ ∧ _ ∧ _ ∧ _ from ⟨HAw4.out.box.cell 0 rfl, HAw4.out.box.cell 1 rfl, HAw4.out.box.cell 2 rfl, HAw4.out.box.cell 3 rfl⟩)
  obtain ⟨q0, q1, q2, q3⟩ := (show _ ∧ _ ∧ _ ∧ _ from ⟨HAg.out.box.cell 0 rfl, HAg.out.box.cell 1 rfl, HAg.out.box.cell 2 rfl, HAg.out.box.cell 3 rfl⟩)
  go_wp2_with fail
  obtain ⟨w4, hw4⟩ : ∃ w4, x4.alloc (.cells #[.string u.id, .int .i64 u.want, .slice ga Z gc, .bool u.done] 31) = w4 := ⟨_, rfl⟩
  rw [hw4] at HAw4 HAx4 HAg HB4 ⊢
  clear hw4 p0 p1 p2 p3 q0 q1 q2 q3
  generalize x4.heap.size = bg at *
  refine (eqUp_same ⟨u, ga, Z, gc⟩ ⟨u, wa, Z, wc⟩ w4 HAg.out.own.seg HAw4.out.own.seg rfl (by dsimp only; omega)).mono ?_
  rintro e x5 ⟨rfl, hb5⟩
  have HAw5 : Hid (UAt x5 x1.heap.size bw ⟨u, wa, Z, wc⟩) := HAw4.out.stays hb5
  have HAx5 : Hid (SAt x5 w2.heap.size bx (some ⟨g3, 0, none⟩) n0 n0 xs (some ⟨g3', 0, none⟩) n1 n1 ys ep nx (some ⟨gu3, 0, none⟩) un un l3) := HAx4.out.stays hb5
  have HAg5 : Hid (UAt x5 w3.heap.size bg ⟨u, ga, Z, gc⟩) := HAg.out.stays hb5
  have HB5 : Hid (Below w0.heap.size w0 x5) := HB4.out.trans (hb5.mono HB4.out.size)
  have hBn : (B != B) = false := by simp
  clear hb5 HAw4 HAx4 HAg HB4
  obtain ⟨c0, c1, c2, c3, c4⟩ := (show _ ∧ _ ∧ _ ∧ _ ∧ _ from ⟨(HX.out _ HB5.out).1.cell 0 rfl, (HX.out _ HB5.out).1.cell 1 rfl, (HX.out _ HB5.out).1.cell 2 rfl, (HX.out _ HB5.out).1.cell 3 rfl, (HX.out _ HB5.out).1.cell 4 rfl⟩)
  obtain ⟨d0, d1, d2, d3, d4⟩ := (show _ ∧ _ ∧ _ ∧ _ ∧ _ from ⟨HAx5.out.box.cell 0 rfl, HAx5.out.box.cell 1 rfl, HAx5.out.box.cell 2 rfl, HAx5.out.box.cell 3 rfl, HAx5.out.box.cell 4 rfl⟩)
  have HTs : Hid (∀ W, Below w0.heap.size w0 W → Calls Try.prog 6 #[.agg #[.slice a0 n0 ca0, .slice a1 n1 ca1, .int .i64 ep, .int .i64 nx, .slice ua un uc]] W fun r w' => (∃ g g' gu l', r = .returned (.agg #[.slice (some ⟨g, 0, none⟩) n0 n0, .slice (some ⟨g', 0, none⟩) n1 n1, .int .i64 ep, .int .i64 nx, .slice (some ⟨gu, 0, none⟩) un un]) ∧ StoAt w' W.heap.size (some ⟨g, 0, none⟩) n0 n0 xs (some ⟨g', 0, none⟩) n1 n1 ys (some ⟨gu, 0, none⟩) un un l' ∧ l'.map UE.u = us ∧ ∀ e ∈ l', e.n ≤ 1048576) ∧ Below W.heap.size W w') := fun W hb => (toStore_any a0 n0 ca0 xs a1 n1 ca1 ys ep nx ua un uc l W (HX.out _ hb).2.1 (HX.out _ hb).2.2.1 (HX.out _ hb).2.2.2.1 HSz.out).mono (fun r w' ⟨⟨g, g', gu, l', h1, h2, h3, h4⟩, h5⟩ => ⟨⟨g, g', gu, l', h1, h2, by rw [h3, HUs.out], h4⟩, h5⟩)
  go_upto_region 12 with fail
  go_region_held3 (fun W => (W.cell? ⟨bx, 0, none⟩ = some (.slice (some ⟨g3, 0, none⟩) n0 n0) ∧ W.cell? ⟨bx, 1, none⟩ = some (.slice (some ⟨g3', 0, none⟩) n1 n1) ∧ W.cell? ⟨bx, 2, none⟩ = some (.int .i64 ep) ∧ W.cell? ⟨bx, 3, none⟩ = some (.int .i64 nx) ∧ W.cell? ⟨bx, 4, none⟩ = some (.slice (some ⟨gu3, 0, none⟩) un un)) ∧ W.cell? ⟨w.heap.size, 0, none⟩ = some (.slice a0 n0 ca0) ∧ W.cell? ⟨w.heap.size, 1, none⟩ = some (.slice a1 n1 ca1) ∧ W.cell? ⟨w.heap.size, 2, none⟩ = some (.int .i64 ep) ∧ W.cell? ⟨w.heap.size, 3, none⟩ = some (.int .i64 nx) ∧ W.cell? ⟨w.heap.size, 4, none⟩ = some (.slice ua un uc)) (refine ⟨⟨?_, ?_, ?_, ?_, ?_⟩, ?_, ?_, ?_, ?_, ?_⟩ <;> first | assumption | go_keep) (first
    | (go_at_call 6; refine (HTs.out _ (HB5.out.drew)).mono ?_; rintro _ x6 ⟨⟨g6, g6', gu6, l6, rfl, hs6, hm6, hz6⟩, hb6⟩
       have hb6' : Below x5.heap.size x5 x6 := (Below.refl x5.heap.size x5).drew.trans (hb6.mono (Nat.le_refl _))
       have hB6 : Below w0.heap.size w0 x6 := HB5.out.trans (hb6'.mono HB5.out.size)
       have e0 := (HX.out _ hB6).1.cell 0 rfl
       have e1 := (HX.out _ hB6).1.cell 1 rfl
       have e2 := (HX.out _ hB6).1.cell 2 rfl
       have e3 := (HX.out _ hB6).1.cell 3 rfl
       have e4 := (HX.out _ hB6).1.cell 4 rfl
       have i0 := (HAx5.out.stays hb6').box.cell 0 rfl
       have i1 := (HAx5.out.stays hb6').box.cell 1 rfl
       have i2 := (HAx5.out.stays hb6').box.cell 2 rfl
       have i3 := (HAx5.out.stays hb6').box.cell 3 rfl
       have i4 := (HAx5.out.stays hb6').box.cell 4 rfl)
    | (go_at_call 9; refine (eqStore_same (some ⟨g3, 0, none⟩) (some ⟨g6, 0, none⟩) n0 n0 n0 xs (some ⟨g3', 0, none⟩) (some ⟨g6', 0, none⟩) n1 n1 n1 ys ep nx (some ⟨gu3, 0, none⟩) un un w2.heap.size l3 (some ⟨gu6, 0, none⟩) un un x5.heap.size l6 x6 (HAx5.out.stays hb6').sto.now.strs hs6.now.strs (HAx5.out.stays hb6').sto.sure.strs hs6.sure.strs (HAx5.out.stays hb6').sto.ups hs6.ups HAx5.out.sto.len hs6.len (by rw [HM3.out.1, hm6]) (by omega) (by omega) (by omega) (fun e he => by have := HM3.out.2 e he; omega)).mono ?_; rintro _ x7 ⟨rfl, hb7⟩
       have hb7' : Below x5.heap.size x5 x7 := hb6'.trans (hb7.mono hb6'.size)
       have hB7 : Below w0.heap.size w0 x7 := HB5.out.trans (hb7'.mono HB5.out.size)
       have e0 := (HX.out _ hB7).1.cell 0 rfl
       have e1 := (HX.out _ hB7).1.cell 1 rfl
       have e2 := (HX.out _ hB7).1.cell 2 rfl
       have e3 := (HX.out _ hB7).1.cell 3 rfl
       have e4 := (HX.out _ hB7).1.cell 4 rfl
       have i0 := (HAx5.out.stays hb7').box.cell 0 rfl
       have i1 := (HAx5.out.stays hb7').box.cell 1 rfl
       have i2 := (HAx5.out.stays hb7').box.cell 2 rfl
       have i3 := (HAx5.out.stays hb7').box.cell 3 rfl
       have i4 := (HAx5.out.stays hb7').box.cell 4 rfl)
    | fail)
  have HAw7 : Hid (UAt x7 x1.heap.size bw ⟨u, wa, Z, wc⟩) := HAw5.out.stays hb7'
  have HAx7 : Hid (SAt x7 w2.heap.size bx (some ⟨g3, 0, none⟩) n0 n0 xs (some ⟨g3', 0, none⟩) n1 n1 ys ep nx (some ⟨gu3, 0, none⟩) un un l3) := HAx5.out.stays hb7'
  have HAg7 : Hid (UAt x7 w3.heap.size bg ⟨u, ga, Z, gc⟩) := HAg5.out.stays hb7'
  have HB7 : Hid (Below w0.heap.size w0 x7) := hB7
  clear hs6 hm6 hz6 hb6 hb6' hB6 hb7 hb7' hB7 e0 e1 e2 e3 e4 i0 i1 i2 i3 i4 c0 c1 c2 c3 c4 d0 d1 d2 d3 d4 HAw5 HAx5 HAg5 HB5
  obtain ⟨d0, d1, d2, d3, d4⟩ := (show _ ∧ _ ∧ _ ∧ _ ∧ _ from ⟨HAx7.out.box.cell 0 rfl, HAx7.out.box.cell 1 rfl, HAx7.out.box.cell 2 rfl, HAx7.out.box.cell 3 rfl, HAx7.out.box.cell 4 rfl⟩)
  have HEnd : Hid (mkUEnd (1 + n0 + n1) l3 ≤ 2199023255552) := by
    have h1 := mkUEnd_le (1 + n0 + n1) 1048576 l3 HM3.out.2
    have h2 := HAx7.out.sto.len
    have h3 : (3 + 1048576) * l3.length ≤ (3 + 1048576) * 1048576 := Nat.mul_le_mul_left _ (by omega)
    show _ ≤ _
    omega
  go_wp2_with fail
  refine (markStore_any w2.heap.size (some ⟨g3, 0, none⟩) n0 n0 xs (some ⟨g3', 0, none⟩) n1 n1 ys ep nx (some ⟨gu3, 0, none⟩) un un l3 1 x7 HAx7.out.sto (by omega) (by omega) (by omega) (by omega) HEnd.out bx HAx7.out.inn).mono ?_
  rintro e x8 ⟨rfl, _, hw8⟩
  have hz2 := HZ2.out
  have hz4 := HZ4.out
  have hl3 : w2.heap.size ≤ bx := HAx7.out.lob
  have hl1 : x1.heap.size ≤ bw := HAw7.out.lob
  have HAw8 : Hid (UAt x8 x1.heap.size bw ⟨u, wa, Z, wc⟩) := HAw7.out.kept hw8 (.inl (by omega))
  have HAg8 : Hid (UAt x8 w3.heap.size bg ⟨u, ga, Z, gc⟩) := HAg7.out.kept hw8 (.inr (by omega))
  have HB8 : Hid (Below w0.heap.size w0 x8) := HB7.out.trans ((hw8.below (by have := HAw7.out.box.lt; have := HAx7.out.box.lt; omega)).mono (by omega))
  obtain ⟨kk, hkk⟩ : ∃ kk, mkUEnd (1 + n0 + n1) l3 = kk := ⟨_, rfl⟩
  rw [hkk]
  have hkp : ¬ (kk : Int) < 0 := by omega
  have hkd : decide ((kk : Int) < 0) = false := by simp
  clear hkk hw8 d0 d1 d2 d3 d4 HAw7 HAx7 HAg7 HB7
  obtain ⟨p0, p1, p2, p3⟩ := (show _ ∧ _ ∧ _ ∧ _ from ⟨HAw8.out.box.cell 0 rfl, HAw8.out.box.cell 1 rfl, HAw8.out.box.cell 2 rfl, HAw8.out.box.cell 3 rfl⟩)
  obtain ⟨q0, q1, q2, q3⟩ := (show _ ∧ _ ∧ _ ∧ _ from ⟨HAg8.out.box.cell 0 rfl, HAg8.out.box.cell 1 rfl, HAg8.out.box.cell 2 rfl, HAg8.out.box.cell 3 rfl⟩)
  go_wp2_with fail
  refine (eqUp_same ⟨u, ga, Z, gc⟩ ⟨u, wa, Z, wc⟩ x8 HAg8.out.own.seg HAw8.out.own.seg rfl (by dsimp only; omega)).mono ?_
  rintro e x9 ⟨rfl, hb9⟩
  have HAw9 : Hid (UAt x9 x1.heap.size bw ⟨u, wa, Z, wc⟩) := HAw8.out.stays hb9
  have HAg9 : Hid (UAt x9 w3.heap.size bg ⟨u, ga, Z, gc⟩) := HAg8.out.stays hb9
  have HB9 : Hid (Below w0.heap.size w0 x9) := HB8.out.trans (hb9.mono HB8.out.size)
  clear hb9 p0 p1 p2 p3 q0 q1 q2 q3 HAw8 HAg8 HB8
  obtain ⟨q0, q1, q2, q3⟩ := (show _ ∧ _ ∧ _ ∧ _ from ⟨HAg9.out.box.cell 0 rfl, HAg9.out.box.cell 1 rfl, HAg9.out.box.cell 2 rfl, HAg9.out.box.cell 3 rfl⟩)
  go_wp2_with fail
  refine (markUp_any w3.heap.size ⟨u, ga, Z, gc⟩ x9 HAg9.out.own (by dsimp only; omega)).mono ?_
  rintro e x10 ⟨rfl, ho10, hon⟩
  have hl9 : w3.heap.size ≤ bg := HAg9.out.lob
  have hw10 : Within x9 x10 w3.heap.size bg := only_within hon (fun q e => ⟨(HAg9.out.own.lt q e).1, HAg9.out.inn q e⟩)
  have HAw10 : Hid (UAt x10 x1.heap.size bw ⟨u, wa, Z, wc⟩) := HAw9.out.kept hw10 (.inl (by omega))
  have HBx : Hid (BoxN x10 bg 31 [.string u.id, .int .i64 u.want, .slice ga Z gc, .bool u.done]) := (hw10.block bg HAg9.out.box.lt (.inr (Nat.le_refl _))).trans HAg9.out.box
  have HOm : Hid (Owns x10 w3.heap.size ga Z gc (marks 1 Z)) := ho10
  have HB10 : Hid (Below w0.heap.size w0 x10) := HB9.out.trans ((hw10.below (by have := HAg9.out.box.lt; omega)).mono (by omega))
  clear ho10 hon hw10 q0 q1 q2 q3 HAw9 HAg9 HB9
  dsimp only
  have HHG : Hid (∀ W : World, Owns W w3.heap.size ga Z gc (marks 1 Z) → Calls Try.prog 12 #[.agg #[.string u.id, .int .i64 u.want, .slice ga Z gc, .bool u.done], .int .i64 1] W fun e w' => e = .returned (.int .i64 ((1 + Z : Nat) : Int)) ∧ Below W.heap.size W w') := fun W h => heldUp_any w3.heap.size ⟨u, ga, Z, gc⟩ W h (by dsimp only; omega)
  generalize hq10 : ((1 + Z : Nat) : Int) = q10 at *
  have hq10p : ¬ q10 < 0 := by omega
  have hq10d : decide (q10 < 0) = false := by simp; omega
  have hq10e : (q10 != q10) = false := by simp
  clear hq10
  obtain ⟨q0, q1, q2, q3⟩ := (show _ ∧ _ ∧ _ ∧ _ from ⟨HBx.out.cell 0 rfl, HBx.out.cell 1 rfl, HBx.out.cell 2 rfl, HBx.out.cell 3 rfl⟩)
  go_wp2_with fail
  refine (HHG.out _ HOm.out).mono ?_
  rintro e x11 ⟨rfl, hb11⟩
  have HAw11 : Hid (UAt x11 x1.heap.size bw ⟨u, wa, Z, wc⟩) := HAw10.out.stays hb11
  have HBx11 : Hid (BoxN x11 bg 31 [.string u.id, .int .i64 u.want, .slice ga Z gc, .bool u.done]) := HBx.out.stays hb11
  have HOm11 : Hid (Owns x11 w3.heap.size ga Z gc (marks 1 Z)) := HOm.out.below hb11
  have HB11 : Hid (Below w0.heap.size w0 x11) := HB10.out.trans (hb11.mono HB10.out.size)
  clear hb11 q0 q1 q2 q3 HAw10 HBx HOm HB10
  obtain ⟨c0, c1, c2, c3, c4⟩ := (show _ ∧ _ ∧ _ ∧ _ ∧ _ from ⟨(HX.out _ HB11.out).1.cell 0 rfl, (HX.out _ HB11.out).1.cell 1 rfl, (HX.out _ HB11.out).1.cell 2 rfl, (HX.out _ HB11.out).1.cell 3 rfl, (HX.out _ HB11.out).1.cell 4 rfl⟩)
  go_wp2_with fail
  refine (HTs.out _ HB11.out).mono ?_
  rintro e x12 ⟨⟨g12, g12', gu12, l12, rfl, hs12, hm12, hz12⟩, hb12⟩
  have HS12 : Hid (UpRow x12 x11.heap.size (.slice (some ⟨gu12, 0, none⟩) un un) l12 ∧ un = l12.length ∧ (∀ e ∈ l12, e.n ≤ 1048576) ∧ l12.map UE.u = us) := ⟨hs12.ups, hs12.len, hz12, hm12⟩
  have HC12 : Hid (Below x11.heap.size x11 x12) := hb12
  clear hs12 hm12 hz12 hb12 c0 c1 c2 c3 c4
  go_wp2_with fail
  refine (HI.out _ _ _ _ l12 x12 HS12.out.1 HS12.out.2.1 hun1 HS12.out.2.2.1).mono ?_
  rintro e x13 ⟨hans13, hb13⟩
  rw [HS12.out.2.2.2] at hans13
  obtain ⟨ha, hc, rfl, hoh⟩ := HAn.out _ _ _ hans13
  have HAh : Hid (UAt (x13.alloc (.cells #[.string u.id, .int .i64 u.want, .slice ha Z hc, .bool u.done] 31)) x12.heap.size x13.heap.size ⟨u, ha, Z, hc⟩) := UAt.new (x := ⟨u, ha, Z, hc⟩) hoh hb13.size
  have HC13 : Hid (Below x11.heap.size x11 (x13.alloc (.cells #[.string u.id, .int .i64 u.want, .slice ha Z hc, .bool u.done] 31))) := (HC12.out.trans (hb13.mono HC12.out.size)).alloc (HC12.out.trans (hb13.mono HC12.out.size)).size _
  clear hans13 hoh hb13 HC12 HS12
  have HAw13 : Hid (UAt (x13.alloc (.cells #[.string u.id, .int .i64 u.want, .slice ha Z hc, .bool u.done] 31)) x1.heap.size bw ⟨u, wa, Z, wc⟩) := HAw11.out.stays HC13.out
  obtain ⟨p0, p1, p2, p3⟩ := (show _ ∧ _ ∧ _ ∧ _ from ⟨HAw13.out.box.cell 0 rfl, HAw13.out.box.cell 1 rfl, HAw13.out.box.cell 2 rfl, HAw13.out.box.cell 3 rfl⟩)
  obtain ⟨q0, q1, q2, q3⟩ := (show _ ∧ _ ∧ _ ∧ _ from ⟨HAh.out.box.cell 0 rfl, HAh.out.box.cell 1 rfl, HAh.out.box.cell 2 rfl, HAh.out.box.cell 3 rfl⟩)
  go_wp2_with fail
  obtain ⟨w13, hw13⟩ : ∃ w13, x13.alloc (.cells #[.string u.id, .int .i64 u.want, .slice ha Z hc, .bool u.done] 31) = w13 := ⟨_, rfl⟩
  rw [hw13] at HAh HC13 HAw13 ⊢
  clear hw13 p0 p1 p2 p3 q0 q1 q2 q3
  refine (eqUp_same ⟨u, ha, Z, hc⟩ ⟨u, wa, Z, wc⟩ w13 HAh.out.own.seg HAw13.out.own.seg rfl (by dsimp only; omega)).mono ?_
  rintro e x14 ⟨rfl, hb14⟩
  have HC14 : Hid (Below x11.heap.size x11 x14) := HC13.out.trans (hb14.mono HC13.out.size)
  clear hb14 HC13 HAh HAw13
  have HBx14 : Hid (BoxN x14 bg 31 [.string u.id, .int .i64 u.want, .slice ga Z gc, .bool u.done]) := HBx11.out.stays HC14.out
  have HOm14 : Hid (Owns x14 w3.heap.size ga Z gc (marks 1 Z)) := HOm11.out.below HC14.out
  obtain ⟨q0, q1, q2, q3⟩ := (show _ ∧ _ ∧ _ ∧ _ from ⟨HBx14.out.cell 0 rfl, HBx14.out.cell 1 rfl, HBx14.out.cell 2 rfl, HBx14.out.cell 3 rfl⟩)
  go_wp2_with fail
  refine (HHG.out _ HOm14.out).mono ?_
  rintro e x15 ⟨rfl, hb15⟩
  have HEn : Hid (Below w.heap.size w x15) := by
    have h1 : Below w0.heap.size w0 x14 := HB11.out.trans (HC14.out.mono HB11.out.size)
    exact (HX.out _ (h1.trans (hb15.mono h1.size))).2.2.2.2
  clear hb15 q0 q1 q2 q3
  go_wp2_with fail
  go_ret
  exact ⟨rfl, HEn.out⟩

end Go.Proofs.Ytmephcabgccocau

namespace Go.Proofs.Ytmephcabgccocau
open Go.RowKit
set_option linter.unusedVariables false

theorem ids_eq (s t : ByteArray) : (s.toList == t.toList) = decide (s = t) := by
  rw [Bool.eq_iff_iff, beq_iff_eq, decide_eq_true_eq, Lib.toList_data, Lib.toList_data]
  constructor
  · intro h
    cases s
    cases t
    exact congrArg ByteArray.mk (Array.toList_inj.1 h)
  · intro h; rw [h]

end Go.Proofs.Ytmephcabgccocau
