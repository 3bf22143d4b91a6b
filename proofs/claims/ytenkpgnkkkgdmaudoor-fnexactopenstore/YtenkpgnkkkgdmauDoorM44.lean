/- What the specification's OpenStore answers. What is written into a store, one record behind the other, and what the store's functions answer; no program in it. What is opened of a disk, said as one answer, and how great it may be; no program in it. -/
import Derived.Test.YtenkpgnkkkgdmauDoorM36
import Derived.Test.YtenkpgnkkkgdmauDoorM36
import Derived.Test.YtenkpgnkkkgdmauDoorM42
import Derived.Test.YtenkpgnkkkgdmauDoorM42
import Derived.Test.YtenkpgnkkkgdmauDoorM31
import Derived.Test.YtenkpgnkkkgdmauDoorM43
import Derived.Test.YtenkpgnkkkgdmauDoorM05
import Derived.Test.YtenkpgnkkkgdmauDoorM32
import Derived.Test.YtenkpgnkkkgdmauDoorM22
namespace Go.Proofs.YtenkpgnkkkgdmauDoor
open Go.RowKit
set_option linter.unusedVariables false

set_option maxRecDepth 10000 in
set_option maxHeartbeats 3200000 in
theorem specOpen_any (a : Option Addr) (n ca : Nat) (X : List ByteArray) (a' : Option Addr) (n' ca' : Nat) (Y : List ByteArray) (w : World) (h1 : Strs w a n X) (h2 : Strs w a' n' Y) (hn : n ≤ 1048576) (hn' : n' ≤ 1048576) (hz : ∀ x ∈ X, x.size ≤ 1048576) :
    Calls Tryd.prog 5 #[.agg #[.slice a n ca, .slice a' n' ca']] w fun e w' => OpenAns w.heap.size X Y e w' ∧ Below w.heap.size w w' := by
  obtain ⟨W2, hW2⟩ : ∃ W2, (w.alloc (.cells #[.slice a n ca, .slice a' n' ca'] 26)).alloc (.cells #[.slice none 0 0, .slice none 0 0, .int .i64 0, .int .i64 0, .slice none 0 0] 29) = W2 := ⟨_, rfl⟩
  have HE : Hid ((w.alloc (.cells #[.slice a n ca, .slice a' n' ca'] 26)).alloc (.cells #[.slice none 0 0, .slice none 0 0, .int .i64 0, .int .i64 0, .slice none 0 0] 29) = W2) := hW2
  have HB2 : Hid (Below w.heap.size w W2) := by show Below _ _ _; rw [← hW2]; exact ((Below.refl _ _).alloc (Nat.le_refl _) _).alloc (by simp) _
  have q1 : BoxN W2 w.heap.size 26 [.slice a n ca, .slice a' n' ca'] := by rw [← hW2]; exact (BoxN.new _ _ _).alloc _
  have q2 : BoxN W2 (w.heap.size + 1) 29 [.slice none 0 0, .slice none 0 0, .int .i64 0, .int .i64 0, .slice none 0 0] := by
    rw [← hW2]
    have := BoxN.new (w.alloc (.cells #[.slice a n ca, .slice a' n' ca'] 26)) 29 [.slice none 0 0, .slice none 0 0, .int .i64 0, .int .i64 0, .slice none 0 0]
    rwa [World.size_alloc] at this
  have HQ : Hid (∀ W, Below W2.heap.size W2 W → BoxN W w.heap.size 26 [.slice a n ca, .slice a' n' ca'] ∧ BoxN W (w.heap.size + 1) 29 [.slice none 0 0, .slice none 0 0, .int .i64 0, .int .i64 0, .slice none 0 0]) := fun W h => ⟨q1.stays h, q2.stays h⟩
  have HX : Hid (∀ W, Below W2.heap.size W2 W → Strs W a n X ∧ Strs W a' n' Y) := fun W h => by
    have hw := HB2.out.trans (h.mono HB2.out.size)
    exact ⟨h1.below hw, h2.below hw⟩
  have HZ : Hid (∀ x ∈ X, x.size ≤ 1048576) := hz
  have hs2 : w.heap.size + 1 < W2.heap.size := q2.lt
  clear hW2 q1 q2 h1 h2 hz
  have HA0 : Hid (Below W2.heap.size W2 W2) := Below.refl _ _
  obtain ⟨c0, c1⟩ := (show _ ∧ _ from ⟨(HQ.out _ HA0.out).1.cell 0 rfl, (HQ.out _ HA0.out).1.cell 1 rfl⟩)
  go_enter Tryd.func5, Tryd.ntmps5
  go_upto_region 1 with fail
  rw [HE.out]
  clear HE
  go_wp2_with fail
  refine (specDok_any a n ca X a' n' ca' Y W2 (HX.out _ HA0.out).1 (HX.out _ HA0.out).2 (by omega) (by omega)).mono ?_
  rintro _ y1 ⟨rfl, hb1⟩
  have HB1 : Hid (Below W2.heap.size W2 y1) := hb1
  clear hb1 c0 c1
  cases hok : okD X Y
  · try dsimp only
    have HN : Hid (openO X Y = none) := by show _ = _; rw [openO, hok]
    have HBw : Hid (Below w.heap.size w y1) := HB2.out.trans (HB1.out.mono HB2.out.size)
    obtain ⟨r0, r1, r2, r3, r4⟩ := (show _ ∧ _ ∧ _ ∧ _ ∧ _ from ⟨(HQ.out _ HB1.out).2.cell 0 rfl, (HQ.out _ HB1.out).2.cell 1 rfl, (HQ.out _ HB1.out).2.cell 2 rfl, (HQ.out _ HB1.out).2.cell 3 rfl, (HQ.out _ HB1.out).2.cell 4 rfl⟩)
    obtain ⟨f0, f1, f2, f3, f4⟩ := (show _ ∧ _ ∧ _ ∧ _ ∧ _ from ⟨(HQ.out _ HB1.out).2.frozen 0, (HQ.out _ HB1.out).2.frozen 1, (HQ.out _ HB1.out).2.frozen 2, (HQ.out _ HB1.out).2.frozen 3, (HQ.out _ HB1.out).2.frozen 4⟩)
    clear HQ HX HB1
    go_wp2_with fail
    refine bodyPost_ret (v := .tuple #[.agg #[.slice none 0 0, .slice none 0 0, .int .i64 0, .int .i64 0, .slice none 0 0], .bool false]) (by simp [results, Tryd.f5, go_sem, r0, r1, r2, r3, r4]) rfl ?_
    refine ⟨?_, ?_⟩
    · rw [OpenAns, HN.out]
      exact ⟨_, rfl, none, 0, 0, none, 0, 0, none, 0, 0, [], rfl, ⟨⟨⟨rfl, .inl ⟨rfl, rfl⟩⟩, by simp⟩, ⟨⟨rfl, .inl ⟨rfl, rfl⟩⟩, by simp⟩, by simp, ⟨⟨rfl, .inl ⟨rfl, rfl⟩⟩, by simp, by simp⟩, rfl⟩, rfl⟩
    · exact ((((HBw.out.setCell (by dsimp only; omega) _).setCell (by dsimp only; omega) _).setCell (by dsimp only; omega) _).setCell (by dsimp only; omega) _).setCell (by dsimp only; omega) _

  have HOk : Hid (okD X Y = true) := hok
  clear hok
  obtain ⟨c0, c1⟩ := (show _ ∧ _ from ⟨(HQ.out _ HB1.out).1.cell 0 rfl, (HQ.out _ HB1.out).1.cell 1 rfl⟩)
  go_wp2_with fail
  refine (specScan_any a n ca X a' n' ca' y1 (HX.out _ HB1.out).1 (by omega) HZ.out).mono ?_
  rintro _ y2 ⟨⟨v2, rs, rfl, hrow, hlm⟩, hb2⟩
  have HC2 : Hid (Below W2.heap.size W2 y2) := HB1.out.trans (hb2.mono HB1.out.size)
  obtain ⟨ra, rc, rfl⟩ := hrow.shape
  obtain ⟨M, hM⟩ : ∃ M, rs.length = M := ⟨_, rfl⟩
  rw [hM] at hrow ⊢
  have HM : Hid (M = rs.length) := hM.symm
  have HLm : Hid (rs.map RE.r = scanR X) := hlm
  have HR2 : Hid (RcRow y2 y1.heap.size (.slice ra M rc) rs) := hrow
  have HSh : Hid (∀ e ∈ rs, e.n ≤ 24) := rows_short hrow hlm (scanFrom_ok X 0 0).2
  have HMl : Hid (M = (scanR X).length) := by show _ = _; rw [← hlm, List.length_map, hM]
  have hMn : M ≤ 1048576 := by
    have h1 := (scanFrom_ok X 0 0).1
    have h2 := (HX.out _ HC2.out).1.1
    have h3 := congrArg List.length hlm
    rw [List.length_map, hM] at h3
    have h4 : (scanR X).length = (scanFrom 0 0 X).length := rfl
    omega
  clear hrow hlm hM hb2 c0 c1
  go_wp2_with fail
  refine (specFold_any ra M rc y1.heap.size rs 24 y2 HR2.out HM.out (by omega) HSh.out (by omega) (by omega)).mono ?_
  rintro _ y3 ⟨⟨x3, l3, rfl, hrow3, hm3, h310⟩, hb3⟩
  rw [HLm.out] at hm3 ⊢
  have HC3 : Hid (Below W2.heap.size W2 y3) := HC2.out.trans (hb3.mono HC2.out.size)
  obtain ⟨xa, xc, rfl⟩ := hrow3.shape
  obtain ⟨K, hK⟩ : ∃ K, l3.length = K := ⟨_, rfl⟩
  rw [hK] at hrow3 ⊢
  have hy2 : W2.heap.size ≤ y2.heap.size := HC2.out.size
  have HR3 : Hid (UpRow y3 y2.heap.size (.slice xa K xc) l3 ∧ K = l3.length) := ⟨hrow3, hK.symm⟩
  clear hb3 hrow3 hK h310 HB1 HC2 HR2
  obtain ⟨c0, c1⟩ := (show _ ∧ _ from ⟨(HQ.out _ HC3.out).1.cell 0 rfl, (HQ.out _ HC3.out).1.cell 1 rfl⟩)
  have HTb : Hid (-1 ≤ topE X ∧ topE X ≤ 10000) := topE_range X
  obtain ⟨T, hT⟩ : ∃ T, topE X = T := ⟨_, rfl⟩
  have HTe : Hid (topE X = T) := hT
  have htb : -1 ≤ T ∧ T ≤ 10000 := by rw [← hT]; exact HTb.out
  clear hT
  have htb1 : -1 ≤ T := htb.1
  have htb2 : T ≤ 10000 := htb.2
  clear htb
  cases hf : foldU (scanR X) with
  | none =>
    rw [hf] at hm3
    dsimp only [Option.isSome]
    go_wp2_with fail
    refine (specTop_any a n ca X a' n' ca' y3 (HX.out _ HC3.out).1 (by omega) HZ.out).mono ?_
    rintro _ y4 ⟨rfl, hb4⟩
    rw [HTe.out]
    have HC4 : Hid (Below W2.heap.size W2 y4) := HC3.out.trans (hb4.mono HC3.out.size)
    clear hb4 c0 c1 HR3 HC3
    have HN : Hid (openO X Y = none) := by show _ = _; rw [openO, HOk.out, hf]
    have HBw : Hid (Below w.heap.size w y4) := HB2.out.trans (HC4.out.mono HB2.out.size)
    obtain ⟨r0, r1, r2, r3, r4⟩ := (show _ ∧ _ ∧ _ ∧ _ ∧ _ from ⟨(HQ.out _ HC4.out).2.cell 0 rfl, (HQ.out _ HC4.out).2.cell 1 rfl, (HQ.out _ HC4.out).2.cell 2 rfl, (HQ.out _ HC4.out).2.cell 3 rfl, (HQ.out _ HC4.out).2.cell 4 rfl⟩)
    obtain ⟨f0, f1, f2, f3, f4⟩ := (show _ ∧ _ ∧ _ ∧ _ ∧ _ from ⟨(HQ.out _ HC4.out).2.frozen 0, (HQ.out _ HC4.out).2.frozen 1, (HQ.out _ HC4.out).2.frozen 2, (HQ.out _ HC4.out).2.frozen 3, (HQ.out _ HC4.out).2.frozen 4⟩)
    clear HQ HX HC4
    go_wp2_with fail
    refine bodyPost_ret (v := .tuple #[.agg #[.slice none 0 0, .slice none 0 0, .int .i64 0, .int .i64 0, .slice none 0 0], .bool false]) (by simp [results, Tryd.f5, go_sem, r0, r1, r2, r3, r4]) rfl ?_
    refine ⟨?_, ?_⟩
    · rw [OpenAns, HN.out]
      exact ⟨_, rfl, none, 0, 0, none, 0, 0, none, 0, 0, [], rfl, ⟨⟨⟨rfl, .inl ⟨rfl, rfl⟩⟩, by simp⟩, ⟨⟨rfl, .inl ⟨rfl, rfl⟩⟩, by simp⟩, by simp, ⟨⟨rfl, .inl ⟨rfl, rfl⟩⟩, by simp, by simp⟩, rfl⟩, rfl⟩
    · exact ((((HBw.out.setCell (by dsimp only; omega) _).setCell (by dsimp only; omega) _).setCell (by dsimp only; omega) _).setCell (by dsimp only; omega) _).setCell (by dsimp only; omega) _

  | some us =>
    rw [hf] at hm3
    dsimp only [Option.isSome]
    have HUs : Hid (l3.map UE.u = us) := hm3
    have HFo : Hid (foldU (scanR X) = some us) := hf
    clear hm3 hf
    go_wp2_with fail
    refine (specTop_any a n ca X a' n' ca' y3 (HX.out _ HC3.out).1 (by omega) HZ.out).mono ?_
    rintro _ y4 ⟨rfl, hb4⟩
    rw [HTe.out]
    have HC4 : Hid (Below W2.heap.size W2 y4) := HC3.out.trans (hb4.mono HC3.out.size)
    have HR4 : Hid (UpRow y4 y2.heap.size (.slice xa K xc) l3 ∧ K = l3.length) := ⟨HR3.out.1.stays hb4, HR3.out.2⟩
    clear hb4 c0 c1 HR3 HC3
    by_cases hbig : 10000 < T + 1
    · clear HR4
      have HN : Hid (openO X Y = none) := by show _ = _; rw [openO, HOk.out, HFo.out, HTe.out]; simp [hbig]
      have HBw : Hid (Below w.heap.size w y4) := HB2.out.trans (HC4.out.mono HB2.out.size)
      obtain ⟨r0, r1, r2, r3, r4⟩ := (show _ ∧ _ ∧ _ ∧ _ ∧ _ from ⟨(HQ.out _ HC4.out).2.cell 0 rfl, (HQ.out _ HC4.out).2.cell 1 rfl, (HQ.out _ HC4.out).2.cell 2 rfl, (HQ.out _ HC4.out).2.cell 3 rfl, (HQ.out _ HC4.out).2.cell 4 rfl⟩)
      obtain ⟨f0, f1, f2, f3, f4⟩ := (show _ ∧ _ ∧ _ ∧ _ ∧ _ from ⟨(HQ.out _ HC4.out).2.frozen 0, (HQ.out _ HC4.out).2.frozen 1, (HQ.out _ HC4.out).2.frozen 2, (HQ.out _ HC4.out).2.frozen 3, (HQ.out _ HC4.out).2.frozen 4⟩)
      clear HQ HX HC4
      go_wp2_with fail
      refine bodyPost_ret (v := .tuple #[.agg #[.slice none 0 0, .slice none 0 0, .int .i64 0, .int .i64 0, .slice none 0 0], .bool false]) (by simp [results, Tryd.f5, go_sem, r0, r1, r2, r3, r4]) rfl ?_
      refine ⟨?_, ?_⟩
      · rw [OpenAns, HN.out]
        exact ⟨_, rfl, none, 0, 0, none, 0, 0, none, 0, 0, [], rfl, ⟨⟨⟨rfl, .inl ⟨rfl, rfl⟩⟩, by simp⟩, ⟨⟨rfl, .inl ⟨rfl, rfl⟩⟩, by simp⟩, by simp, ⟨⟨rfl, .inl ⟨rfl, rfl⟩⟩, by simp, by simp⟩, rfl⟩, rfl⟩
      · exact ((((HBw.out.setCell (by dsimp only; omega) _).setCell (by dsimp only; omega) _).setCell (by dsimp only; omega) _).setCell (by dsimp only; omega) _).setCell (by dsimp only; omega) _

    have HS : Hid (openO X Y = some (T + 1, M, us)) := by show _ = _; rw [openO, HOk.out, HFo.out, HTe.out, HMl.out]; simp [hbig]
    obtain ⟨c0, c1⟩ := (show _ ∧ _ from ⟨(HQ.out _ HC4.out).1.cell 0 rfl, (HQ.out _ HC4.out).1.cell 1 rfl⟩)
    go_wp2_with fail
    refine (specDcopy_any a n ca X a' n' ca' Y y4 (HX.out _ HC4.out).1 (HX.out _ HC4.out).2 (by omega) (by omega)).mono ?_
    rintro _ y5 ⟨⟨v5, rfl, A, C, A', C', rfl, ow, ow', hap⟩, hb5⟩
    have HBw : Hid (Below w.heap.size w y5) := by
      have h1 := HC4.out.trans (hb5.mono HC4.out.size)
      exact HB2.out.trans (h1.mono HB2.out.size)
    have hy4 : W2.heap.size ≤ y4.heap.size := HC4.out.size
    have HS5 : Hid (StoAt y5 (w.heap.size + 2) A X.length C X A' Y.length C' Y xa K xc l3) := ⟨ow.low (by omega), ow'.low (by omega), hap, (HR4.out.1.stays hb5).low (by omega), HR4.out.2⟩
    have hq5 := (HQ.out _ (HC4.out.trans (hb5.mono HC4.out.size))).2
    obtain ⟨r0, r1, r2, r3, r4⟩ := (show _ ∧ _ ∧ _ ∧ _ ∧ _ from ⟨hq5.cell 0 rfl, hq5.cell 1 rfl, hq5.cell 2 rfl, hq5.cell 3 rfl, hq5.cell 4 rfl⟩)
    obtain ⟨f0, f1, f2, f3, f4⟩ := (show _ ∧ _ ∧ _ ∧ _ ∧ _ from ⟨hq5.frozen 0, hq5.frozen 1, hq5.frozen 2, hq5.frozen 3, hq5.frozen 4⟩)
    clear ow ow' hap hb5 hq5 HQ HX HC4 HR4 c0 c1
    go_wp2_with fail
    refine bodyPost_ret (v := .tuple #[.agg #[.slice A X.length C, .slice A' Y.length C', .int .i64 (T + 1), .int .i64 (M : Int), .slice xa K xc], .bool true]) (by simp [results, Tryd.f5, go_sem, r0, r1, r2, r3, r4]) rfl ?_
    refine ⟨?_, ?_⟩
    · rw [OpenAns, HS.out]
      exact ⟨_, rfl, A, X.length, C, A', Y.length, C', xa, K, xc, l3, rfl, (((((HS5.out.setLow (by omega) _).setLow (by omega) _).setLow (by omega) _).setLow (by omega) _).setLow (by omega) _).low (by omega), HUs.out⟩
    · exact ((((HBw.out.setCell (by dsimp only; omega) _).setCell (by dsimp only; omega) _).setCell (by dsimp only; omega) _).setCell (by dsimp only; omega) _).setCell (by dsimp only; omega) _

end Go.Proofs.YtenkpgnkkkgdmauDoor

namespace Go.Proofs.YtenkpgnkkkgdmauDoor
open Go.RowKit
set_option linter.unusedVariables false

theorem decB_of {P : Prop} (h : decB P = true) : P := @of_decide_eq_true P (Classical.propDecidable P) h

/-- A record as it is written. -/
def R.at (r : R) (ep : Int) (q : Nat) : R := { r with e := ep, q := (q : Int) }

/-- The sectors behind records that are written from nx on. -/
def wroteX (X : List ByteArray) (ep : Int) (nx : Nat) : List R → List ByteArray
  | [] => X
  | r :: rs => wroteX (X.set nx (txU (r.at ep nx).put)) ep (nx + 1) rs

theorem wroteX_len (ep : Int) : ∀ (rs : List R) (X : List ByteArray) (nx : Nat), (wroteX X ep nx rs).length = X.length
  | [], _, _ => rfl
  | r :: rs, X, nx => by rw [wroteX, wroteX_len ep rs, List.length_set]

theorem wroteX_snoc (ep : Int) (r : R) : ∀ (rs : List R) (X : List ByteArray) (nx : Nat), wroteX X ep nx (rs ++ [r]) = (wroteX X ep nx rs).set (nx + rs.length) (txU (r.at ep (nx + rs.length)).put)
  | [], _, _ => rfl
  | x :: rs, X, nx => by
    have h : nx + 1 + rs.length = nx + (rs.length + 1) := by omega
    rw [List.cons_append, wroteX, wroteX_snoc ep r rs, wroteX, List.length_cons, h]

/-- What a function of the store answers: the sectors, the next one, the uploads, the code. -/
structure WA where
  X : List ByteArray
  nx : Int
  us : List U
  c : Int

def wroteA (X : List ByteArray) (ep nx : Int) (us : List U) (rs : List R) : WA := ⟨wroteX X ep nx.toNat rs, nx + (rs.length : Int), (rs.foldlM oneU us).getD us, 0⟩

theorem SOk.nums {X Y : List ByteArray} {ep nx : Int} {us : List U} (h : SOk X Y ep nx us) : (0 ≤ ep ∧ ep ≤ 10000) ∧ 0 ≤ nx ∧ nx ≤ (X.length : Int) ∧ X.length ≤ 200 := by
  obtain ⟨h1, h2, h3, h4, h5, h6⟩ := h
  have h7 := scanFrom_len X 0 0
  have h8 := (okD_iff.1 h1).2.1
  have h9 : (scanR X).length = (scanFrom 0 0 X).length := rfl
  exact ⟨h2, by omega, by omega, h8⟩

theorem foldlM_len {rs : List R} : ∀ {us us' : List U}, us.length ≤ 10 → rs.foldlM oneU us = some us' → us'.length ≤ 10 := by
  induction rs with
  | nil => intro us us' h1 h; obtain rfl : us = us' := by simpa using h
           exact h1
  | cons r rs ih =>
    intro us us' h1 h
    rw [List.foldlM_cons] at h
    cases ho : oneU us r with
    | none => rw [ho] at h; cases h
    | some u1 =>
      rw [ho] at h
      have := oneU_len ho
      exact ih (by omega) h

theorem SOk.few {X Y : List ByteArray} {ep nx : Int} {us : List U} (h : SOk X Y ep nx us) : us.length ≤ 10 := foldlM_len (us := []) (by simp) h.2.2.1

/-- What is right stays so behind records that fit. -/
theorem wrote_ok {Y : List ByteArray} {ep : Int} : ∀ {rs : List R} {X : List ByteArray} {nx : Int} {us us' : List U}, SOk X Y ep nx us → (∀ r ∈ rs, idB r.id.data.toList = true ∧ kindB r.k r.n r.zs.length = true ∧ ∀ x ∈ r.zs, 0 ≤ x ∧ x ≤ 255) → nx + (rs.length : Int) ≤ (X.length : Int) → rs.foldlM oneU us = some us' → SOk (wroteX X ep nx.toNat rs) Y ep (nx + (rs.length : Int)) us' := by
  intro rs
  induction rs with
  | nil =>
    intro X nx us us' h _ _ ho
    obtain rfl : us = us' := by simpa using ho
    simpa [wroteX] using h
  | cons r rs ih =>
    intro X nx us us' h hk hl ho
    obtain ⟨n1, n2, n3, n4⟩ := h.nums
    have hl' : nx + ((rs.length : Int) + 1) ≤ (X.length : Int) := by simpa using hl
    rw [List.foldlM_cons] at ho
    cases h1 : oneU us r with
    | none => rw [h1] at ho; cases ho
    | some u1 =>
      rw [h1] at ho
      have hr := hk r (List.mem_cons_self ..)
      have hq : ((nx.toNat : Nat) : Int) = nx := by omega
      have hok : (r.at ep nx.toNat).ok = true := by
        show okRec ep ((nx.toNat : Nat) : Int) r.k r.id r.n r.zs.length = true
        rw [okRec, hr.1, hr.2.1, hq, decide_eq_true n1, decide_eq_true (show 0 ≤ nx ∧ nx ≤ 199 by omega)]
        rfl
      have h2 := (h.put (r := r.at ep nx.toNat) hok hr.2.2 rfl hq (by omega) (us' := u1) h1).2
      have h3 := ih h2 (fun x hx => hk x (List.mem_cons_of_mem _ hx)) (by rw [List.length_set]; omega) ho
      have e1 : (nx + 1).toNat = nx.toNat + 1 := by omega
      have e2 : nx + 1 + (rs.length : Int) = nx + ((r :: rs).length : Int) := by simp; omega
      rw [e1, e2] at h3
      exact h3

/-- What MakeUp answers. -/
def makeR (id : ByteArray) (want : Int) : R := ⟨0, 0, 1, id, want, []⟩
noncomputable def makeA (X Y : List ByteArray) (ep nx : Int) (us : List U) (id : ByteArray) (want : Int) : WA :=
  if decB (SOk X Y ep nx us) = true ∧ idB id.data.toList = true ∧ 0 ≤ want ∧ want ≤ 1000000 then
    if atU us id = none then
      if nx < (X.length : Int) ∧ us.length ≠ 10 then wroteA X ep nx us [makeR id want] else ⟨X, nx, us, 5⟩
    else ⟨X, nx, us, 3⟩
  else ⟨X, nx, us, 1⟩

/-- What DropUp answers. -/
def dropR (id : ByteArray) : R := ⟨0, 0, 4, id, 0, []⟩
noncomputable def dropA (X Y : List ByteArray) (ep nx : Int) (us : List U) (id : ByteArray) : WA :=
  if decB (SOk X Y ep nx us) = true ∧ idB id.data.toList = true then
    if atU us id = none then ⟨X, nx, us, 2⟩
    else if nx < (X.length : Int) then wroteA X ep nx us [dropR id] else ⟨X, nx, us, 5⟩
  else ⟨X, nx, us, 1⟩

theorem make_fits {us : List U} {id : ByteArray} {want : Int} (h1 : atU us id = none) (h2 : us.length ≤ 10) (h3 : us.length ≠ 10) : oneU us (makeR id want) = some (makeU us ⟨id, want, [], false⟩) := by
  unfold oneU makeR
  dsimp only
  rw [if_pos rfl, if_pos ⟨h1, by omega⟩]

theorem drop_fits {us : List U} {id : ByteArray} {k : Nat} (h1 : atU us id = some k) : ∃ us', oneU us (dropR id) = some us' := by
  obtain ⟨hk, _⟩ := atU_is h1
  refine ⟨us.eraseIdx k, ?_⟩
  unfold oneU dropR
  dsimp only
  rw [if_neg (by decide), h1]
  dsimp only
  rw [List.getElem?_eq_getElem hk]
  rfl

theorem makeA_no {X Y : List ByteArray} {ep nx : Int} {us : List U} {id : ByteArray} {want : Int} (h : (makeA X Y ep nx us id want).c ≠ 0) : makeA X Y ep nx us id want = ⟨X, nx, us, (makeA X Y ep nx us id want).c⟩ := by
  rw [makeA] at h ⊢
  split at h
  · rename_i h1
    split at h
    · split at h
      · exact absurd rfl h
      · rename_i h2 h3; rw [if_pos h1, if_pos h2, if_neg h3]
    · rename_i h2; rw [if_pos h1, if_neg h2]
  · rename_i h1; rw [if_neg h1]

theorem makeA_yes {X Y : List ByteArray} {ep nx : Int} {us : List U} {id : ByteArray} {want : Int} (h : (makeA X Y ep nx us id want).c = 0) : SOk X Y ep nx us ∧ (idB id.data.toList = true ∧ kindB 1 want 0 = true) ∧ nx + 1 ≤ (X.length : Int) ∧ ∃ us', [makeR id want].foldlM oneU us = some us' ∧ makeA X Y ep nx us id want = ⟨wroteX X ep nx.toNat [makeR id want], nx + 1, us', 0⟩ := by
  rw [makeA] at h
  split at h
  · rename_i h1
    split at h
    · rename_i h2
      split at h
      · rename_i h3
        have hso : SOk X Y ep nx us := decB_of h1.1
        have ho := make_fits (want := want) h2 hso.few h3.2
        have hf : [makeR id want].foldlM oneU us = some (makeU us ⟨id, want, [], false⟩) := by rw [List.foldlM_cons, ho]; rfl
        refine ⟨hso, ⟨h1.2.1, ?_⟩, by omega, _, hf, ?_⟩
        · rw [kindB, if_pos rfl, decide_eq_true (show 0 ≤ want ∧ want ≤ 1000000000 by omega)]; rfl
        · rw [makeA, if_pos h1, if_pos h2, if_pos h3, wroteA, hf]; rfl
      · cases h
    · cases h
  · cases h

theorem dropA_no {X Y : List ByteArray} {ep nx : Int} {us : List U} {id : ByteArray} (h : (dropA X Y ep nx us id).c ≠ 0) : dropA X Y ep nx us id = ⟨X, nx, us, (dropA X Y ep nx us id).c⟩ := by
  rw [dropA] at h ⊢
  split at h
  · rename_i h1
    split at h
    · rename_i h2; rw [if_pos h1, if_pos h2]
    · rename_i h2
      split at h
      · exact absurd rfl h
      · rename_i h3; rw [if_pos h1, if_neg h2, if_neg h3]
  · rename_i h1; rw [if_neg h1]

theorem dropA_yes {X Y : List ByteArray} {ep nx : Int} {us : List U} {id : ByteArray} (h : (dropA X Y ep nx us id).c = 0) : SOk X Y ep nx us ∧ (idB id.data.toList = true ∧ kindB 4 0 0 = true) ∧ nx + 1 ≤ (X.length : Int) ∧ ∃ us', [dropR id].foldlM oneU us = some us' ∧ dropA X Y ep nx us id = ⟨wroteX X ep nx.toNat [dropR id], nx + 1, us', 0⟩ := by
  rw [dropA] at h
  split at h
  · rename_i h1
    split at h
    · cases h
    · rename_i h2
      split at h
      · rename_i h3
        have hso : SOk X Y ep nx us := decB_of h1.1
        cases ha : atU us id with
        | none => exact absurd ha h2
        | some k =>
          obtain ⟨us', ho⟩ := drop_fits ha
          have hf : [dropR id].foldlM oneU us = some us' := by rw [List.foldlM_cons, ho]; rfl
          refine ⟨hso, ⟨h1.2, rfl⟩, by omega, us', hf, ?_⟩
          rw [dropA, if_pos h1, if_neg h2, if_pos h3, wroteA, hf]; rfl
      · cases h
  · cases h

end Go.Proofs.YtenkpgnkkkgdmauDoor

namespace Go.Proofs.YtenkpgnkkkgdmauDoor
open Go.RowKit
set_option linter.unusedVariables false

structure OA where
  X : List ByteArray
  Y : List ByteArray
  ep : Int
  nx : Int
  us : List U
  ok : Bool

def openA (X Y : List ByteArray) : OA := match openO X Y with
  | none => ⟨[], [], 0, 0, [], false⟩
  | some (ep, nx, us) => ⟨X, Y, ep, (nx : Int), us, true⟩

theorem OpenAns.get {base : Nat} {X Y : List ByteArray} {e : Ending} {w' : World} (h : OpenAns base X Y e w') : ∃ v, e = .returned (.tuple #[v, .bool (openA X Y).ok]) ∧ AnsS base (openA X Y).X (openA X Y).Y (openA X Y).ep (openA X Y).nx (openA X Y).us v w' := by
  rw [OpenAns] at h
  rw [openA]
  cases ho : openO X Y with
  | none => rw [ho] at h; exact h
  | some t =>
    obtain ⟨ep, nx, us⟩ := t
    rw [ho] at h
    exact h

theorem foldlM_zs {rs : List R} : ∀ {us us' : List U} {m : Nat}, (∀ u ∈ us, u.zs.length ≤ m) → (∀ r ∈ rs, r.zs.length ≤ 24) → rs.foldlM oneU us = some us' → ∀ u ∈ us', u.zs.length ≤ m + rs.length * 24 := by
  induction rs with
  | nil =>
    intro us us' m h1 _ h
    obtain rfl : us = us' := by simpa using h
    simpa using h1
  | cons r rs ih =>
    intro us us' m h1 hr h
    rw [List.foldlM_cons] at h
    cases ho : oneU us r with
    | none => rw [ho] at h; cases h
    | some u1 =>
      rw [ho] at h
      have h2 := oneU_zs ho h1
      have h3 := hr r (List.mem_cons_self ..)
      intro u hu
      have h4 := ih (m := m + 24) (fun u hu => by have := h2 u hu; omega) (fun x hx => hr x (List.mem_cons_of_mem _ hx)) h u hu
      rw [List.length_cons]
      omega

/-- The uploads of sectors have few bytes. -/
theorem fold_small {X Y : List ByteArray} {us : List U} (h : okD X Y = true) (hf : foldU (scanR X) = some us) : us.length ≤ 10 ∧ ∀ u ∈ us, u.zs.length ≤ 4800 := by
  have h1 := (okD_iff.1 h).2.1
  have h2 := scanFrom_len X 0 0
  have h3 : (scanR X).length = (scanFrom 0 0 X).length := rfl
  refine ⟨foldlM_len (us := []) (by simp) hf, fun u hu => ?_⟩
  have h4 := foldlM_zs (us := []) (m := 0) (by simp) (fun r hr => (okRec_iff (scan_allok X r hr)).2.2.2.2.2) hf u hu
  omega

theorem openA_sz {X Y : List ByteArray} (h1 : X.length ≤ 1048576) (h2 : Y.length ≤ 1048576) : (openA X Y).X.length ≤ 1048576 ∧ (openA X Y).Y.length ≤ 1048576 ∧ (openA X Y).us.length ≤ 1048576 ∧ ∀ u ∈ (openA X Y).us, u.zs.length ≤ 1048576 := by
  rw [openA]
  cases ho : openO X Y with
  | none => simp
  | some t =>
    obtain ⟨ep, nx, us⟩ := t
    rw [openO] at ho
    split at ho
    · rename_i hok hf
      split at ho
      · cases ho
      · simp only [Option.some.injEq, Prod.mk.injEq] at ho
        obtain ⟨_, _, rfl⟩ := ho
        have h3 := fold_small hok hf
        exact ⟨h1, h2, Nat.le_trans h3.1 (by decide), fun u hu => by have := h3.2 u hu; omega⟩
    · cases ho

end Go.Proofs.YtenkpgnkkkgdmauDoor
