/- What the specification's TopEpoch answers. What the specification's OpenStore answers of any disk. -/
import Derived.Test.YtpjldfpipchmjavGreatDoorM19
import Derived.Test.YtpjldfpipchmjavGreatDoorM20
import Derived.Test.YtpjldfpipchmjavGreatDoorM03
import Derived.Test.YtpjldfpipchmjavGreatDoorM04
import Derived.Test.YtpjldfpipchmjavGreatDoorM14
import Derived.Test.YtpjldfpipchmjavGreatDoorM16
import Derived.Test.YtpjldfpipchmjavGreatDoorM23
import Derived.Test.YtpjldfpipchmjavGreatDoorC03
namespace Go.Proofs.YtpjldfpipchmjavGreatDoor
open Go.RowKit
set_option linter.unusedVariables false

set_option maxRecDepth 10000 in
set_option maxHeartbeats 1600000 in
theorem specTop_any (a : Option Addr) (n ca : Nat) (xs : List ByteArray) (a' : Option Addr) (n' ca' : Nat) (w : World) (h1 : Strs w a n xs) (hn : n ≤ 1099511627776) (hz : ∀ x ∈ xs, x.size ≤ 1048576) :
    Calls Tryz.prog 107 #[.agg #[.slice a n ca, .slice a' n' ca']] w fun e w' => e = .returned (.int .i64 (topE xs)) ∧ Below w.heap.size w w' := by
  have HX : Hid (∀ W, Below w.heap.size w W → Strs W a n xs) := fun W h => h1.below h
  have HL : Hid (xs.length = n) := h1.1
  have HZ : Hid (∀ x ∈ xs, x.size ≤ 1048576) := hz
  clear h1 hz
  obtain ⟨w0, hw0⟩ : ∃ w0, w.alloc (.cells #[.slice a n ca, .slice a' n' ca'] 33) = w0 := ⟨_, rfl⟩
  have HE : Hid (w.alloc (.cells #[.slice a n ca, .slice a' n' ca'] 33) = w0) := hw0
  have HA : Hid (Box2R w0 w.heap.size 33 (.slice a n ca) (.slice a' n' ca')) := by show Box2R _ _ _ _ _; rw [← hw0]; exact Box2R.new _ _ _ _
  have HB : Hid (Below w.heap.size w w0) := by show Below _ _ _; rw [← hw0]; exact (Below.refl _ _).alloc (Nat.le_refl _) _
  clear hw0
  go_enter Tryz.func107, Tryz.ntmps107
  go_wp2_with fail
  rw [HE.out]
  clear HE
  go_loopw [3, 4] (fun v i wr => ∃ k : Nat, k ≤ n ∧ i = .int .i64 (k : Int) ∧ v = .int .i64 (topE (xs.take k)) ∧ Hid (Below w0.heap.size w0 wr)) (fun _ i _ => n - (intOf i).toNat)
  case atStart => exact ⟨0, Nat.zero_le _, rfl, rfl, Below.refl _ _⟩
  case round =>
    obtain ⟨k, hk, rfl, rfl, HW⟩ := hrel
    obtain ⟨c0, c1⟩ := (HA.out.stays HW.out).cells
    by_cases hlt : k < n
    · have hb := HB.out.trans (HW.out.mono HB.out.size)
      obtain ⟨p, po, x, rfl, _, hkx, hp⟩ := (HX.out _ hb).at hlt
      have HT : Hid (topE (xs.take (k + 1)) = topStep (topE (xs.take k)) x) := topE_step xs k x hkx
      have hxz : x.size ≤ 1048576 := HZ.out x (List.mem_of_getElem? hkx)
      have hki : (k : Int) < (n : Int) := by omega
      have hk0 : (0 : Int) ≤ (k : Int) := by omega
      clear hkx hb
      generalize topE (xs.take k) = m at *
      go_wp2_with fail
      refine (specGetR_any x wr (by omega)).mono ?_
      rintro _ w1 ⟨⟨v, rfl, hgot⟩, hb1⟩
      have hb01 : Below w0.heap.size w0 w1 := HW.out.trans (hb1.mono HW.out.size)
      rcases hgot with ⟨hr, rfl⟩ | ⟨r, A, C, hr, rfl, ho⟩
      · have HT2 : Hid (topE (xs.take (k + 1)) = m) := HT.out.trans (topStep_none hr)
        have HW2 : Hid (Below w0.heap.size w0 (w1.alloc (.cells #[.int .i64 0, .int .i64 0, .int .i64 0, .string ⟨#[]⟩, .int .i64 0, .slice none 0 0] 106))) := hb01.alloc hb01.size _
        clear hr hb1 hb01 HT HW
        go_wp2_with fail
        go_roundw
        case rel => exact ⟨k + 1, by omega, by go_num, by rw [HT2.out], HW2⟩
        case measure => simp [intOf]; omega
      · have HT2 : Hid (topE (xs.take (k + 1)) = if m < r.e then r.e else m) := HT.out.trans (topStep_some hr)
        have HW2 : Hid (Below w0.heap.size w0 (w1.alloc (.cells #[.int .i64 r.e, .int .i64 r.q, .int .i64 r.k, .string r.id, .int .i64 r.n, .slice A r.zs.length C] 106))) := hb01.alloc hb01.size _
        clear hr hb1 hb01 HT HW ho
        by_cases hm : m < r.e
        · rw [if_pos hm] at HT2
          go_wp2_with fail
          go_roundw
          case rel => exact ⟨k + 1, by omega, by go_num, by rw [HT2.out], HW2⟩
          case measure => simp [intOf]; omega
        · rw [if_neg hm] at HT2
          go_wp2_with fail
          go_roundw
          case rel => exact ⟨k + 1, by omega, by go_num, by rw [HT2.out], HW2⟩
          case measure => simp [intOf]; omega
    · have hkl : k = n := by omega
      have HT : Hid (topE (xs.take k) = topE xs) := by show _ = _; rw [hkl, List.take_of_length_le (by have := HL.out; omega)]
      generalize topE (xs.take k) = m at *
      go_wp2_with fail
      go_ret
      exact ⟨by rw [← HT.out]; rfl, HB.out.trans (HW.out.mono HB.out.size)⟩

end Go.Proofs.YtpjldfpipchmjavGreatDoor

namespace Go.Proofs.YtpjldfpipchmjavGreatDoor
open Go.RowKit
set_option linter.unusedVariables false

set_option maxRecDepth 10000 in
set_option maxHeartbeats 3200000 in
theorem specOpen_all (a : Option Addr) (n ca : Nat) (X : List ByteArray) (a' : Option Addr) (n' ca' : Nat) (Y : List ByteArray) (w : World) (h1 : Strs w a n X) (h2 : Strs w a' n' Y) (hn : n ≤ 1048576) (hn' : n' ≤ 1048576) :
    Calls Tryz.prog 56 #[.agg #[.slice a n ca, .slice a' n' ca']] w fun e w' => OpenAns w.heap.size X Y e w' ∧ Below w.heap.size w w' := by
  obtain ⟨W2, hW2⟩ : ∃ W2, (w.alloc (.cells #[.slice a n ca, .slice a' n' ca'] 33)).alloc (.cells #[.slice none 0 0, .slice none 0 0, .int .i64 0, .int .i64 0, .slice none 0 0] 36) = W2 := ⟨_, rfl⟩
  have HE : Hid ((w.alloc (.cells #[.slice a n ca, .slice a' n' ca'] 33)).alloc (.cells #[.slice none 0 0, .slice none 0 0, .int .i64 0, .int .i64 0, .slice none 0 0] 36) = W2) := hW2
  have HB2 : Hid (Below w.heap.size w W2) := by show Below _ _ _; rw [← hW2]; exact ((Below.refl _ _).alloc (Nat.le_refl _) _).alloc (by simp) _
  have q1 : BoxN W2 w.heap.size 33 [.slice a n ca, .slice a' n' ca'] := by rw [← hW2]; exact (BoxN.new _ _ _).alloc _
  have q2 : BoxN W2 (w.heap.size + 1) 36 [.slice none 0 0, .slice none 0 0, .int .i64 0, .int .i64 0, .slice none 0 0] := by
    rw [← hW2]
    have := BoxN.new (w.alloc (.cells #[.slice a n ca, .slice a' n' ca'] 33)) 36 [.slice none 0 0, .slice none 0 0, .int .i64 0, .int .i64 0, .slice none 0 0]
    rwa [World.size_alloc] at this
  have HQ : Hid (∀ W, Below W2.heap.size W2 W → BoxN W w.heap.size 33 [.slice a n ca, .slice a' n' ca'] ∧ BoxN W (w.heap.size + 1) 36 [.slice none 0 0, .slice none 0 0, .int .i64 0, .int .i64 0, .slice none 0 0]) := fun W h => ⟨q1.stays h, q2.stays h⟩
  have HX : Hid (∀ W, Below W2.heap.size W2 W → Strs W a n X ∧ Strs W a' n' Y) := fun W h => by
    have hw := HB2.out.trans (h.mono HB2.out.size)
    exact ⟨h1.below hw, h2.below hw⟩
  have HZ : Hid (okD X Y = true → ∀ x ∈ X, x.size ≤ 1048576) := fun h x hx => by have := (okD_iff.1 h).2.2.1 x hx; omega
  have hs2 : w.heap.size + 1 < W2.heap.size := q2.lt
  clear hW2 q1 q2 h1 h2
  have HA0 : Hid (Below W2.heap.size W2 W2) := Below.refl _ _
  obtain ⟨c0, c1⟩ := (show _ ∧ _ from ⟨(HQ.out _ HA0.out).1.cell 0 rfl, (HQ.out _ HA0.out).1.cell 1 rfl⟩)
  go_enter Tryz.func56, Tryz.ntmps56
  go_upto_region 1 with fail
  rw [HE.out]
  clear HE
  go_wp2_with fail
  refine (specDok_any a n ca X a' n' ca' Y W2 (HX.out _ HA0.out).1 (HX.out _ HA0.out).2 (by omega) (by omega)).mono ?_
  rintro _ y1 ⟨rfl, hb1⟩
  have HB1 : Hid (Below W2.heap.size W2 y1) := hb1
  clear hb1 c0 c1
  cases hok : okD X Y
  · try dsimp only
    have HN : Hid (openO X Y = none) := by show _ = _; rw [openO, hok]
    have HBw : Hid (Below w.heap.size w y1) := HB2.out.trans (HB1.out.mono HB2.out.size)
    obtain ⟨r0, r1, r2, r3, r4⟩ := (show _ ∧ _ ∧ _ ∧ _ ∧ _ from ⟨(HQ.out _ HB1.out).2.cell 0 rfl, (HQ.out _ HB1.out).2.cell 1 rfl, (HQ.out _ HB1.out).2.cell 2 rfl, (HQ.out _ HB1.out).2.cell 3 rfl, (HQ.out _ HB1.out).2.cell 4 rfl⟩)
    obtain ⟨f0, f1, f2, f3, f4⟩ := (show _ ∧ _ ∧ _ ∧ _ ∧ _ from ⟨(HQ.out _ HB1.out).2.frozen 0, (HQ.out _ HB1.out).2.frozen 1, (HQ.out _ HB1.out).2.frozen 2, (HQ.out _ HB1.out).2.frozen 3, (HQ.out _ HB1.out).2.frozen 4⟩)
    clear HQ HX HB1
    go_wp2_with fail
    refine bodyPost_ret (v := .tuple #[.agg #[.slice none 0 0, .slice none 0 0, .int .i64 0, .int .i64 0, .slice none 0 0], .bool false]) (by simp [results, Tryz.f56, go_sem, r0, r1, r2, r3, r4]) rfl ?_
    refine ⟨?_, ?_⟩
    · rw [OpenAns, HN.out]
      exact ⟨_, rfl, none, 0, 0, none, 0, 0, none, 0, 0, [], rfl, ⟨⟨⟨rfl, .inl ⟨rfl, rfl⟩⟩, by simp⟩, ⟨⟨rfl, .inl ⟨rfl, rfl⟩⟩, by simp⟩, by simp, ⟨⟨rfl, .inl ⟨rfl, rfl⟩⟩, by simp, by simp⟩, rfl⟩, rfl⟩
    · exact ((((HBw.out.setCell (by dsimp only; omega) _).setCell (by dsimp only; omega) _).setCell (by dsimp only; omega) _).setCell (by dsimp only; omega) _).setCell (by dsimp only; omega) _

  have HOk : Hid (okD X Y = true) := hok
  clear hok
  obtain ⟨c0, c1⟩ := (show _ ∧ _ from ⟨(HQ.out _ HB1.out).1.cell 0 rfl, (HQ.out _ HB1.out).1.cell 1 rfl⟩)
  go_wp2_with fail
  refine (specScan_any a n ca X a' n' ca' y1 (HX.out _ HB1.out).1 (by omega) (HZ.out HOk.out)).mono ?_
  rintro _ y2 ⟨⟨v2, rs, rfl, hrow, hlm⟩, hb2⟩
  have HC2 : Hid (Below W2.heap.size W2 y2) := HB1.out.trans (hb2.mono HB1.out.size)
  obtain ⟨ra, rc, rfl⟩ := hrow.shape
  obtain ⟨M, hM⟩ : ∃ M, rs.length = M := ⟨_, rfl⟩
  rw [hM] at hrow ⊢
  have HM : Hid (M = rs.length) := hM.symm
  have HLm : Hid (rs.map RE.r = scanR X) := hlm
  have HR2 : Hid (RcRow y2 y1.heap.size (.slice ra M rc) rs) := hrow
  have HSh : Hid (∀ e ∈ rs, e.n ≤ 24) := rows_short hrow hlm (scanFrom_ok X 0 0).2
  have HMl : Hid (M = (scanR X).length) := by show _ = _; rw [← hlm, List.length_map, hM]
  have hMn : M ≤ 1048576 := by
    have h1 := (scanFrom_ok X 0 0).1
    have h2 := (HX.out _ HC2.out).1.1
    have h3 := congrArg List.length hlm
    rw [List.length_map, hM] at h3
    have h4 : (scanR X).length = (scanFrom 0 0 X).length := rfl
    omega
  clear hrow hlm hM hb2 c0 c1
  go_wp2_with fail
  refine (specFold_any ra M rc y1.heap.size rs 24 y2 HR2.out HM.out (by omega) HSh.out (by omega) (by omega)).mono ?_
  rintro _ y3 ⟨⟨x3, l3, rfl, hrow3, hm3, h310⟩, hb3⟩
  rw [HLm.out] at hm3 ⊢
  have HC3 : Hid (Below W2.heap.size W2 y3) := HC2.out.trans (hb3.mono HC2.out.size)
  obtain ⟨xa, xc, rfl⟩ := hrow3.shape
  obtain ⟨K, hK⟩ : ∃ K, l3.length = K := ⟨_, rfl⟩
  rw [hK] at hrow3 ⊢
  have hy2 : W2.heap.size ≤ y2.heap.size := HC2.out.size
  have HR3 : Hid (UpRow y3 y2.heap.size (.slice xa K xc) l3 ∧ K = l3.length) := ⟨hrow3, hK.symm⟩
  clear hb3 hrow3 hK h310 HB1 HC2 HR2
  obtain ⟨c0, c1⟩ := (show _ ∧ _ from ⟨(HQ.out _ HC3.out).1.cell 0 rfl, (HQ.out _ HC3.out).1.cell 1 rfl⟩)
  have HTb : Hid (-1 ≤ topE X ∧ topE X ≤ 10000) := topE_range X
  obtain ⟨T, hT⟩ : ∃ T, topE X = T := ⟨_, rfl⟩
  have HTe : Hid (topE X = T) := hT
  have htb : -1 ≤ T ∧ T ≤ 10000 := by rw [← hT]; exact HTb.out
  clear hT
  have htb1 : -1 ≤ T := htb.1
  have htb2 : T ≤ 10000 := htb.2
  clear htb
  cases hf : foldU (scanR X) with
  | none =>
    rw [hf] at hm3
    dsimp only [Option.isSome]
    go_wp2_with fail
    refine (specTop_any a n ca X a' n' ca' y3 (HX.out _ HC3.out).1 (by omega) (HZ.out HOk.out)).mono ?_
    rintro _ y4 ⟨rfl, hb4⟩
    rw [HTe.out]
    have HC4 : Hid (Below W2.heap.size W2 y4) := HC3.out.trans (hb4.mono HC3.out.size)
    clear hb4 c0 c1 HR3 HC3
    have HN : Hid (openO X Y = none) := by show _ = _; rw [openO, HOk.out, hf]
    have HBw : Hid (Below w.heap.size w y4) := HB2.out.trans (HC4.out.mono HB2.out.size)
    obtain ⟨r0, r1, r2, r3, r4⟩ := (show _ ∧ _ ∧ _ ∧ _ ∧ _ from ⟨(HQ.out _ HC4.out).2.cell 0 rfl, (HQ.out _ HC4.out).2.cell 1 rfl, (HQ.out _ HC4.out).2.cell 2 rfl, (HQ.out _ HC4.out).2.cell 3 rfl, (HQ.out _ HC4.out).2.cell 4 rfl⟩)
    obtain ⟨f0, f1, f2, f3, f4⟩ := (show _ ∧ _ ∧ _ ∧ _ ∧ _ from ⟨(HQ.out _ HC4.out).2.frozen 0, (HQ.out _ HC4.out).2.frozen 1, (HQ.out _ HC4.out).2.frozen 2, (HQ.out _ HC4.out).2.frozen 3, (HQ.out _ HC4.out).2.frozen 4⟩)
    clear HQ HX HC4
    go_wp2_with fail
    refine bodyPost_ret (v := .tuple #[.agg #[.slice none 0 0, .slice none 0 0, .int .i64 0, .int .i64 0, .slice none 0 0], .bool false]) (by simp [results, Tryz.f56, go_sem, r0, r1, r2, r3, r4]) rfl ?_
    refine ⟨?_, ?_⟩
    · rw [OpenAns, HN.out]
      exact ⟨_, rfl, none, 0, 0, none, 0, 0, none, 0, 0, [], rfl, ⟨⟨⟨rfl, .inl ⟨rfl, rfl⟩⟩, by simp⟩, ⟨⟨rfl, .inl ⟨rfl, rfl⟩⟩, by simp⟩, by simp, ⟨⟨rfl, .inl ⟨rfl, rfl⟩⟩, by simp, by simp⟩, rfl⟩, rfl⟩
    · exact ((((HBw.out.setCell (by dsimp only; omega) _).setCell (by dsimp only; omega) _).setCell (by dsimp only; omega) _).setCell (by dsimp only; omega) _).setCell (by dsimp only; omega) _

  | some us =>
    rw [hf] at hm3
    dsimp only [Option.isSome]
    have HUs : Hid (l3.map UE.u = us) := hm3
    have HFo : Hid (foldU (scanR X) = some us) := hf
    clear hm3 hf
    go_wp2_with fail
    refine (specTop_any a n ca X a' n' ca' y3 (HX.out _ HC3.out).1 (by omega) (HZ.out HOk.out)).mono ?_
    rintro _ y4 ⟨rfl, hb4⟩
    rw [HTe.out]
    have HC4 : Hid (Below W2.heap.size W2 y4) := HC3.out.trans (hb4.mono HC3.out.size)
    have HR4 : Hid (UpRow y4 y2.heap.size (.slice xa K xc) l3 ∧ K = l3.length) := ⟨HR3.out.1.stays hb4, HR3.out.2⟩
    clear hb4 c0 c1 HR3 HC3
    by_cases hbig : 10000 < T + 1
    · clear HR4
      have HN : Hid (openO X Y = none) := by show _ = _; rw [openO, HOk.out, HFo.out, HTe.out]; simp [hbig]
      have HBw : Hid (Below w.heap.size w y4) := HB2.out.trans (HC4.out.mono HB2.out.size)
      obtain ⟨r0, r1, r2, r3, r4⟩ := (show _ ∧ _ ∧ _ ∧ _ ∧ _ from ⟨(HQ.out _ HC4.out).2.cell 0 rfl, (HQ.out _ HC4.out).2.cell 1 rfl, (HQ.out _ HC4.out).2.cell 2 rfl, (HQ.out _ HC4.out).2.cell 3 rfl, (HQ.out _ HC4.out).2.cell 4 rfl⟩)
      obtain ⟨f0, f1, f2, f3, f4⟩ := (show _ ∧ _ ∧ _ ∧ _ ∧ _ from ⟨(HQ.out _ HC4.out).2.frozen 0, (HQ.out _ HC4.out).2.frozen 1, (HQ.out _ HC4.out).2.frozen 2, (HQ.out _ HC4.out).2.frozen 3, (HQ.out _ HC4.out).2.frozen 4⟩)
      clear HQ HX HC4
      go_wp2_with fail
      refine bodyPost_ret (v := .tuple #[.agg #[.slice none 0 0, .slice none 0 0, .int .i64 0, .int .i64 0, .slice none 0 0], .bool false]) (by simp [results, Tryz.f56, go_sem, r0, r1, r2, r3, r4]) rfl ?_
      refine ⟨?_, ?_⟩
      · rw [OpenAns, HN.out]
        exact ⟨_, rfl, none, 0, 0, none, 0, 0, none, 0, 0, [], rfl, ⟨⟨⟨rfl, .inl ⟨rfl, rfl⟩⟩, by simp⟩, ⟨⟨rfl, .inl ⟨rfl, rfl⟩⟩, by simp⟩, by simp, ⟨⟨rfl, .inl ⟨rfl, rfl⟩⟩, by simp, by simp⟩, rfl⟩, rfl⟩
      · exact ((((HBw.out.setCell (by dsimp only; omega) _).setCell (by dsimp only; omega) _).setCell (by dsimp only; omega) _).setCell (by dsimp only; omega) _).setCell (by dsimp only; omega) _

    have HS : Hid (openO X Y = some (T + 1, M, us)) := by show _ = _; rw [openO, HOk.out, HFo.out, HTe.out, HMl.out]; simp [hbig]
    obtain ⟨c0, c1⟩ := (show _ ∧ _ from ⟨(HQ.out _ HC4.out).1.cell 0 rfl, (HQ.out _ HC4.out).1.cell 1 rfl⟩)
    go_wp2_with fail
    refine (specDcopy_any a n ca X a' n' ca' Y y4 (HX.out _ HC4.out).1 (HX.out _ HC4.out).2 (by omega) (by omega)).mono ?_
    rintro _ y5 ⟨⟨v5, rfl, A, C, A', C', rfl, ow, ow', hap⟩, hb5⟩
    have HBw : Hid (Below w.heap.size w y5) := by
      have h1 := HC4.out.trans (hb5.mono HC4.out.size)
      exact HB2.out.trans (h1.mono HB2.out.size)
    have hy4 : W2.heap.size ≤ y4.heap.size := HC4.out.size
    have HS5 : Hid (StoAt y5 (w.heap.size + 2) A X.length C X A' Y.length C' Y xa K xc l3) := ⟨ow.low (by omega), ow'.low (by omega), hap, (HR4.out.1.stays hb5).low (by omega), HR4.out.2⟩
    have hq5 := (HQ.out _ (HC4.out.trans (hb5.mono HC4.out.size))).2
    obtain ⟨r0, r1, r2, r3, r4⟩ := (show _ ∧ _ ∧ _ ∧ _ ∧ _ from ⟨hq5.cell 0 rfl, hq5.cell 1 rfl, hq5.cell 2 rfl, hq5.cell 3 rfl, hq5.cell 4 rfl⟩)
    obtain ⟨f0, f1, f2, f3, f4⟩ := (show _ ∧ _ ∧ _ ∧ _ ∧ _ from ⟨hq5.frozen 0, hq5.frozen 1, hq5.frozen 2, hq5.frozen 3, hq5.frozen 4⟩)
    clear ow ow' hap hb5 hq5 HQ HX HC4 HR4 c0 c1
    go_wp2_with fail
    refine bodyPost_ret (v := .tuple #[.agg #[.slice A X.length C, .slice A' Y.length C', .int .i64 (T + 1), .int .i64 (M : Int), .slice xa K xc], .bool true]) (by simp [results, Tryz.f56, go_sem, r0, r1, r2, r3, r4]) rfl ?_
    refine ⟨?_, ?_⟩
    · rw [OpenAns, HS.out]
      exact ⟨_, rfl, A, X.length, C, A', Y.length, C', xa, K, xc, l3, rfl, (((((HS5.out.setLow (by omega) _).setLow (by omega) _).setLow (by omega) _).setLow (by omega) _).setLow (by omega) _).low (by omega), HUs.out⟩
    · exact ((((HBw.out.setCell (by dsimp only; omega) _).setCell (by dsimp only; omega) _).setCell (by dsimp only; omega) _).setCell (by dsimp only; omega) _).setCell (by dsimp only; omega) _

end Go.Proofs.YtpjldfpipchmjavGreatDoor
