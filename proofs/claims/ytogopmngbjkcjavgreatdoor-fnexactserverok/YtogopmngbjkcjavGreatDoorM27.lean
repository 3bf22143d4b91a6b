/- What the specification's ScanRecs answers. What the specification's StoreOk answers. Rows of texts and the block that they lie in. No program in it but its table of types. A store in memory: its two rows of texts and its uploads, of a call's own. No program in it but its table of types. The comparison of bytes that the laws call. For slices of at most 2^40 bytes. -/
import Derived.Test.YtogopmngbjkcjavGreatDoorM26
import Derived.Test.YtogopmngbjkcjavGreatDoorM17
import Derived.Test.YtogopmngbjkcjavGreatDoorM17
import Derived.Test.YtogopmngbjkcjavGreatDoorM03
import Derived.Test.YtogopmngbjkcjavGreatDoorM12
import Derived.Test.YtogopmngbjkcjavGreatDoorM23
import Derived.Test.YtogopmngbjkcjavGreatDoorM24
import Derived.Test.YtogopmngbjkcjavGreatDoorM25
import Derived.Test.YtogopmngbjkcjavGreatDoorM18
import Derived.Test.YtogopmngbjkcjavGreatDoorM07
import Derived.Test.YtogopmngbjkcjavGreatDoorM19
import Derived.Test.YtogopmngbjkcjavGreatDoorM08
import Derived.Test.YtogopmngbjkcjavGreatDoorRows
import Derived.Test.YtogopmngbjkcjavGreatDoorM01
import Derived.Deep.QuietTactic
import Derived.BigQuiet
namespace Go.Proofs.YtogopmngbjkcjavGreatDoor
open Go.RowKit
set_option linter.unusedVariables false

set_option maxRecDepth 10000 in
set_option maxHeartbeats 1600000 in
theorem specScan_any (a : Option Addr) (n ca : Nat) (xs : List ByteArray) (a' : Option Addr) (n' ca' : Nat) (w : World) (h1 : Strs w a n xs) (hn : n ≤ 1099511627776) (hz : ∀ x ∈ xs, x.size ≤ 1048576) :
    Calls Tryz.prog 64 #[.agg #[.slice a n ca, .slice a' n' ca']] w fun e w' => (∃ v l, e = .returned v ∧ RcRow w' w.heap.size v l ∧ l.map RE.r = scanR xs) ∧ Below w.heap.size w w' := by
  obtain ⟨i0, hi, hz0, hz1, hz2⟩ := info_parts info_rec
  have HX : Hid (∀ W, Below w.heap.size w W → Strs W a n xs) := fun W h => h1.below h
  have HL : Hid (xs.length = n) := h1.1
  have HZ : Hid (∀ x ∈ xs, x.size ≤ 1048576) := hz
  clear h1 hz
  obtain ⟨w0, hw0⟩ : ∃ w0, w.alloc (.cells #[.slice a n ca, .slice a' n' ca'] 33) = w0 := ⟨_, rfl⟩
  have HE : Hid (w.alloc (.cells #[.slice a n ca, .slice a' n' ca'] 33) = w0) := hw0
  have HA : Hid (Box2R w0 w.heap.size 33 (.slice a n ca) (.slice a' n' ca')) := by show Box2R _ _ _ _ _; rw [← hw0]; exact Box2R.new _ _ _ _
  have HB : Hid (Below w.heap.size w w0) := by show Below _ _ _; rw [← hw0]; exact (Below.refl _ _).alloc (Nat.le_refl _) _
  have HO0 : Hid (RcRow (w0.alloc (.cells #[] 106)) w0.heap.size (.slice (some ⟨w.heap.size + 1, 0, none⟩) 0 0) []) := by
    have h := RcRow.nil w0
    have e : w0.heap.size = w.heap.size + 1 := by rw [← hw0]; simp
    show RcRow _ _ _ _
    rw [e] at h ⊢
    exact h
  clear hw0
  have HB0 : Hid (Below w0.heap.size w0 (w0.alloc (.cells #[] 106))) := (Below.refl _ _).alloc (Nat.le_refl _) _
  go_enter Tryz.func64, Tryz.ntmps64
  go_wp2_with fail
  rw [HE.out]
  clear HE
  go_loopw [3, 4, 5] (fun v la i wr => ∃ (k : Nat) (last : Int) (l : List RE), k ≤ n ∧ k ≤ 200 ∧ l.length = k ∧ i = .int .i64 (k : Int) ∧ la = .int .i64 last ∧ Hid (RcRow wr w0.heap.size v l) ∧ Hid (l.map RE.r ++ scanFrom k last (xs.drop k) = scanR xs) ∧ Hid (Below w0.heap.size w0 wr)) (fun _ _ i _ => n - (intOf i).toNat)
  case atStart => exact ⟨0, 0, [], Nat.zero_le _, Nat.zero_le _, rfl, rfl, rfl, HO0, rfl, HB0⟩
  case round =>
    clear HO0 HB0
    obtain ⟨k, last, l, hk, hk2, hlk, rfl, rfl, HO, HS, HW⟩ := hrel
    obtain ⟨va, vc, hve⟩ := HO.out.shape
    subst hve
    rw [hlk] at HO ⊢
    obtain ⟨c0, c1⟩ := (HA.out.stays HW.out).cells
    by_cases hlt : k < n
    · have hb := HB.out.trans (HW.out.mono HB.out.size)
      obtain ⟨p, po, x, rfl, _, hkx, hp⟩ := (HX.out _ hb).at hlt
      have HK : Hid (xs[k]? = some x) := hkx
      have hxz : x.size ≤ 1048576 := HZ.out x (List.mem_of_getElem? hkx)
      have hki : (k : Int) < (n : Int) := by omega
      have hk0 : (0 : Int) ≤ (k : Int) := by omega
      clear hkx hb
      have HEnd : Hid (nextR k last x = none → l.map RE.r = scanR xs) := fun h => by
        have h2 := HS.out
        rw [scan_stop HK.out h, List.append_nil] at h2
        exact h2
      go_wp2_with fail
      refine (specGetR_any x wr (by omega)).mono ?_
      rintro _ w1 ⟨⟨v, rfl, hgot⟩, hb1⟩
      have hb01 : Below w0.heap.size w0 w1 := HW.out.trans (hb1.mono HW.out.size)
      rcases hgot with ⟨hr, rfl⟩ | ⟨r, A, C, hr, rfl, ho⟩
      · have HF : Hid (l.map RE.r = scanR xs) := HEnd.out (by rw [nextR, hr])
        have hb2 := (Below.refl w1.heap.size w1).alloc (Nat.le_refl _) (.cells #[.int .i64 0, .int .i64 0, .int .i64 0, .string ⟨#[]⟩, .int .i64 0, .slice none 0 0] 106)
        have HO2 : Hid (RcRow (w1.alloc (.cells #[.int .i64 0, .int .i64 0, .int .i64 0, .string ⟨#[]⟩, .int .i64 0, .slice none 0 0] 106)) w.heap.size (.slice va k vc) l) := ((HO.out.stays hb1).stays hb2).low HB.out.size
        have HW2 : Hid (Below w.heap.size w (w1.alloc (.cells #[.int .i64 0, .int .i64 0, .int .i64 0, .string ⟨#[]⟩, .int .i64 0, .slice none 0 0] 106))) := HB.out.trans ((hb01.alloc hb01.size _).mono HB.out.size)
        clear hr hb1 hb2 hb01 HW HO HEnd HS
        go_wp2_with fail
        go_ret
        exact ⟨⟨_, l, rfl, HO2.out, HF.out⟩, HW2.out⟩
      by_cases hq : r.q = (k : Int)
      case neg =>
        have hqb : (r.q != (k : Int)) = true := by simpa using hq
        have HF : Hid (l.map RE.r = scanR xs) := HEnd.out (by rw [nextR, hr]; exact if_neg (fun h => hq h.1))
        clear hq
        have hb2 := (Below.refl w1.heap.size w1).alloc (Nat.le_refl _) (.cells #[.int .i64 r.e, .int .i64 r.q, .int .i64 r.k, .string r.id, .int .i64 r.n, .slice A r.zs.length C] 106)
        have HO2 : Hid (RcRow (w1.alloc (.cells #[.int .i64 r.e, .int .i64 r.q, .int .i64 r.k, .string r.id, .int .i64 r.n, .slice A r.zs.length C] 106)) w.heap.size (.slice va k vc) l) := ((HO.out.stays hb1).stays hb2).low HB.out.size
        have HW2 : Hid (Below w.heap.size w (w1.alloc (.cells #[.int .i64 r.e, .int .i64 r.q, .int .i64 r.k, .string r.id, .int .i64 r.n, .slice A r.zs.length C] 106))) := HB.out.trans ((hb01.alloc hb01.size _).mono HB.out.size)
        clear hr hb1 hb2 hb01 HW HO HEnd HS ho
        go_wp2_with fail
        go_ret
        exact ⟨⟨_, l, rfl, HO2.out, HF.out⟩, HW2.out⟩
      have hqb : (r.q != (k : Int)) = false := by simpa using hq
      have HQk : Hid (r.q = (k : Int)) := hq
      clear hq
      by_cases he : last ≤ r.e
      case neg =>
        have hel : r.e < last := by omega
        have HF : Hid (l.map RE.r = scanR xs) := HEnd.out (by rw [nextR, hr]; exact if_neg (fun h => he h.2))
        clear he
        have hb2 := (Below.refl w1.heap.size w1).alloc (Nat.le_refl _) (.cells #[.int .i64 r.e, .int .i64 r.q, .int .i64 r.k, .string r.id, .int .i64 r.n, .slice A r.zs.length C] 106)
        have HO2 : Hid (RcRow (w1.alloc (.cells #[.int .i64 r.e, .int .i64 r.q, .int .i64 r.k, .string r.id, .int .i64 r.n, .slice A r.zs.length C] 106)) w.heap.size (.slice va k vc) l) := ((HO.out.stays hb1).stays hb2).low HB.out.size
        have HW2 : Hid (Below w.heap.size w (w1.alloc (.cells #[.int .i64 r.e, .int .i64 r.q, .int .i64 r.k, .string r.id, .int .i64 r.n, .slice A r.zs.length C] 106))) := HB.out.trans ((hb01.alloc hb01.size _).mono HB.out.size)
        clear hr hb1 hb2 hb01 HW HO HEnd HS ho
        go_wp2_with fail
        go_ret
        exact ⟨⟨_, l, rfl, HO2.out, HF.out⟩, HW2.out⟩
      have hel : ¬ r.e < last := by omega
      have hok := okRec_iff (recOf_iff.1 hr).1
      have hk199 : k ≤ 199 := by have h1 := hok.2.1; have h2 := HQk.out; omega
      have hd24 : r.zs.length ≤ 24 := hok.2.2.2.2.2
      have HS2 : Hid (l.map RE.r ++ r :: scanFrom (k + 1) r.e (xs.drop (k + 1)) = scanR xs) := by
        have h2 := HS.out
        rw [scan_go HK.out (show nextR k last x = some r by rw [nextR, hr]; exact if_pos ⟨HQk.out, he⟩)] at h2
        exact h2
      have hb2 := (Below.refl w1.heap.size w1).alloc (Nat.le_refl _) (.cells #[.int .i64 r.e, .int .i64 r.q, .int .i64 r.k, .string r.id, .int .i64 r.n, .slice A r.zs.length C] 106)
      have HB2 : Hid (Below w0.heap.size w0 (w1.alloc (.cells #[.int .i64 r.e, .int .i64 r.q, .int .i64 r.k, .string r.id, .int .i64 r.n, .slice A r.zs.length C] 106))) := hb01.alloc hb01.size _
      have HO2 : Hid (RcRow (w1.alloc (.cells #[.int .i64 r.e, .int .i64 r.q, .int .i64 r.k, .string r.id, .int .i64 r.n, .slice A r.zs.length C] 106)) w0.heap.size (.slice va k vc) l) := (HO.out.stays hb1).stays hb2
      have HG2 : Hid (Owns (w1.alloc (.cells #[.int .i64 r.e, .int .i64 r.q, .int .i64 r.k, .string r.id, .int .i64 r.n, .slice A r.zs.length C] 106)) wr.heap.size A r.zs.length C r.zs) := ho.below hb2
      have HX2 : Hid (BoxN (w1.alloc (.cells #[.int .i64 r.e, .int .i64 r.q, .int .i64 r.k, .string r.id, .int .i64 r.n, .slice A r.zs.length C] 106)) w1.heap.size 106 [.int .i64 r.e, .int .i64 r.q, .int .i64 r.k, .string r.id, .int .i64 r.n, .slice A r.zs.length C]) := BoxN.new _ _ _
      have HAp : Hid (∀ e ∈ l, ∀ q, e.a.map (·.block) = some q → q < wr.heap.size) := fun e he q hq => ((HO.out.2.1 e he).lt q hq).2
      have hws : w0.heap.size ≤ wr.heap.size := HW.out.size
      have HVa : Hid (∀ q, (Value.slice va k vc).ownBlock = some q → q < w1.heap.size) := fun q hq => by have h1 := (HO.out.1.lt q hq).2; have h2 := hb1.size; omega
      clear hok hr hb1 hb2 hb01 HW HO HEnd HS ho HQk he
      go_upto_region 9 with fail
      clear hqb hel
      obtain ⟨x2, hx2⟩ : ∃ x2, w1.alloc (.cells #[.int .i64 r.e, .int .i64 r.q, .int .i64 r.k, .string r.id, .int .i64 r.n, .slice A r.zs.length C] 106) = x2 := ⟨_, rfl⟩
      rw [hx2] at HB2 HO2 HG2 HX2 ⊢
      clear hx2
      generalize w1.heap.size = bx at *
      have s0 := HX2.out.cell 0 rfl
      have s1 := HX2.out.cell 1 rfl
      have s2 := HX2.out.cell 2 rfl
      have s3 := HX2.out.cell 3 rfl
      have s4 := HX2.out.cell 4 rfl
      have s5 := HX2.out.cell 5 rfl
      have HN : Hid (∀ j u, (RE.cells ⟨r, A, r.zs.length, C⟩)[j]? = some u → (x2.alloc (.cells #[.int .i64 r.e, .int .i64 r.q, .int .i64 r.k, .string r.id, .int .i64 r.n, .slice A r.zs.length C] 106)).cell? ((⟨x2.heap.size, 0, none⟩ : Addr).add j) = some u) := six_new x2 r A r.zs.length C
      have HO2' : Hid ((x2.alloc (.cells #[.int .i64 r.e, .int .i64 r.q, .int .i64 r.k, .string r.id, .int .i64 r.n, .slice A r.zs.length C] 106)).ownsRow w0.heap.size 106 6 (.slice va k vc) k (reCells l)) := by
        have h := HO2.out.1.alloc (.cells #[.int .i64 r.e, .int .i64 r.q, .int .i64 r.k, .string r.id, .int .i64 r.n, .slice A r.zs.length C] 106)
        rw [hlk] at h
        exact h
      go_wp2_with (at_builtin; refine wpList_append_own _ rfl _ _ 100 rfl w0.heap.size 106 i0 (.agg #[.int .i64 0, .int .i64 0, .int .i64 0, .string ⟨#[]⟩, .int .i64 0, .slice none 0 0]) 6 72 Tryz.underlying100 hi hz0 hz1 hz2 rfl (by decide) (.slice va k vc) k _ rfl HO2'.out ⟨x2.heap.size, 0, none⟩ 1 1 (RE.cells ⟨r, A, r.zs.length, C⟩) rfl rfl HN.out (six_one r A r.zs.length C) (by unfold maxLen; omega) (by omega) (by have := HB2.out.size; simp; omega) ?_; intro v3 x3 hown3 hgrow3 _; refine Hid.out ?_)
      refine hidden ?_
      have HO3 : Hid (RcRow x3 w0.heap.size v3 (l ++ [⟨r, A, r.zs.length, C⟩])) := HO2.out.snoc HG2.out hws HAp.out (by rw [hlk]; exact hown3) hgrow3
      have HB3 : Hid (Below w0.heap.size w0 x3) := (HB2.out.alloc HB2.out.size _).grown hgrow3 (by have := HB2.out.size; simp; omega) (fun q hq => (HO2.out.1.lt q hq).1)
      have HX3 : Hid (BoxN x3 bx 106 [.int .i64 r.e, .int .i64 r.q, .int .i64 r.k, .string r.id, .int .i64 r.n, .slice A r.zs.length C]) := (HX2.out.alloc _).grown hgrow3 (fun e => by have := HVa.out _ e; omega)
      have t0 := HX3.out.cell 0 rfl
      clear hown3 hgrow3 HN HO2' s0 s1 s2 s3 s4 s5 HO2 HG2 HX2 HB2 HX3
      obtain ⟨v3a, v3c, rfl⟩ := HO3.out.shape
      rw [List.length_append, hlk] at HO3 ⊢
      go_wp2_with fail
      go_roundw
      case rel =>
        refine ⟨k + 1, r.e, l ++ [⟨r, A, r.zs.length, C⟩], by omega, by omega, by simp [hlk], by go_num, rfl, HO3, ?_, HB3⟩
        show _ = _
        rw [List.map_append, List.append_assoc]
        exact HS2.out
      case measure => simp [intOf]; omega
    · obtain rfl : k = n := by omega
      have HF : Hid (l.map RE.r = scanR xs) := by
        have h2 := HS.out
        rw [List.drop_of_length_le (by have := HL.out; omega)] at h2
        show _ = _
        simpa [scanFrom] using h2
      have HO2 : Hid (RcRow wr w.heap.size (.slice va k vc) l) := HO.out.low HB.out.size
      have HW2 : Hid (Below w.heap.size w wr) := HB.out.trans (HW.out.mono HB.out.size)
      clear HO HS HW
      go_wp2_with fail
      go_ret
      exact ⟨⟨_, l, rfl, HO2.out, HF.out⟩, HW2.out⟩

end Go.Proofs.YtogopmngbjkcjavGreatDoor

namespace Go.Proofs.YtogopmngbjkcjavGreatDoor
open Go.RowKit
set_option linter.unusedVariables false

set_option maxRecDepth 10000 in
set_option maxHeartbeats 1600000 in
theorem specSok_any (a : Option Addr) (n ca : Nat) (X : List ByteArray) (a' : Option Addr) (n' ca' : Nat) (Y : List ByteArray) (ep nx : Int) (ua : Option Addr) (un uc lo : Nat) (l : List UE) (w : World) (h1 : Strs w a n X) (h2 : Strs w a' n' Y) (hn : n ≤ 1048576) (hn' : n' ≤ 1048576) (hz : ∀ x ∈ X, x.size ≤ 1048576) (hu : UpRow w lo (.slice ua un uc) l) (hun : un = l.length) (hul : un ≤ 1048576) :
    Calls Tryz.prog 34 #[.agg #[.slice a n ca, .slice a' n' ca', .int .i64 ep, .int .i64 nx, .slice ua un uc]] w fun e w' => (∃ b : Bool, e = .returned (.bool b) ∧ (b = true ↔ SOk X Y ep nx (l.map UE.u))) ∧ Below w.heap.size w w' := by
  have hmm : maxLen < 9223372036854775808 := by decide
  obtain ⟨w0, hw0⟩ : ∃ w0, w.alloc (.cells #[.slice a n ca, .slice a' n' ca', .int .i64 ep, .int .i64 nx, .slice ua un uc] 36) = w0 := ⟨_, rfl⟩
  have HE : Hid (w.alloc (.cells #[.slice a n ca, .slice a' n' ca', .int .i64 ep, .int .i64 nx, .slice ua un uc] 36) = w0) := hw0
  have HQ : Hid (BoxN w0 w.heap.size 36 [.slice a n ca, .slice a' n' ca', .int .i64 ep, .int .i64 nx, .slice ua un uc]) := by show BoxN _ _ _ _; rw [← hw0]; exact BoxN.new _ _ _
  have HB : Hid (Below w.heap.size w w0) := by show Below _ _ _; rw [← hw0]; exact (Below.refl _ _).alloc (Nat.le_refl _) _
  have HX : Hid (∀ W, Below w0.heap.size w0 W → BoxN W w.heap.size 36 [.slice a n ca, .slice a' n' ca', .int .i64 ep, .int .i64 nx, .slice ua un uc] ∧ Strs W a n X ∧ Strs W a' n' Y ∧ UpRow W lo (.slice ua un uc) l ∧ Below w.heap.size w W) := fun W hb => ⟨HQ.out.stays hb, (h1.below HB.out).below hb, (h2.below HB.out).below hb, (hu.stays HB.out).stays hb, HB.out.trans (hb.mono HB.out.size)⟩
  have HZ : Hid (∀ x ∈ X, x.size ≤ 1048576) := hz
  have HU : Hid (un = l.length) := hun
  have hww : w.heap.size < w0.heap.size := HQ.out.lt
  clear hw0 h1 h2 hu hz hun HB HQ
  have HA0 : Hid (Below w0.heap.size w0 w0) := Below.refl _ _
  obtain ⟨c0, c1, c2, c3, c4⟩ := (show _ ∧ _ ∧ _ ∧ _ ∧ _ from ⟨(HX.out _ HA0.out).1.cell 0 rfl, (HX.out _ HA0.out).1.cell 1 rfl, (HX.out _ HA0.out).1.cell 2 rfl, (HX.out _ HA0.out).1.cell 3 rfl, (HX.out _ HA0.out).1.cell 4 rfl⟩)
  go_enter Tryz.func34, Tryz.ntmps34
  go_upto_region 1 with fail
  rw [HE.out]
  clear HE
  go_wp2_with fail
  refine (specDok_any a n ca X a' n' ca' Y w0 (HX.out _ HA0.out).2.1 (HX.out _ HA0.out).2.2.1 (by omega) (by omega)).mono ?_
  rintro _ y1 ⟨rfl, hb1⟩
  have HB1 : Hid (Below w0.heap.size w0 y1) := hb1
  clear hb1 c0 c1 c2 c3 c4
  obtain ⟨c0, c1, c2, c3, c4⟩ := (show _ ∧ _ ∧ _ ∧ _ ∧ _ from ⟨(HX.out _ HB1.out).1.cell 0 rfl, (HX.out _ HB1.out).1.cell 1 rfl, (HX.out _ HB1.out).1.cell 2 rfl, (HX.out _ HB1.out).1.cell 3 rfl, (HX.out _ HB1.out).1.cell 4 rfl⟩)
  cases hok : okD X Y
  · have HF : Hid (¬ SOk X Y ep nx (l.map UE.u)) := fun h => by have := h.1; rw [hok] at this; cases this
    have HBw : Hid (Below w.heap.size w y1) := (HX.out y1 HB1.out).2.2.2.2
    clear hok
    go_wp2_with fail
    go_ret
    exact ⟨⟨false, rfl, no_store HF.out⟩, HBw.out⟩
  have HOk : Hid (okD X Y = true) := hok
  clear hok
  go_wp2_with fail
  refine (l1In_any ep 0 10000 y1).mono ?_
  rintro _ y ⟨rfl, hy⟩
  rw [hy]
  clear hy y
  by_cases hep : 0 ≤ ep ∧ ep ≤ 10000
  case neg =>
    have HF : Hid (¬ SOk X Y ep nx (l.map UE.u)) := fun h => hep h.2.1
    have HBw : Hid (Below w.heap.size w y1) := (HX.out y1 HB1.out).2.2.2.2
    rw [decide_eq_false hep]
    go_wp2_with fail
    go_ret
    exact ⟨⟨false, rfl, no_store HF.out⟩, HBw.out⟩
  rw [decide_eq_true hep]
  have HEp : Hid (0 ≤ ep ∧ ep ≤ 10000) := hep
  clear hep
  go_wp2_with fail
  refine (specScan_any a n ca X a' n' ca' y1 (HX.out _ HB1.out).2.1 (by omega) HZ.out).mono ?_
  rintro _ y2 ⟨⟨v2, rs, rfl, hrow, hlm⟩, hb2⟩
  have HB2 : Hid (Below w0.heap.size w0 y2) := HB1.out.trans (hb2.mono HB1.out.size)
  obtain ⟨ra, rc, rfl⟩ := hrow.shape
  obtain ⟨M, hM⟩ : ∃ M, rs.length = M := ⟨_, rfl⟩
  rw [hM] at hrow ⊢
  have HM : Hid (M = rs.length) := hM.symm
  have HLm : Hid (rs.map RE.r = scanR X) := hlm
  have HR2 : Hid (∀ W, Below y2.heap.size y2 W → RcRow W y1.heap.size (.slice ra M rc) rs) := fun W h => hrow.stays h
  have HSh : Hid (∀ e ∈ rs, e.n ≤ 24) := rows_short hrow hlm (scanFrom_ok X 0 0).2
  have hMn : M ≤ 1048576 := by
    have h1 := (scanFrom_ok X 0 0).1
    have h2 := (HX.out _ HB2.out).2.1.1
    have h3 := congrArg List.length hlm
    rw [List.length_map, hM] at h3
    have h4 : (scanR X).length = (scanFrom 0 0 X).length := rfl
    omega
  clear hrow hlm hM hb2 c0 c1 c2 c3 c4
  go_wp2_with fail
  refine (specFold_any ra M rc y1.heap.size rs 24 y2 (HR2.out _ (Below.refl _ _)) HM.out (by omega) HSh.out (by omega) (by omega)).mono ?_
  rintro _ y3 ⟨⟨x3, l3, rfl, hrow3, hm3, h310⟩, hb3⟩
  rw [HLm.out] at hm3 ⊢
  have HB3 : Hid (Below w0.heap.size w0 y3) := HB2.out.trans (hb3.mono HB2.out.size)
  obtain ⟨xa, xc, rfl⟩ := hrow3.shape
  have HR3 : Hid (∀ P : Past y3, UpRow P.world y2.heap.size (.slice xa l3.length xc) l3) := fun P => hrow3.stays P.below
  have HRr : Hid (∀ P : Past y3, RcRow P.world y1.heap.size (.slice ra M rc) rs) := fun P => HR2.out _ (hb3.trans (P.below.mono hb3.size))
  clear hb3 hrow3
  go_upto_region 5 with fail
  have x2 : ∀ P : Past y3, P.world.cell? ⟨w.heap.size, 2, none⟩ = some (.int .i64 ep) := fun P => (HX.out _ (HB3.out.trans (P.below.mono HB3.out.size))).1.cell 2 rfl
  have x3 : ∀ P : Past y3, P.world.cell? ⟨w.heap.size, 3, none⟩ = some (.int .i64 nx) := fun P => (HX.out _ (HB3.out.trans (P.below.mono HB3.out.size))).1.cell 3 rfl
  have x4 : ∀ P : Past y3, P.world.cell? ⟨w.heap.size, 4, none⟩ = some (.slice ua un uc) := fun P => (HX.out _ (HB3.out.trans (P.below.mono HB3.out.size))).1.cell 4 rfl
  have HSm : Hid (∀ P : Past y3, Calls Tryz.prog 66 #[.slice xa l3.length xc, .slice ua un uc] P.world fun e w' => e = .returned (.bool (decB (l3.map UE.u = l.map UE.u))) ∧ Below P.world.heap.size P.world w') := fun P => (specSameU_any xa l3.length xc y2.heap.size l3 ua un uc lo l P.world (HR3.out P) rfl (HX.out _ (HB3.out.trans (P.below.mono HB3.out.size))).2.2.2.1 HU.out (by omega) (by omega)).mono (fun e w' ⟨⟨b, he, hb⟩, hbl⟩ => ⟨by rw [he, decB_iff hb], hbl⟩)
  have hne := past_some y3
  cases hf : foldU (scanR X) with
  | none =>
    have HF : Hid (¬ SOk X Y ep nx (l.map UE.u)) := fun h => by have := h.2.2.1; rw [hf] at this; cases this
    rw [hf] at hm3
    try dsimp only [Option.isSome]
    refine wp_region_pastO (by kernel_rfl) (by kernel_rfl) fun ops HO => ?_
    iterate 3 (quiet_step ((first | (go_at_call 66; with_reducible exact calls_past (HSm.out _)) | fail)))
    iterate 5 (refine quiet_past (by rw [HO.out]; kernel_rfl) ?_)
    iterate 2 (quiet_step ((first | (go_at_call 66; with_reducible exact calls_past (HSm.out _)) | fail)))
    iterate 5 (refine quiet_past (by rw [HO.out]; kernel_rfl) ?_)
    iterate 2 (quiet_step ((first | (go_at_call 66; with_reducible exact calls_past (HSm.out _)) | fail)))
    iterate 4 (refine quiet_past (by rw [HO.out]; kernel_rfl) ?_)
    iterate 10 (refine quiet_past (by rw [HO.out]; kernel_rfl) ?_)
    iterate 1 (refine quiet_past (by rw [HO.out]; kernel_rfl) ?_)
    iterate 1 (quiet_step ((first | (go_at_call 66; with_reducible exact calls_past (HSm.out _)) | fail)))
    refine wpQuiet_nil ?_
    rintro _ ⟨z, rfl⟩
    have HBz : Hid (Below w.heap.size w z.world) := (HX.out _ (HB3.out.trans (z.below.mono HB3.out.size))).2.2.2.2
    go_wp2_with fail
    go_ret
    exact ⟨⟨false, rfl, no_store HF.out⟩, HBz.out⟩
  | some us =>
    rw [hf] at hm3
    try dsimp only [Option.isSome]
    have HUs : Hid (l3.map UE.u = us) := hm3
    have HFo : Hid (foldU (scanR X) = some us) := hf
    clear hm3 hf
    by_cases hsame : l3.map UE.u = l.map UE.u
    case neg =>
      have HF : Hid (¬ SOk X Y ep nx (l.map UE.u)) := fun h => by
        have h1 := h.2.2.1
        rw [HFo.out] at h1
        injection h1 with h1
        exact hsame (by rw [HUs.out, h1])
      rw [decB_false hsame] at HSm
      clear hsame
      refine wp_region_pastO (by kernel_rfl) (by kernel_rfl) fun ops HO => ?_
      iterate 3 (quiet_step ((first | (go_at_call 66; with_reducible exact calls_past (HSm.out _)) | fail)))
      iterate 5 (refine quiet_do (by rw [HO.out]; kernel_rfl) (fun K hK => ?_); go_simp; first | (refine hK _ ?_; clear hK K) | (apply Exists.intro; refine ⟨fun _ => ?_, hK _ ?_⟩; (first | (go_at_call 66; with_reducible exact calls_past (HSm.out _)) | fail); clear hK K))
      iterate 2 (quiet_step ((first | (go_at_call 66; with_reducible exact calls_past (HSm.out _)) | fail)))
      iterate 5 (refine quiet_past (by rw [HO.out]; kernel_rfl) ?_)
      iterate 2 (quiet_step ((first | (go_at_call 66; with_reducible exact calls_past (HSm.out _)) | fail)))
      iterate 4 (refine quiet_past (by rw [HO.out]; kernel_rfl) ?_)
      iterate 10 (refine quiet_past (by rw [HO.out]; kernel_rfl) ?_)
      iterate 1 (refine quiet_past (by rw [HO.out]; kernel_rfl) ?_)
      iterate 1 (quiet_step ((first | (go_at_call 66; with_reducible exact calls_past (HSm.out _)) | fail)))
      refine wpQuiet_nil ?_
      rintro _ ⟨z, rfl⟩
      have HBz : Hid (Below w.heap.size w z.world) := (HX.out _ (HB3.out.trans (z.below.mono HB3.out.size))).2.2.2.2
      go_wp2_with fail
      go_ret
      exact ⟨⟨false, rfl, no_store HF.out⟩, HBz.out⟩
    rw [decB_true hsame] at HSm
    have HFl : Hid (foldU (scanR X) = some (l.map UE.u)) := by show _ = _; rw [HFo.out, ← HUs.out, hsame]
    clear hsame
    have HMs : Hid ((scanR X).length = M) := by
      show _ = _
      have h3 := congrArg List.length HLm.out
      rw [List.length_map, ← HM.out] at h3
      exact h3.symm
    by_cases hnx : nx = (M : Int)
    case neg =>
      have HF : Hid (¬ SOk X Y ep nx (l.map UE.u)) := fun h => hnx (by rw [h.2.2.2.1, HMs.out])
      have hnb : (nx != (M : Int)) = true := by simpa using hnx
      refine wp_region_pastO (by kernel_rfl) (by kernel_rfl) fun ops HO => ?_
      iterate 3 (quiet_step ((first | (go_at_call 66; with_reducible exact calls_past (HSm.out _)) | fail)))
      iterate 5 (refine quiet_do (by rw [HO.out]; kernel_rfl) (fun K hK => ?_); go_simp; first | (refine hK _ ?_; clear hK K) | (apply Exists.intro; refine ⟨fun _ => ?_, hK _ ?_⟩; (first | (go_at_call 66; with_reducible exact calls_past (HSm.out _)) | fail); clear hK K))
      iterate 2 (quiet_step ((first | (go_at_call 66; with_reducible exact calls_past (HSm.out _)) | fail)))
      iterate 5 (refine quiet_do (by rw [HO.out]; kernel_rfl) (fun K hK => ?_); go_simp; first | (refine hK _ ?_; clear hK K) | (apply Exists.intro; refine ⟨fun _ => ?_, hK _ ?_⟩; (first | (go_at_call 66; with_reducible exact calls_past (HSm.out _)) | fail); clear hK K))
      iterate 2 (quiet_step ((first | (go_at_call 66; with_reducible exact calls_past (HSm.out _)) | fail)))
      iterate 4 (refine quiet_past (by rw [HO.out]; kernel_rfl) ?_)
      iterate 10 (refine quiet_past (by rw [HO.out]; kernel_rfl) ?_)
      iterate 1 (refine quiet_past (by rw [HO.out]; kernel_rfl) ?_)
      iterate 1 (quiet_step ((first | (go_at_call 66; with_reducible exact calls_past (HSm.out _)) | fail)))
      refine wpQuiet_nil ?_
      rintro _ ⟨z, rfl⟩
      have HBz : Hid (Below w.heap.size w z.world) := (HX.out _ (HB3.out.trans (z.below.mono HB3.out.size))).2.2.2.2
      go_wp2_with fail
      go_ret
      exact ⟨⟨false, rfl, no_store HF.out⟩, HBz.out⟩
    subst hnx
    by_cases hM0 : M = 0
    · subst hM0
      have HLa : Hid (∀ r, (scanR X).getLast? = some r → r.e ≤ ep) := fun r h => by rw [List.eq_nil_of_length_eq_zero HMs.out] at h; cases h
      refine wp_region_pastO (by kernel_rfl) (by kernel_rfl) fun ops HO => ?_
      iterate 3 (quiet_step ((first | (go_at_call 66; with_reducible exact calls_past (HSm.out _)) | fail)))
      iterate 5 (refine quiet_do (by rw [HO.out]; kernel_rfl) (fun K hK => ?_); go_simp; first | (refine hK _ ?_; clear hK K) | (apply Exists.intro; refine ⟨fun _ => ?_, hK _ ?_⟩; (first | (go_at_call 66; with_reducible exact calls_past (HSm.out _)) | fail); clear hK K))
      iterate 2 (quiet_step ((first | (go_at_call 66; with_reducible exact calls_past (HSm.out _)) | fail)))
      iterate 5 (refine quiet_do (by rw [HO.out]; kernel_rfl) (fun K hK => ?_); go_simp; first | (refine hK _ ?_; clear hK K) | (apply Exists.intro; refine ⟨fun _ => ?_, hK _ ?_⟩; (first | (go_at_call 66; with_reducible exact calls_past (HSm.out _)) | fail); clear hK K))
      iterate 2 (quiet_step ((first | (go_at_call 66; with_reducible exact calls_past (HSm.out _)) | fail)))
      iterate 4 (refine quiet_do (by rw [HO.out]; kernel_rfl) (fun K hK => ?_); go_simp; first | (refine hK _ ?_; clear hK K) | (apply Exists.intro; refine ⟨fun _ => ?_, hK _ ?_⟩; (first | (go_at_call 66; with_reducible exact calls_past (HSm.out _)) | fail); clear hK K))
      iterate 10 (refine quiet_past (by rw [HO.out]; kernel_rfl) ?_)
      iterate 1 (refine quiet_do (by rw [HO.out]; kernel_rfl) (fun K hK => ?_); go_simp; first | (refine hK _ ?_; clear hK K) | (apply Exists.intro; refine ⟨fun _ => ?_, hK _ ?_⟩; (first | (go_at_call 66; with_reducible exact calls_past (HSm.out _)) | fail); clear hK K))
      iterate 1 (quiet_step ((first | (go_at_call 66; with_reducible exact calls_past (HSm.out _)) | fail)))
      refine wpQuiet_nil ?_
      rintro _ ⟨z, rfl⟩
      have HBz : Hid (Below w0.heap.size w0 z.world) := HB3.out.trans (z.below.mono HB3.out.size)
      obtain ⟨c0, c1, c2, c3, c4⟩ := (show _ ∧ _ ∧ _ ∧ _ ∧ _ from ⟨(HX.out _ HBz.out).1.cell 0 rfl, (HX.out _ HBz.out).1.cell 1 rfl, (HX.out _ HBz.out).1.cell 2 rfl, (HX.out _ HBz.out).1.cell 3 rfl, (HX.out _ HBz.out).1.cell 4 rfl⟩)
      have hMn2 : 0 ≤ n := by
        have h1 := scanFrom_ok X 0 0
        have h2 := (HX.out _ HBz.out).2.1.1
        have h4 : (scanR X).length = (scanFrom 0 0 X).length := rfl
        have h5 := HMs.out
        omega
      clear x2 x3 x4 HSm HR3 HRr 
      go_wp2_with fail
      clear c0 c1 c2 c3 c4
      go_loopw [6] (fun v wr => ∃ k : Nat, v = .int .i64 (k : Int) ∧ 0 ≤ k ∧ k ≤ n ∧ Hid (∀ (j : Nat) (x : ByteArray) (r : R), 0 ≤ j → j < k → X[j]? = some x → recOf x = some r → r.e < ep) ∧ Hid (Below w0.heap.size w0 wr)) (fun v _ => n - (intOf v).toNat)
      case atStart => exact ⟨0, by first | rfl | go_num, Nat.le_refl _, hMn2, (fun j x r q1 q2 => absurd q2 (by omega)), HBz⟩
      case round =>
        obtain ⟨k, rfl, hMk, hkn, HJ, HW⟩ := hrel
        obtain ⟨c0, c1, c2, c3, c4⟩ := (show _ ∧ _ ∧ _ ∧ _ ∧ _ from ⟨(HX.out _ HW.out).1.cell 0 rfl, (HX.out _ HW.out).1.cell 1 rfl, (HX.out _ HW.out).1.cell 2 rfl, (HX.out _ HW.out).1.cell 3 rfl, (HX.out _ HW.out).1.cell 4 rfl⟩)
        by_cases hlt : k < n
        case neg =>
          obtain rfl : k = n := by omega
          have HF : Hid (SOk X Y ep ((0 : Nat) : Int) (l.map UE.u)) := ⟨HOk.out, HEp.out, HFl.out, by rw [HMs.out], HLa.out, fun j x r q1 q2 q3 => HJ.out j x r (by rw [HMs.out] at q1; exact q1) (by have q4 := (List.getElem?_eq_some_iff.1 q2).1; have q5 := (HX.out _ HW.out).2.1.1; omega) q2 q3⟩
          have HBw : Hid (Below w.heap.size w wr) := (HX.out _ HW.out).2.2.2.2
          go_wp2_with fail
          go_ret
          exact ⟨⟨true, rfl, ⟨fun _ => HF.out, fun _ => rfl⟩⟩, HBw.out⟩
        have HBw : Hid (∀ W, Below wr.heap.size wr W → Below w.heap.size w W ∧ Below w0.heap.size w0 W) := fun W hb => ⟨(HX.out _ (HW.out.trans (hb.mono HW.out.size))).2.2.2.2, HW.out.trans (hb.mono HW.out.size)⟩
        obtain ⟨p, po, x, hpe, _, hkx, hp⟩ := (HX.out _ HW.out).2.1.at hlt
        rw [hpe] at c0
        have HK : Hid (X[k]? = some x) := hkx
        have hxz : x.size ≤ 1048576 := HZ.out x (List.mem_of_getElem? hkx)
        have hki : (k : Int) < (n : Int) := by omega
        have hk0 : (0 : Int) ≤ (k : Int) := by omega
        clear hkx hpe
        go_wp2_with fail
        refine (specGetR_any x wr (by omega)).mono ?_
        rintro _ v1 ⟨⟨v, rfl, hgot⟩, hb1⟩
        rcases hgot with ⟨hr, rfl⟩ | ⟨r, Ag, Cg, hr, rfl, _⟩
        · have HW2 : Hid (Below w0.heap.size w0 (v1.alloc (.cells #[.int .i64 0, .int .i64 0, .int .i64 0, .string ⟨#[]⟩, .int .i64 0, .slice none 0 0] 106))) := (HBw.out _ hb1).2.alloc (HBw.out _ hb1).2.size _
          have HJ2 : Hid (∀ (j : Nat) (x : ByteArray) (r : R), 0 ≤ j → j < k + 1 → X[j]? = some x → recOf x = some r → r.e < ep) := fun j y r q1 q2 q3 q4 => by
            by_cases hj : j = k
            · subst hj
              rw [HK.out] at q3
              injection q3 with q3
              subst q3
              rw [hr] at q4
              cases q4
            · exact HJ.out j y r q1 (by omega) q3 q4
          clear hr hb1 HJ HBw c0 c1 c2 c3 c4
          go_wp2_with fail
          go_roundw
          case rel => exact ⟨k + 1, by go_num, by omega, by omega, HJ2, HW2⟩
          case measure => simp [intOf]; omega
        · have hbA := hb1.trans (((Below.refl v1.heap.size v1).alloc (Nat.le_refl _) (.cells #[.int .i64 r.e, .int .i64 r.q, .int .i64 r.k, .string r.id, .int .i64 r.n, .slice Ag r.zs.length Cg] 106)).mono hb1.size)
          have HW2 : Hid (Below w0.heap.size w0 (v1.alloc (.cells #[.int .i64 r.e, .int .i64 r.q, .int .i64 r.k, .string r.id, .int .i64 r.n, .slice Ag r.zs.length Cg] 106))) := (HBw.out _ hbA).2
          have HBf : Hid (Below w.heap.size w (v1.alloc (.cells #[.int .i64 r.e, .int .i64 r.q, .int .i64 r.k, .string r.id, .int .i64 r.n, .slice Ag r.zs.length Cg] 106))) := (HBw.out _ hbA).1
          have d2 := (HX.out _ HW2.out).1.cell 2 rfl
          have HRr : Hid (recOf x = some r) := hr
          clear hr hb1 hbA HBw c0 c1 c2 c3 c4 hp
          by_cases hge : ep ≤ r.e
          · have HF : Hid (¬ SOk X Y ep ((0 : Nat) : Int) (l.map UE.u)) := fun h => by
              have q := h.2.2.2.2.2 k x r (by rw [HMs.out]; exact hMk) HK.out HRr.out
              omega
            go_wp2_with fail
            go_ret
            exact ⟨⟨false, rfl, no_store HF.out⟩, HBf.out⟩
          · have hgd : decide (ep ≤ r.e) = false := decide_eq_false hge
            have HJ2 : Hid (∀ (j : Nat) (x : ByteArray) (r : R), 0 ≤ j → j < k + 1 → X[j]? = some x → recOf x = some r → r.e < ep) := fun j y r' q1 q2 q3 q4 => by
              by_cases hj : j = k
              · subst hj
                rw [HK.out] at q3
                injection q3 with q3
                subst q3
                rw [HRr.out] at q4
                injection q4 with q4
                subst q4
                omega
              · exact HJ.out j y r' q1 (by omega) q3 q4
            clear HJ
            go_wp2_with fail
            go_roundw
            case rel => exact ⟨k + 1, by go_num, by omega, by omega, HJ2, HW2⟩
            case measure => simp [intOf]; omega
    obtain ⟨m, rfl⟩ : ∃ m, M = m + 1 := ⟨M - 1, by omega⟩
    have hml : m < rs.length := by rw [← HM.out]; omega
    obtain ⟨g, rfl, _⟩ := (HRr.out ⟨y3, Below.refl _ _⟩).at HM.out hml
    obtain ⟨ev, hev⟩ : ∃ ev, (rs[m]).r.e = ev := ⟨_, rfl⟩
    have xl : ∀ P : Past y3, P.world.cell? ⟨g, m * 6, none⟩ = some (.int .i64 ev) := fun P => by
      obtain ⟨g2, q1, q2, _⟩ := (HRr.out P).at HM.out hml
      injection q1 with q1
      injection q1 with q1 _ _
      subst q1
      rw [← hev]
      exact q2
    have HLt : Hid ((scanR X).getLast? = some (rs[m]).r) := by
      show _ = _
      rw [List.getLast?_eq_getElem?, HMs.out, ← HLm.out, List.getElem?_map, show m + 1 - 1 = m by omega, List.getElem?_eq_getElem hml]
      rfl
    have hjw : IntKind.i64.wrap (((m + 1 : Nat) : Int) - 1) = (m : Int) := by rw [IntWalk.i64_in _ (by omega)]; omega
    have hmw : IntKind.i64.wrap (m : Int) = (m : Int) := IntWalk.i64_in _ (by omega)
    have hm2 : (m : Int) < (m : Int) + 1 := by omega
    have hm0 : (0 : Int) ≤ (m : Int) := by omega
    have hm1 : (m : Int) < ((m + 1 : Nat) : Int) := by omega
    have hmp : (0 : Int) < ((m + 1 : Nat) : Int) := by omega
    by_cases hgt : ep < ev
    · have HF : Hid (¬ SOk X Y ep ((m + 1 : Nat) : Int) (l.map UE.u)) := fun h => by
        have q := h.2.2.2.2.1 _ HLt.out
        omega
      have hgd : decide (ep < ev) = true := decide_eq_true hgt
      clear hM0
      refine wp_region_pastO (by kernel_rfl) (by kernel_rfl) fun ops HO => ?_
      iterate 3 (quiet_step ((first | (go_at_call 66; with_reducible exact calls_past (HSm.out _)) | fail)))
      iterate 5 (refine quiet_do (by rw [HO.out]; kernel_rfl) (fun K hK => ?_); go_simp; first | (refine hK _ ?_; clear hK K) | (apply Exists.intro; refine ⟨fun _ => ?_, hK _ ?_⟩; (first | (go_at_call 66; with_reducible exact calls_past (HSm.out _)) | fail); clear hK K))
      iterate 2 (quiet_step ((first | (go_at_call 66; with_reducible exact calls_past (HSm.out _)) | fail)))
      iterate 5 (refine quiet_do (by rw [HO.out]; kernel_rfl) (fun K hK => ?_); go_simp; first | (refine hK _ ?_; clear hK K) | (apply Exists.intro; refine ⟨fun _ => ?_, hK _ ?_⟩; (first | (go_at_call 66; with_reducible exact calls_past (HSm.out _)) | fail); clear hK K))
      iterate 2 (quiet_step ((first | (go_at_call 66; with_reducible exact calls_past (HSm.out _)) | fail)))
      iterate 4 (refine quiet_do (by rw [HO.out]; kernel_rfl) (fun K hK => ?_); go_simp; first | (refine hK _ ?_; clear hK K) | (apply Exists.intro; refine ⟨fun _ => ?_, hK _ ?_⟩; (first | (go_at_call 66; with_reducible exact calls_past (HSm.out _)) | fail); clear hK K))
      iterate 10 (refine quiet_do (by rw [HO.out]; kernel_rfl) (fun K hK => ?_); go_simp; first | (refine hK _ ?_; clear hK K) | (apply Exists.intro; refine ⟨fun _ => ?_, hK _ ?_⟩; (first | (go_at_call 66; with_reducible exact calls_past (HSm.out _)) | fail); clear hK K))
      iterate 1 (refine quiet_do (by rw [HO.out]; kernel_rfl) (fun K hK => ?_); go_simp; first | (refine hK _ ?_; clear hK K) | (apply Exists.intro; refine ⟨fun _ => ?_, hK _ ?_⟩; (first | (go_at_call 66; with_reducible exact calls_past (HSm.out _)) | fail); clear hK K))
      iterate 1 (quiet_step ((first | (go_at_call 66; with_reducible exact calls_past (HSm.out _)) | fail)))
      refine wpQuiet_nil ?_
      rintro _ ⟨z, rfl⟩
      have HBz : Hid (Below w.heap.size w z.world) := (HX.out _ (HB3.out.trans (z.below.mono HB3.out.size))).2.2.2.2
      go_wp2_with fail
      go_ret
      first | exact ⟨⟨false, rfl, no_store HF.out⟩, HBz.out⟩ | exact ⟨.inl ⟨rfl, fun q => HF.out (by simpa using q)⟩, HBz.out⟩ | exact ⟨.inr ⟨rfl, fun q => HF.out (by simpa using q)⟩, HBz.out⟩
    have hgd : decide (ep < ev) = false := decide_eq_false hgt
    have HLa : Hid (∀ r, (scanR X).getLast? = some r → r.e ≤ ep) := fun r q => by
      rw [HLt.out] at q
      injection q with q
      subst q
      omega
    clear hM0 hgt
    refine wp_region_pastO (by kernel_rfl) (by kernel_rfl) fun ops HO => ?_
    iterate 3 (quiet_step ((first | (go_at_call 66; with_reducible exact calls_past (HSm.out _)) | fail)))
    iterate 5 (refine quiet_do (by rw [HO.out]; kernel_rfl) (fun K hK => ?_); go_simp; first | (refine hK _ ?_; clear hK K) | (apply Exists.intro; refine ⟨fun _ => ?_, hK _ ?_⟩; (first | (go_at_call 66; with_reducible exact calls_past (HSm.out _)) | fail); clear hK K))
    iterate 2 (quiet_step ((first | (go_at_call 66; with_reducible exact calls_past (HSm.out _)) | fail)))
    iterate 5 (refine quiet_do (by rw [HO.out]; kernel_rfl) (fun K hK => ?_); go_simp; first | (refine hK _ ?_; clear hK K) | (apply Exists.intro; refine ⟨fun _ => ?_, hK _ ?_⟩; (first | (go_at_call 66; with_reducible exact calls_past (HSm.out _)) | fail); clear hK K))
    iterate 2 (quiet_step ((first | (go_at_call 66; with_reducible exact calls_past (HSm.out _)) | fail)))
    iterate 4 (refine quiet_do (by rw [HO.out]; kernel_rfl) (fun K hK => ?_); go_simp; first | (refine hK _ ?_; clear hK K) | (apply Exists.intro; refine ⟨fun _ => ?_, hK _ ?_⟩; (first | (go_at_call 66; with_reducible exact calls_past (HSm.out _)) | fail); clear hK K))
    iterate 10 (refine quiet_do (by rw [HO.out]; kernel_rfl) (fun K hK => ?_); go_simp; first | (refine hK _ ?_; clear hK K) | (apply Exists.intro; refine ⟨fun _ => ?_, hK _ ?_⟩; (first | (go_at_call 66; with_reducible exact calls_past (HSm.out _)) | fail); clear hK K))
    iterate 1 (refine quiet_do (by rw [HO.out]; kernel_rfl) (fun K hK => ?_); go_simp; first | (refine hK _ ?_; clear hK K) | (apply Exists.intro; refine ⟨fun _ => ?_, hK _ ?_⟩; (first | (go_at_call 66; with_reducible exact calls_past (HSm.out _)) | fail); clear hK K))
    iterate 1 (quiet_step ((first | (go_at_call 66; with_reducible exact calls_past (HSm.out _)) | fail)))
    refine wpQuiet_nil ?_
    rintro _ ⟨z, rfl⟩
    have HBz : Hid (Below w0.heap.size w0 z.world) := HB3.out.trans (z.below.mono HB3.out.size)
    obtain ⟨c0, c1, c2, c3, c4⟩ := (show _ ∧ _ ∧ _ ∧ _ ∧ _ from ⟨(HX.out _ HBz.out).1.cell 0 rfl, (HX.out _ HBz.out).1.cell 1 rfl, (HX.out _ HBz.out).1.cell 2 rfl, (HX.out _ HBz.out).1.cell 3 rfl, (HX.out _ HBz.out).1.cell 4 rfl⟩)
    have hMn2 : (m + 1) ≤ n := by
      have h1 := scanFrom_ok X 0 0
      have h2 := (HX.out _ HBz.out).2.1.1
      have h4 : (scanR X).length = (scanFrom 0 0 X).length := rfl
      have h5 := HMs.out
      omega
    clear x2 x3 x4 HSm HR3 HRr xl
    go_wp2_with fail
    clear c0 c1 c2 c3 c4
    go_loopw [6] (fun v wr => ∃ k : Nat, v = .int .i64 (k : Int) ∧ (m + 1) ≤ k ∧ k ≤ n ∧ Hid (∀ (j : Nat) (x : ByteArray) (r : R), (m + 1) ≤ j → j < k → X[j]? = some x → recOf x = some r → r.e < ep) ∧ Hid (Below w0.heap.size w0 wr)) (fun v _ => n - (intOf v).toNat)
    case atStart => exact ⟨(m + 1), by first | rfl | go_num, Nat.le_refl _, hMn2, (fun j x r q1 q2 => absurd q2 (by omega)), HBz⟩
    case round =>
      obtain ⟨k, rfl, hMk, hkn, HJ, HW⟩ := hrel
      obtain ⟨c0, c1, c2, c3, c4⟩ := (show _ ∧ _ ∧ _ ∧ _ ∧ _ from ⟨(HX.out _ HW.out).1.cell 0 rfl, (HX.out _ HW.out).1.cell 1 rfl, (HX.out _ HW.out).1.cell 2 rfl, (HX.out _ HW.out).1.cell 3 rfl, (HX.out _ HW.out).1.cell 4 rfl⟩)
      by_cases hlt : k < n
      case neg =>
        obtain rfl : k = n := by omega
        have HF : Hid (SOk X Y ep (((m + 1) : Nat) : Int) (l.map UE.u)) := ⟨HOk.out, HEp.out, HFl.out, by rw [HMs.out], HLa.out, fun j x r q1 q2 q3 => HJ.out j x r (by rw [HMs.out] at q1; exact q1) (by have q4 := (List.getElem?_eq_some_iff.1 q2).1; have q5 := (HX.out _ HW.out).2.1.1; omega) q2 q3⟩
        have HBw : Hid (Below w.heap.size w wr) := (HX.out _ HW.out).2.2.2.2
        go_wp2_with fail
        go_ret
        exact ⟨⟨true, rfl, ⟨fun _ => HF.out, fun _ => rfl⟩⟩, HBw.out⟩
      have HBw : Hid (∀ W, Below wr.heap.size wr W → Below w.heap.size w W ∧ Below w0.heap.size w0 W) := fun W hb => ⟨(HX.out _ (HW.out.trans (hb.mono HW.out.size))).2.2.2.2, HW.out.trans (hb.mono HW.out.size)⟩
      obtain ⟨p, po, x, hpe, _, hkx, hp⟩ := (HX.out _ HW.out).2.1.at hlt
      rw [hpe] at c0
      have HK : Hid (X[k]? = some x) := hkx
      have hxz : x.size ≤ 1048576 := HZ.out x (List.mem_of_getElem? hkx)
      have hki : (k : Int) < (n : Int) := by omega
      have hk0 : (0 : Int) ≤ (k : Int) := by omega
      clear hkx hpe
      go_wp2_with fail
      refine (specGetR_any x wr (by omega)).mono ?_
      rintro _ v1 ⟨⟨v, rfl, hgot⟩, hb1⟩
      rcases hgot with ⟨hr, rfl⟩ | ⟨r, Ag, Cg, hr, rfl, _⟩
      · have HW2 : Hid (Below w0.heap.size w0 (v1.alloc (.cells #[.int .i64 0, .int .i64 0, .int .i64 0, .string ⟨#[]⟩, .int .i64 0, .slice none 0 0] 106))) := (HBw.out _ hb1).2.alloc (HBw.out _ hb1).2.size _
        have HJ2 : Hid (∀ (j : Nat) (x : ByteArray) (r : R), (m + 1) ≤ j → j < k + 1 → X[j]? = some x → recOf x = some r → r.e < ep) := fun j y r q1 q2 q3 q4 => by
          by_cases hj : j = k
          · subst hj
            rw [HK.out] at q3
            injection q3 with q3
            subst q3
            rw [hr] at q4
            cases q4
          · exact HJ.out j y r q1 (by omega) q3 q4
        clear hr hb1 HJ HBw c0 c1 c2 c3 c4
        go_wp2_with fail
        go_roundw
        case rel => exact ⟨k + 1, by go_num, by omega, by omega, HJ2, HW2⟩
        case measure => simp [intOf]; omega
      · have hbA := hb1.trans (((Below.refl v1.heap.size v1).alloc (Nat.le_refl _) (.cells #[.int .i64 r.e, .int .i64 r.q, .int .i64 r.k, .string r.id, .int .i64 r.n, .slice Ag r.zs.length Cg] 106)).mono hb1.size)
        have HW2 : Hid (Below w0.heap.size w0 (v1.alloc (.cells #[.int .i64 r.e, .int .i64 r.q, .int .i64 r.k, .string r.id, .int .i64 r.n, .slice Ag r.zs.length Cg] 106))) := (HBw.out _ hbA).2
        have HBf : Hid (Below w.heap.size w (v1.alloc (.cells #[.int .i64 r.e, .int .i64 r.q, .int .i64 r.k, .string r.id, .int .i64 r.n, .slice Ag r.zs.length Cg] 106))) := (HBw.out _ hbA).1
        have d2 := (HX.out _ HW2.out).1.cell 2 rfl
        have HRr : Hid (recOf x = some r) := hr
        clear hr hb1 hbA HBw c0 c1 c2 c3 c4 hp
        by_cases hge : ep ≤ r.e
        · have HF : Hid (¬ SOk X Y ep (((m + 1) : Nat) : Int) (l.map UE.u)) := fun h => by
            have q := h.2.2.2.2.2 k x r (by rw [HMs.out]; exact hMk) HK.out HRr.out
            omega
          go_wp2_with fail
          go_ret
          exact ⟨⟨false, rfl, no_store HF.out⟩, HBf.out⟩
        · have hgd : decide (ep ≤ r.e) = false := decide_eq_false hge
          have HJ2 : Hid (∀ (j : Nat) (x : ByteArray) (r : R), (m + 1) ≤ j → j < k + 1 → X[j]? = some x → recOf x = some r → r.e < ep) := fun j y r' q1 q2 q3 q4 => by
            by_cases hj : j = k
            · subst hj
              rw [HK.out] at q3
              injection q3 with q3
              subst q3
              rw [HRr.out] at q4
              injection q4 with q4
              subst q4
              omega
            · exact HJ.out j y r' q1 (by omega) q3 q4
          clear HJ
          go_wp2_with fail
          go_roundw
          case rel => exact ⟨k + 1, by go_num, by omega, by omega, HJ2, HW2⟩
          case measure => simp [intOf]; omega

end Go.Proofs.YtogopmngbjkcjavGreatDoor

namespace Go.Proofs.YtogopmngbjkcjavGreatDoor
open Go.RowKit
set_option linter.unusedVariables false

/-- What lies behind a slice value, if it has a block. -/
def blkOf : Value → Option Nat
  | .slice (some p) _ _ => some p.block
  | _ => none

theorem OwnSt.low {w : World} {base lo n : Nat} {v : Value} {l : List ByteArray} (h : OwnSt w base v n l) (hl : lo ≤ base) : OwnSt w lo v n l := by
  refine ⟨⟨h.1.1, ?_⟩, h.2⟩
  rcases h.1.2 with h0 | ⟨g, cap, cur, he, hg, r⟩
  · exact .inl h0
  · exact .inr ⟨g, cap, cur, he, Nat.le_trans hl hg, r⟩

theorem OwnSt.lt {w : World} {base n : Nat} {v : Value} {l : List ByteArray} (h : OwnSt w base v n l) : ∀ q, blkOf v = some q → base ≤ q ∧ q < w.heap.size := by
  intro q hq
  rcases h.1.2 with ⟨rfl, _⟩ | ⟨g, cap, cur, rfl, hg, hh, _⟩
  · simp [blkOf] at hq
  · obtain rfl : g = q := by simpa [blkOf] using hq
    exact ⟨hg, (Array.getElem?_eq_some_iff.1 hh).1⟩

theorem OwnSt.kept {w w' : World} {base n : Nat} {v : Value} {l : List ByteArray} {r : Option Nat} (h : OwnSt w base v n l) (hg : w.grownBy w' r) (hr : ∀ q, r = some q → blkOf v ≠ some q) : OwnSt w' base v n l := by
  refine h.grown hg fun q hq p m c hv hne => hr q hq ?_
  rw [hv, ← hne]
  rfl

theorem OwnSt.setCell {w : World} {base n : Nat} {v : Value} {l : List ByteArray} (h : OwnSt w base v n l) {b k : Nat} (hb : blkOf v ≠ some b) (u : Value) : OwnSt (w.setCell ⟨b, k, none⟩ u) base v n l := by
  refine ⟨⟨h.1.1, ?_⟩, h.2⟩
  rcases h.1.2 with h0 | ⟨g, cap, cur, rfl, hg, hh, r⟩
  · exact .inl h0
  · exact .inr ⟨g, cap, cur, rfl, hg, (set_block_ne w g b k u (fun e => hb (by rw [blkOf, e]))).trans hh, r⟩

end Go.Proofs.YtogopmngbjkcjavGreatDoor

namespace Go.Proofs.YtogopmngbjkcjavGreatDoor
open Go.RowKit
set_option linter.unusedVariables false

/-- Rows of different types do not lie in one block. -/
theorem rows_apart {W : World} {base base' n n' size size' : Nat} {e e' : TypeId} {v v' : Value} {xs xs' : List Value} (h : W.ownsRow base e size v n xs) (h' : W.ownsRow base' e' size' v' n' xs') (hne : e ≠ e') : ∀ q, v.ownBlock = some q → v'.ownBlock ≠ some q := by
  intro q hq hq'
  rcases h.2 with ⟨rfl, _⟩ | ⟨g, cap, cur, rfl, _, hg, _⟩
  · cases hq
  · rcases h'.2 with ⟨rfl, _⟩ | ⟨g', cap', cur', rfl, _, hg', _⟩
    · cases hq'
    · obtain rfl : g = q := by simpa [Value.ownBlock] using hq
      obtain rfl : g' = g := by simpa [Value.ownBlock] using hq'
      rw [hg] at hg'
      injection hg' with hg'
      injection hg' with _ h2 _
      exact hne h2

theorem blk_own (a : Option Addr) (n c : Nat) : blkOf (.slice a n c) = a.map (·.block) := by cases a <;> rfl

/-- Uploads are as they were where a row of texts is written. -/
theorem UpRow.keptS {W W' : World} {base base' n ca : Nat} {a : Option Addr} {v : Value} {l : List UE} {X : List ByteArray} (h : UpRow W base v l) (ho : OwnSt W base' (.slice a n ca) n X) (hg : W.grownBy W' (a.map (·.block))) : UpRow W' base v l := by
  have h9 : W.ownsRow base' 9 1 (.slice a n ca) n (scells X) := ho.1
  refine h.grown hg (fun q hq hq2 => ?_) (fun e he q hq hq2 => ?_)
  · exact rows_apart h9 h.1 (by decide) q (by rw [ownBlock_sU]; exact hq) hq2
  · exact rows_apart h9 (h.2.1 e he).1 (by decide) q (by rw [ownBlock_sU]; exact hq) (by rw [ownBlock_sU]; exact hq2)

/-- Texts are as they were where blocks of another type are written. -/
theorem OwnSt.keptR {W W' : World} {base base' n m ca size : Nat} {a : Option Addr} {e : TypeId} {v : Value} {xs : List Value} {X : List ByteArray} (ho : OwnSt W base (.slice a n ca) n X) (h : W.ownsRow base' e size v m xs) (hne : 9 ≠ e) (hg : W.grownBy W' v.ownBlock) : OwnSt W' base (.slice a n ca) n X := by
  have h9 : W.ownsRow base 9 1 (.slice a n ca) n (scells X) := ho.1
  refine ho.kept hg (fun q hq hq2 => ?_)
  rw [blk_own] at hq2
  exact rows_apart h9 h hne q (by rw [ownBlock_sU]; exact hq2) hq

/-- A store's three rows, of a call's own. -/
structure StoAt (W : World) (base : Nat) (a : Option Addr) (n ca : Nat) (X : List ByteArray) (a' : Option Addr) (n' ca' : Nat) (Y : List ByteArray) (ua : Option Addr) (un uc : Nat) (l : List UE) : Prop where
  now : OwnSt W base (.slice a n ca) n X
  sure : OwnSt W base (.slice a' n' ca') n' Y
  apart : ∀ q, a.map (·.block) = some q → a'.map (·.block) ≠ some q
  ups : UpRow W base (.slice ua un uc) l
  len : un = l.length

section
variable {W W' : World} {base : Nat} {a : Option Addr} {n ca : Nat} {X : List ByteArray} {a' : Option Addr} {n' ca' : Nat} {Y : List ByteArray} {ua : Option Addr} {un uc : Nat} {l : List UE}

theorem StoAt.stays (h : StoAt W base a n ca X a' n' ca' Y ua un uc l) (hb : Below W.heap.size W W') : StoAt W' base a n ca X a' n' ca' Y ua un uc l :=
  ⟨h.now.below hb, h.sure.below hb, h.apart, h.ups.stays hb, h.len⟩

theorem StoAt.low {b : Nat} (h : StoAt W base a n ca X a' n' ca' Y ua un uc l) (hb : b ≤ base) : StoAt W b a n ca X a' n' ca' Y ua un uc l :=
  ⟨h.now.low hb, h.sure.low hb, h.apart, h.ups.low hb, h.len⟩
end

/-- What lies below a bound stays. -/
theorem OwnSt.under {W W' : World} {base n ca B : Nat} {a : Option Addr} {X : List ByteArray} (h : OwnSt W base (.slice a n ca) n X) (hb : Below B W W') (h1 : ∀ q, a.map (·.block) = some q → q < B) : OwnSt W' base (.slice a n ca) n X := by
  refine ⟨⟨h.1.1, ?_⟩, h.2⟩
  rcases h.1.2 with h0 | ⟨g, cap, cur, he, hg, hh, r⟩
  · exact .inl h0
  · injection he with e1 e2 e3
    subst e1 e3
    exact .inr ⟨g, ca, cur, rfl, hg, (hb.block g (h1 g rfl)).trans hh, r⟩

theorem StoAt.setLow {W : World} {base b i : Nat} {a : Option Addr} {n ca : Nat} {X : List ByteArray} {a' : Option Addr} {n' ca' : Nat} {Y : List ByteArray} {ua : Option Addr} {un uc : Nat} {l : List UE} (h : StoAt W base a n ca X a' n' ca' Y ua un uc l) (hb : b < base) (u : Value) : StoAt (W.setCell ⟨b, i, none⟩ u) base a n ca X a' n' ca' Y ua un uc l := by
  refine ⟨h.now.setCell (fun e => ?_) u, h.sure.setCell (fun e => ?_) u, h.apart, h.ups.grown (grownBy_setU W b i u) (fun q hq hq2 => ?_) (fun e he q hq hq2 => ?_), h.len⟩
  · have := (h.now.lt b e).1; omega
  · have := (h.sure.lt b e).1; omega
  · injection hq with hq; have := (h.ups.lts.1 q hq2).1; omega
  · injection hq with hq; have := (h.ups.lts.2 e he q hq2).1; omega

/-- An answer that is a store. -/
def AnsS (base : Nat) (X Y : List ByteArray) (ep nx : Int) (us : List U) (v : Value) (w' : World) : Prop :=
  ∃ (a : Option Addr) (n ca : Nat) (a' : Option Addr) (n' ca' : Nat) (ua : Option Addr) (un uc : Nat) (l : List UE), v = .agg #[.slice a n ca, .slice a' n' ca', .int .i64 ep, .int .i64 nx, .slice ua un uc] ∧ StoAt w' base a n ca X a' n' ca' Y ua un uc l ∧ l.map UE.u = us

/-- The rows of a store lie below a bound. -/
def StoIn (a a' ua : Option Addr) (l : List UE) (hi : Nat) : Prop := (∀ q, a.map (·.block) = some q → q < hi) ∧ (∀ q, a'.map (·.block) = some q → q < hi) ∧ (∀ q, ua.map (·.block) = some q → q < hi) ∧ ∀ e ∈ l, ∀ q, e.a.map (·.block) = some q → q < hi

end Go.Proofs.YtogopmngbjkcjavGreatDoor

namespace Go.Proofs.YtogopmngbjkcjavGreatDoor
open Go.RowKit
set_option linter.unusedVariables false

set_option maxHeartbeats 400000 in
theorem eqByteS_same (a b : Option Addr) (len ca cb : Nat) (xs : List Int) (w : World) (hx : Seg w a len xs) (hy : Seg w b len xs) (hla : len ≤ 1099511627776) :
    Calls Tryz.prog 17 #[.slice a len ca, .slice b len cb] w fun e w' => e = .returned (.bool true) ∧ ∃ n, w' = w.drewN n := by
  have HX : Hid (Seg w a len xs) := hx
  have HY : Hid (Seg w b len xs) := hy
  clear hx hy
  have hne : ((len : Int) != (len : Int)) = false := by simp
  go_enter Tryz.func17, Tryz.ntmps17
  go_wp2
  go_loopw [5] (fun i wr => ∃ k : Nat, k ≤ len ∧ i = .int .i64 k ∧ Hid (∃ n, wr = w.drewN n)) (fun i _ => len - (intOf i).toNat)
  case atStart => exact ⟨0, Nat.zero_le _, rfl, ⟨0, rfl⟩⟩
  case round =>
    obtain ⟨k, hk, rfl, HW⟩ := hrel
    by_cases hlt : k < len
    · obtain ⟨ba, oa, rfl, hba, hca⟩ : ∃ b off, a = some ⟨b, off, none⟩ ∧ b < w.heap.size ∧ ∀ i, i < len → w.cell? ⟨b, off + i, none⟩ = some (.int .u8 (xs.getD i 0)) := by
        rcases HX.out.2.2 with h | h
        · omega
        · exact h
      obtain ⟨bb, ob, rfl, hbb, hcb⟩ : ∃ b' off, b = some ⟨b', off, none⟩ ∧ b' < w.heap.size ∧ ∀ i, i < len → w.cell? ⟨b', off + i, none⟩ = some (.int .u8 (xs.getD i 0)) := by
        rcases HY.out.2.2 with h | h
        · omega
        · exact h
      have ha : wr.cell? ⟨ba, oa + k, none⟩ = some (.int .u8 (xs.getD k 0)) := by obtain ⟨n, rfl⟩ := HW; exact hca k hlt
      have hb : wr.cell? ⟨bb, ob + k, none⟩ = some (.int .u8 (xs.getD k 0)) := by obtain ⟨n, rfl⟩ := HW; exact hcb k hlt
      clear hca hcb
      have hki : (k : Int) < (len : Int) := by omega
      have hk0 : (0 : Int) ≤ (k : Int) := by omega
      go_wp2
      go_quiet (fail)
      go_wp2
      go_roundw
      case rel =>
        refine ⟨k + 1, by omega, by go_num, ?_⟩
        obtain ⟨n, rfl⟩ := HW.out
        exact ⟨_, World.drewN_drewN _ _ _⟩
      case measure => simp [intOf]; omega
    · go_wp2
      go_ret
      exact ⟨rfl, HW.out⟩

end Go.Proofs.YtogopmngbjkcjavGreatDoor
