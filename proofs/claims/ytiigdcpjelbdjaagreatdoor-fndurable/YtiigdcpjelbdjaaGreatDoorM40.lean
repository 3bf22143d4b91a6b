/- What the program's ScanRecs answers, under its table. What the program's TopEpoch answers, under its table. -/
import Derived.Test.YtiigdcpjelbdjaaGreatDoorM39
import Derived.Test.YtiigdcpjelbdjaaGreatDoorM20
import Derived.Test.YtiigdcpjelbdjaaGreatDoorM06
import Derived.Test.YtiigdcpjelbdjaaGreatDoorM20
import Derived.Test.YtiigdcpjelbdjaaGreatDoorM04
import Derived.Test.YtiigdcpjelbdjaaGreatDoorM04
namespace Go.Proofs.YtiigdcpjelbdjaaGreatDoor
open Go.RowKit
set_option linter.unusedVariables false

set_option maxRecDepth 10000 in
set_option maxHeartbeats 1600000 in
theorem implScan_any (a : Option Addr) (n ca : Nat) (xs : List ByteArray) (a' : Option Addr) (n' ca' : Nat) (w : World) (h1 : Strs w a n xs) (hn : n ≤ 1099511627776) (hz : ∀ x ∈ xs, x.size ≤ 1048576) (ht : RecT w) :
    Calls Tryz.prog 25 #[.agg #[.slice a n ca, .slice a' n' ca']] w fun e w' => (∃ v l, e = .returned v ∧ RcRow w' w.heap.size v l ∧ l.map RE.r = scanR xs) ∧ Below w.heap.size w w' := by
  obtain ⟨i0, hi, hz0, hz1, hz2⟩ := info_parts info_rec
  have HX : Hid (∀ W, Below w.heap.size w W → Strs W a n xs) := fun W h => h1.below h
  have HL : Hid (xs.length = n) := h1.1
  have HZ : Hid (∀ x ∈ xs, x.size ≤ 1048576) := hz
  have HRT : Hid (RecT w) := ht
  clear h1 hz ht
  obtain ⟨w0, hw0⟩ : ∃ w0, w.alloc (.cells #[.slice a n ca, .slice a' n' ca'] 26) = w0 := ⟨_, rfl⟩
  have HE : Hid (w.alloc (.cells #[.slice a n ca, .slice a' n' ca'] 26) = w0) := hw0
  have HA : Hid (Box2R w0 w.heap.size 26 (.slice a n ca) (.slice a' n' ca')) := by show Box2R _ _ _ _ _; rw [← hw0]; exact Box2R.new _ _ _ _
  have HB : Hid (Below w.heap.size w w0) := by show Below _ _ _; rw [← hw0]; exact (Below.refl _ _).alloc (Nat.le_refl _) _
  have HO0 : Hid (RcRow (w0.alloc (.cells #[] 54)) w0.heap.size (.slice (some ⟨w0.heap.size, 0, none⟩) 0 0) []) := RcRow.nil w0
  clear hw0
  have HB0 : Hid (Below w0.heap.size w0 (w0.alloc (.cells #[] 54))) := (Below.refl _ _).alloc (Nat.le_refl _) _
  obtain ⟨c0, c1⟩ := HA.out.cells
  have HA0 : Hid (Box2R (w0.alloc (.cells #[] 54)) w.heap.size 26 (.slice a n ca) (.slice a' n' ca')) := HA.out.alloc _
  obtain ⟨d0, d1⟩ := HA0.out.cells
  go_enter Tryz.func25, Tryz.ntmps25
  go_upto_region 1 with fail
  rw [HE.out]
  clear HE
  go_wp2_with fail
  clear c0 c1 d0 d1 HA0
  go_loopw [3, 4, 13] (fun v la i wr => ∃ (k : Nat) (last : Int) (l : List RE), k ≤ n ∧ k ≤ 200 ∧ l.length = k ∧ i = .int .i64 (k : Int) ∧ la = .int .i64 last ∧ Hid (RcRow wr w0.heap.size v l) ∧ Hid (l.map RE.r ++ scanFrom k last (xs.drop k) = scanR xs) ∧ Hid (Below w0.heap.size w0 wr)) (fun _ _ i _ => n - (intOf i).toNat)
  case atStart => exact ⟨0, 0, [], Nat.zero_le _, Nat.zero_le _, rfl, rfl, rfl, HO0, rfl, HB0⟩
  case round =>
    clear HO0 HB0
    obtain ⟨k, last, l, hk, hk2, hlk, rfl, rfl, HO, HS, HW⟩ := hrel
    obtain ⟨va, vc, hve⟩ := HO.out.shape
    subst hve
    rw [hlk] at HO ⊢
    by_cases hlt : k < n
    · have hb := HB.out.trans (HW.out.mono HB.out.size)
      obtain ⟨p, po, x, rfl, _, hkx, hp⟩ := (HX.out _ hb).at hlt
      have HK : Hid (xs[k]? = some x) := hkx
      have hxz : x.size ≤ 1048576 := HZ.out x (List.mem_of_getElem? hkx)
      have hki : (k : Int) < (n : Int) := by omega
      have hk0 : (0 : Int) ≤ (k : Int) := by omega
      have HTr : Hid (RecT wr) := HRT.out.below hb
      clear hkx hb
      have HEnd : Hid (nextR k last x = none → l.map RE.r = scanR xs) := fun h => by
        have h2 := HS.out
        rw [scan_stop HK.out h, List.append_nil] at h2
        exact h2
      go_wp2_with fail
      refine (implGetR_any x wr (by omega) HTr.out).mono ?_
      rintro _ w1 ⟨⟨v, rfl, hgot⟩, hb1⟩
      have hb01 : Below w0.heap.size w0 w1 := HW.out.trans (hb1.mono HW.out.size)
      rcases hgot with ⟨hr, rfl⟩ | ⟨r, A, C, hr, rfl, ho⟩
      · have HF : Hid (l.map RE.r = scanR xs) := HEnd.out (by rw [nextR, hr])
        have hb2 := (Below.refl w1.heap.size w1).alloc (Nat.le_refl _) (.cells #[.int .i64 0, .int .i64 0, .int .i64 0, .string ⟨#[]⟩, .int .i64 0, .slice none 0 0] 54)
        have HO2 : Hid (RcRow (w1.alloc (.cells #[.int .i64 0, .int .i64 0, .int .i64 0, .string ⟨#[]⟩, .int .i64 0, .slice none 0 0] 54)) w.heap.size (.slice va k vc) l) := ((HO.out.stays hb1).stays hb2).low HB.out.size
        have HW2 : Hid (Below w.heap.size w (w1.alloc (.cells #[.int .i64 0, .int .i64 0, .int .i64 0, .string ⟨#[]⟩, .int .i64 0, .slice none 0 0] 54))) := HB.out.trans ((hb01.alloc hb01.size _).mono HB.out.size)
        clear hr hb1 hb2 hb01 HW HO HEnd HS
        go_wp2_with fail
        go_ret
        exact ⟨⟨_, l, rfl, HO2.out, HF.out⟩, HW2.out⟩
      by_cases hq : r.q = (k : Int)
      case neg =>
        have hqb : (r.q != (k : Int)) = true := by simpa using hq
        have HF : Hid (l.map RE.r = scanR xs) := HEnd.out (by rw [nextR, hr]; exact if_neg (fun h => hq h.1))
        clear hq
        have hb2 := (Below.refl w1.heap.size w1).alloc (Nat.le_refl _) (.cells #[.int .i64 r.e, .int .i64 r.q, .int .i64 r.k, .string r.id, .int .i64 r.n, .slice A r.zs.length C] 54)
        have HO2 : Hid (RcRow (w1.alloc (.cells #[.int .i64 r.e, .int .i64 r.q, .int .i64 r.k, .string r.id, .int .i64 r.n, .slice A r.zs.length C] 54)) w.heap.size (.slice va k vc) l) := ((HO.out.stays hb1).stays hb2).low HB.out.size
        have HW2 : Hid (Below w.heap.size w (w1.alloc (.cells #[.int .i64 r.e, .int .i64 r.q, .int .i64 r.k, .string r.id, .int .i64 r.n, .slice A r.zs.length C] 54))) := HB.out.trans ((hb01.alloc hb01.size _).mono HB.out.size)
        clear hr hb1 hb2 hb01 HW HO HEnd HS ho
        go_wp2_with fail
        go_ret
        exact ⟨⟨_, l, rfl, HO2.out, HF.out⟩, HW2.out⟩
      have hqb : (r.q != (k : Int)) = false := by simpa using hq
      have HQk : Hid (r.q = (k : Int)) := hq
      clear hq
      by_cases he : last ≤ r.e
      case neg =>
        have hel : r.e < last := by omega
        have HF : Hid (l.map RE.r = scanR xs) := HEnd.out (by rw [nextR, hr]; exact if_neg (fun h => he h.2))
        clear he
        have hb2 := (Below.refl w1.heap.size w1).alloc (Nat.le_refl _) (.cells #[.int .i64 r.e, .int .i64 r.q, .int .i64 r.k, .string r.id, .int .i64 r.n, .slice A r.zs.length C] 54)
        have HO2 : Hid (RcRow (w1.alloc (.cells #[.int .i64 r.e, .int .i64 r.q, .int .i64 r.k, .string r.id, .int .i64 r.n, .slice A r.zs.length C] 54)) w.heap.size (.slice va k vc) l) := ((HO.out.stays hb1).stays hb2).low HB.out.size
        have HW2 : Hid (Below w.heap.size w (w1.alloc (.cells #[.int .i64 r.e, .int .i64 r.q, .int .i64 r.k, .string r.id, .int .i64 r.n, .slice A r.zs.length C] 54))) := HB.out.trans ((hb01.alloc hb01.size _).mono HB.out.size)
        clear hr hb1 hb2 hb01 HW HO HEnd HS ho
        go_wp2_with fail
        go_ret
        exact ⟨⟨_, l, rfl, HO2.out, HF.out⟩, HW2.out⟩
      have hel : ¬ r.e < last := by omega
      have hok := okRec_iff (recOf_iff.1 hr).1
      have hk199 : k ≤ 199 := by have h1 := hok.2.1; have h2 := HQk.out; omega
      have hd24 : r.zs.length ≤ 24 := hok.2.2.2.2.2
      have HS2 : Hid (l.map RE.r ++ r :: scanFrom (k + 1) r.e (xs.drop (k + 1)) = scanR xs) := by
        have h2 := HS.out
        rw [scan_go HK.out (show nextR k last x = some r by rw [nextR, hr]; exact if_pos ⟨HQk.out, he⟩)] at h2
        exact h2
      have hb2 := (Below.refl w1.heap.size w1).alloc (Nat.le_refl _) (.cells #[.int .i64 r.e, .int .i64 r.q, .int .i64 r.k, .string r.id, .int .i64 r.n, .slice A r.zs.length C] 54)
      have HB2 : Hid (Below w0.heap.size w0 (w1.alloc (.cells #[.int .i64 r.e, .int .i64 r.q, .int .i64 r.k, .string r.id, .int .i64 r.n, .slice A r.zs.length C] 54))) := hb01.alloc hb01.size _
      have HO2 : Hid (RcRow (w1.alloc (.cells #[.int .i64 r.e, .int .i64 r.q, .int .i64 r.k, .string r.id, .int .i64 r.n, .slice A r.zs.length C] 54)) w0.heap.size (.slice va k vc) l) := (HO.out.stays hb1).stays hb2
      have HG2 : Hid (Owns (w1.alloc (.cells #[.int .i64 r.e, .int .i64 r.q, .int .i64 r.k, .string r.id, .int .i64 r.n, .slice A r.zs.length C] 54)) wr.heap.size A r.zs.length C r.zs) := ho.below hb2
      have HX2 : Hid (BoxN (w1.alloc (.cells #[.int .i64 r.e, .int .i64 r.q, .int .i64 r.k, .string r.id, .int .i64 r.n, .slice A r.zs.length C] 54)) w1.heap.size 54 [.int .i64 r.e, .int .i64 r.q, .int .i64 r.k, .string r.id, .int .i64 r.n, .slice A r.zs.length C]) := BoxN.new _ _ _
      have HAp : Hid (∀ e ∈ l, ∀ q, e.a.map (·.block) = some q → q < wr.heap.size) := fun e he q hq => ((HO.out.2.1 e he).lt q hq).2
      have hws : w0.heap.size ≤ wr.heap.size := HW.out.size
      have HVa : Hid (∀ q, (Value.slice va k vc).ownBlock = some q → q < w1.heap.size) := fun q hq => by have h1 := (HO.out.1.lt q hq).2; have h2 := hb1.size; omega
      clear hok hr hb1 hb2 hb01 HW HO HEnd HS ho HQk he
      go_upto_region 8 with fail
      clear hqb hel
      obtain ⟨x2, hx2⟩ : ∃ x2, w1.alloc (.cells #[.int .i64 r.e, .int .i64 r.q, .int .i64 r.k, .string r.id, .int .i64 r.n, .slice A r.zs.length C] 54) = x2 := ⟨_, rfl⟩
      rw [hx2] at HB2 HO2 HG2 HX2 ⊢
      clear hx2
      generalize w1.heap.size = bx at *
      have s0 := HX2.out.cell 0 rfl
      have s1 := HX2.out.cell 1 rfl
      have s2 := HX2.out.cell 2 rfl
      have s3 := HX2.out.cell 3 rfl
      have s4 := HX2.out.cell 4 rfl
      have s5 := HX2.out.cell 5 rfl
      have HN : Hid (∀ j u, (RE.cells ⟨r, A, r.zs.length, C⟩)[j]? = some u → (x2.alloc (.cells #[.int .i64 r.e, .int .i64 r.q, .int .i64 r.k, .string r.id, .int .i64 r.n, .slice A r.zs.length C] 54)).cell? ((⟨x2.heap.size, 0, none⟩ : Addr).add j) = some u) := six_new x2 r A r.zs.length C
      have HO2' : Hid ((x2.alloc (.cells #[.int .i64 r.e, .int .i64 r.q, .int .i64 r.k, .string r.id, .int .i64 r.n, .slice A r.zs.length C] 54)).ownsRow w0.heap.size 54 6 (.slice va k vc) k (reCells l)) := by
        have h := HO2.out.1.alloc (.cells #[.int .i64 r.e, .int .i64 r.q, .int .i64 r.k, .string r.id, .int .i64 r.n, .slice A r.zs.length C] 54)
        rw [hlk] at h
        exact h
      go_wp2_with (at_builtin; refine wpList_append_own _ rfl _ _ 56 rfl w0.heap.size 54 i0 (.agg #[.int .i64 0, .int .i64 0, .int .i64 0, .string ⟨#[]⟩, .int .i64 0, .slice none 0 0]) 6 72 Tryz.underlying56 hi hz0 hz1 hz2 rfl (by decide) (.slice va k vc) k _ rfl HO2'.out ⟨x2.heap.size, 0, none⟩ 1 1 (RE.cells ⟨r, A, r.zs.length, C⟩) rfl rfl HN.out (six_one r A r.zs.length C) (by unfold maxLen; omega) (by omega) (by have := HB2.out.size; simp; omega) ?_; intro v3 x3 hown3 hgrow3 _; refine Hid.out ?_)
      refine hidden ?_
      have HO3 : Hid (RcRow x3 w0.heap.size v3 (l ++ [⟨r, A, r.zs.length, C⟩])) := HO2.out.snoc HG2.out hws HAp.out (by rw [hlk]; exact hown3) hgrow3
      have HB3 : Hid (Below w0.heap.size w0 x3) := (HB2.out.alloc HB2.out.size _).grown hgrow3 (by have := HB2.out.size; simp; omega) (fun q hq => (HO2.out.1.lt q hq).1)
      have HX3 : Hid (BoxN x3 bx 54 [.int .i64 r.e, .int .i64 r.q, .int .i64 r.k, .string r.id, .int .i64 r.n, .slice A r.zs.length C]) := (HX2.out.alloc _).grown hgrow3 (fun e => by have := HVa.out _ e; omega)
      have t0 := HX3.out.cell 0 rfl
      clear hown3 hgrow3 HN HO2' s0 s1 s2 s3 s4 s5 HO2 HG2 HX2 HB2 HX3
      obtain ⟨v3a, v3c, rfl⟩ := HO3.out.shape
      rw [List.length_append, hlk] at HO3 ⊢
      go_wp2_with fail
      go_roundw
      case rel =>
        refine ⟨k + 1, r.e, l ++ [⟨r, A, r.zs.length, C⟩], by omega, by omega, by simp [hlk], by go_num, rfl, HO3, ?_, HB3⟩
        show _ = _
        rw [List.map_append, List.append_assoc]
        exact HS2.out
      case measure => simp [intOf]; omega
    · obtain rfl : k = n := by omega
      have HF : Hid (l.map RE.r = scanR xs) := by
        have h2 := HS.out
        rw [List.drop_of_length_le (by have := HL.out; omega)] at h2
        show _ = _
        simpa [scanFrom] using h2
      have HO2 : Hid (RcRow wr w.heap.size (.slice va k vc) l) := HO.out.low HB.out.size
      have HW2 : Hid (Below w.heap.size w wr) := HB.out.trans (HW.out.mono HB.out.size)
      clear HO HS HW
      go_wp2_with fail
      go_ret
      exact ⟨⟨_, l, rfl, HO2.out, HF.out⟩, HW2.out⟩

end Go.Proofs.YtiigdcpjelbdjaaGreatDoor

namespace Go.Proofs.YtiigdcpjelbdjaaGreatDoor
open Go.RowKit
set_option linter.unusedVariables false

set_option maxRecDepth 10000 in
set_option maxHeartbeats 1600000 in
theorem implTop_any (a : Option Addr) (n ca : Nat) (xs : List ByteArray) (a' : Option Addr) (n' ca' : Nat) (w : World) (h1 : Strs w a n xs) (hn : n ≤ 1099511627776) (hz : ∀ x ∈ xs, x.size ≤ 1048576) (ht : RecT w) :
    Calls Tryz.prog 27 #[.agg #[.slice a n ca, .slice a' n' ca']] w fun e w' => e = .returned (.int .i64 (topE xs)) ∧ Below w.heap.size w w' := by
  have HX : Hid (∀ W, Below w.heap.size w W → Strs W a n xs) := fun W h => h1.below h
  have HL : Hid (xs.length = n) := h1.1
  have HZ : Hid (∀ x ∈ xs, x.size ≤ 1048576) := hz
  have HRT : Hid (RecT w) := ht
  clear h1 hz ht
  obtain ⟨w0, hw0⟩ : ∃ w0, w.alloc (.cells #[.slice a n ca, .slice a' n' ca'] 26) = w0 := ⟨_, rfl⟩
  have HE : Hid (w.alloc (.cells #[.slice a n ca, .slice a' n' ca'] 26) = w0) := hw0
  have HA : Hid (Box2R w0 w.heap.size 26 (.slice a n ca) (.slice a' n' ca')) := by show Box2R _ _ _ _ _; rw [← hw0]; exact Box2R.new _ _ _ _
  have HB : Hid (Below w.heap.size w w0) := by show Below _ _ _; rw [← hw0]; exact (Below.refl _ _).alloc (Nat.le_refl _) _
  clear hw0
  obtain ⟨c0, c1⟩ := HA.out.cells
  go_enter Tryz.func27, Tryz.ntmps27
  go_upto_region 1 with fail
  rw [HE.out]
  clear HE
  go_wp2_with fail
  clear c0 c1
  go_loopw [3, 11] (fun v i wr => ∃ k : Nat, k ≤ n ∧ i = .int .i64 (k : Int) ∧ v = .int .i64 (topE (xs.take k)) ∧ Hid (Below w0.heap.size w0 wr)) (fun _ i _ => n - (intOf i).toNat)
  case atStart => exact ⟨0, Nat.zero_le _, rfl, rfl, Below.refl _ _⟩
  case round =>
    obtain ⟨k, hk, rfl, rfl, HW⟩ := hrel
    by_cases hlt : k < n
    · have hb := HB.out.trans (HW.out.mono HB.out.size)
      obtain ⟨p, po, x, rfl, _, hkx, hp⟩ := (HX.out _ hb).at hlt
      have HT : Hid (topE (xs.take (k + 1)) = topStep (topE (xs.take k)) x) := topE_step xs k x hkx
      have hxz : x.size ≤ 1048576 := HZ.out x (List.mem_of_getElem? hkx)
      have hki : (k : Int) < (n : Int) := by omega
      have hk0 : (0 : Int) ≤ (k : Int) := by omega
      have HTr : Hid (RecT wr) := HRT.out.below hb
      clear hkx hb
      generalize topE (xs.take k) = m at *
      go_wp2_with fail
      refine (implGetR_any x wr (by omega) HTr.out).mono ?_
      rintro _ w1 ⟨⟨v, rfl, hgot⟩, hb1⟩
      have hb01 : Below w0.heap.size w0 w1 := HW.out.trans (hb1.mono HW.out.size)
      rcases hgot with ⟨hr, rfl⟩ | ⟨r, A, C, hr, rfl, ho⟩
      · have HT2 : Hid (topE (xs.take (k + 1)) = m) := HT.out.trans (topStep_none hr)
        have HW2 : Hid (Below w0.heap.size w0 (w1.alloc (.cells #[.int .i64 0, .int .i64 0, .int .i64 0, .string ⟨#[]⟩, .int .i64 0, .slice none 0 0] 54))) := hb01.alloc hb01.size _
        clear hr hb1 hb01 HT HW
        go_wp2_with fail
        go_roundw
        case rel => exact ⟨k + 1, by omega, by go_num, by rw [HT2.out], HW2⟩
        case measure => simp [intOf]; omega
      · have HT2 : Hid (topE (xs.take (k + 1)) = if m < r.e then r.e else m) := HT.out.trans (topStep_some hr)
        have HW2 : Hid (Below w0.heap.size w0 (w1.alloc (.cells #[.int .i64 r.e, .int .i64 r.q, .int .i64 r.k, .string r.id, .int .i64 r.n, .slice A r.zs.length C] 54))) := hb01.alloc hb01.size _
        clear hr hb1 hb01 HT HW ho
        by_cases hm : m < r.e
        · rw [if_pos hm] at HT2
          go_wp2_with fail
          go_roundw
          case rel => exact ⟨k + 1, by omega, by go_num, by rw [HT2.out], HW2⟩
          case measure => simp [intOf]; omega
        · rw [if_neg hm] at HT2
          go_wp2_with fail
          go_roundw
          case rel => exact ⟨k + 1, by omega, by go_num, by rw [HT2.out], HW2⟩
          case measure => simp [intOf]; omega
    · have hkl : k = n := by omega
      have HT : Hid (topE (xs.take k) = topE xs) := by show _ = _; rw [hkl, List.take_of_length_le (by have := HL.out; omega)]
      generalize topE (xs.take k) = m at *
      go_wp2_with fail
      go_ret
      exact ⟨by rw [← HT.out]; rfl, HB.out.trans (HW.out.mono HB.out.size)⟩

end Go.Proofs.YtiigdcpjelbdjaaGreatDoor
