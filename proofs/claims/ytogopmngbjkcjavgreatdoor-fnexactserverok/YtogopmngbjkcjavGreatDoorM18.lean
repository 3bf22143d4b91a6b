/- What the program's ScanRecs answers, under its table. What the program's TopEpoch answers, under its table. How long the bytes of the records ahead are. No statement of the program but its table of types. What the records ahead are: of their sectors, with their numbers, in the order of their epochs, none above the top; no program in it. A record comes back of its text, and a byte of its sum that is turned is told; no program in it. -/
import Derived.Test.YtogopmngbjkcjavGreatDoorM17
import Derived.Test.YtogopmngbjkcjavGreatDoorM17
import Derived.Test.YtogopmngbjkcjavGreatDoorM17
import Derived.Test.YtogopmngbjkcjavGreatDoorM17
import Derived.Test.YtogopmngbjkcjavGreatDoorM03
import Derived.Test.YtogopmngbjkcjavGreatDoorM12
import Derived.Test.YtogopmngbjkcjavGreatDoorM11
import Derived.Test.YtogopmngbjkcjavGreatDoorM04
namespace Go.Proofs.YtogopmngbjkcjavGreatDoor
open Go.RowKit
set_option linter.unusedVariables false

set_option maxRecDepth 10000 in
set_option maxHeartbeats 1600000 in
theorem implScan_any (a : Option Addr) (n ca : Nat) (xs : List ByteArray) (a' : Option Addr) (n' ca' : Nat) (w : World) (h1 : Strs w a n xs) (hn : n ≤ 1099511627776) (hz : ∀ x ∈ xs, x.size ≤ 1048576) (ht : RecT w) :
    Calls Tryz.prog 74 #[.agg #[.slice a n ca, .slice a' n' ca']] w fun e w' => (∃ v l, e = .returned v ∧ RcRow w' w.heap.size v l ∧ l.map RE.r = scanR xs) ∧ Below w.heap.size w w' := by
  obtain ⟨i0, hi, hz0, hz1, hz2⟩ := info_parts info_rec
  have HX : Hid (∀ W, Below w.heap.size w W → Strs W a n xs) := fun W h => h1.below h
  have HL : Hid (xs.length = n) := h1.1
  have HZ : Hid (∀ x ∈ xs, x.size ≤ 1048576) := hz
  have HRT : Hid (RecT w) := ht
  clear h1 hz ht
  obtain ⟨w0, hw0⟩ : ∃ w0, w.alloc (.cells #[.slice a n ca, .slice a' n' ca'] 33) = w0 := ⟨_, rfl⟩
  have HE : Hid (w.alloc (.cells #[.slice a n ca, .slice a' n' ca'] 33) = w0) := hw0
  have HA : Hid (Box2R w0 w.heap.size 33 (.slice a n ca) (.slice a' n' ca')) := by show Box2R _ _ _ _ _; rw [← hw0]; exact Box2R.new _ _ _ _
  have HB : Hid (Below w.heap.size w w0) := by show Below _ _ _; rw [← hw0]; exact (Below.refl _ _).alloc (Nat.le_refl _) _
  have HO0 : Hid (RcRow (w0.alloc (.cells #[] 106)) w0.heap.size (.slice (some ⟨w0.heap.size, 0, none⟩) 0 0) []) := RcRow.nil w0
  clear hw0
  have HB0 : Hid (Below w0.heap.size w0 (w0.alloc (.cells #[] 106))) := (Below.refl _ _).alloc (Nat.le_refl _) _
  obtain ⟨c0, c1⟩ := HA.out.cells
  have HA0 : Hid (Box2R (w0.alloc (.cells #[] 106)) w.heap.size 33 (.slice a n ca) (.slice a' n' ca')) := HA.out.alloc _
  obtain ⟨d0, d1⟩ := HA0.out.cells
  go_enter Tryz.func74, Tryz.ntmps74
  go_upto_region 1 with fail
  rw [HE.out]
  clear HE
  go_wp2_with fail
  clear c0 c1 d0 d1 HA0
  go_loopw [3, 4, 13] (fun v la i wr => ∃ (k : Nat) (last : Int) (l : List RE), k ≤ n ∧ k ≤ 200 ∧ l.length = k ∧ i = .int .i64 (k : Int) ∧ la = .int .i64 last ∧ Hid (RcRow wr w0.heap.size v l) ∧ Hid (l.map RE.r ++ scanFrom k last (xs.drop k) = scanR xs) ∧ Hid (Below w0.heap.size w0 wr)) (fun _ _ i _ => n - (intOf i).toNat)
  case atStart => exact ⟨0, 0, [], Nat.zero_le _, Nat.zero_le _, rfl, rfl, rfl, HO0, rfl, HB0⟩
  case round =>
    clear HO0 HB0
    obtain ⟨k, last, l, hk, hk2, hlk, rfl, rfl, HO, HS, HW⟩ := hrel
    obtain ⟨va, vc, hve⟩ := HO.out.shape
    subst hve
    rw [hlk] at HO ⊢
    by_cases hlt : k < n
    · have hb := HB.out.trans (HW.out.mono HB.out.size)
      obtain ⟨p, po, x, rfl, _, hkx, hp⟩ := (HX.out _ hb).at hlt
      have HK : Hid (xs[k]? = some x) := hkx
      have hxz : x.size ≤ 1048576 := HZ.out x (List.mem_of_getElem? hkx)
      have hki : (k : Int) < (n : Int) := by omega
      have hk0 : (0 : Int) ≤ (k : Int) := by omega
      have HTr : Hid (RecT wr) := HRT.out.below hb
      clear hkx hb
      have HEnd : Hid (nextR k last x = none → l.map RE.r = scanR xs) := fun h => by
        have h2 := HS.out
        rw [scan_stop HK.out h, List.append_nil] at h2
        exact h2
      go_wp2_with fail
      refine (implGetR_any x wr (by omega) HTr.out).mono ?_
      rintro _ w1 ⟨⟨v, rfl, hgot⟩, hb1⟩
      have hb01 : Below w0.heap.size w0 w1 := HW.out.trans (hb1.mono HW.out.size)
      rcases hgot with ⟨hr, rfl⟩ | ⟨r, A, C, hr, rfl, ho⟩
      · have HF : Hid (l.map RE.r = scanR xs) := HEnd.out (by rw [nextR, hr])
        have hb2 := (Below.refl w1.heap.size w1).alloc (Nat.le_refl _) (.cells #[.int .i64 0, .int .i64 0, .int .i64 0, .string ⟨#[]⟩, .int .i64 0, .slice none 0 0] 106)
        have HO2 : Hid (RcRow (w1.alloc (.cells #[.int .i64 0, .int .i64 0, .int .i64 0, .string ⟨#[]⟩, .int .i64 0, .slice none 0 0] 106)) w.heap.size (.slice va k vc) l) := ((HO.out.stays hb1).stays hb2).low HB.out.size
        have HW2 : Hid (Below w.heap.size w (w1.alloc (.cells #[.int .i64 0, .int .i64 0, .int .i64 0, .string ⟨#[]⟩, .int .i64 0, .slice none 0 0] 106))) := HB.out.trans ((hb01.alloc hb01.size _).mono HB.out.size)
        clear hr hb1 hb2 hb01 HW HO HEnd HS
        go_wp2_with fail
        go_ret
        exact ⟨⟨_, l, rfl, HO2.out, HF.out⟩, HW2.out⟩
      by_cases hq : r.q = (k : Int)
      case neg =>
        have hqb : (r.q != (k : Int)) = true := by simpa using hq
        have HF : Hid (l.map RE.r = scanR xs) := HEnd.out (by rw [nextR, hr]; exact if_neg (fun h => hq h.1))
        clear hq
        have hb2 := (Below.refl w1.heap.size w1).alloc (Nat.le_refl _) (.cells #[.int .i64 r.e, .int .i64 r.q, .int .i64 r.k, .string r.id, .int .i64 r.n, .slice A r.zs.length C] 106)
        have HO2 : Hid (RcRow (w1.alloc (.cells #[.int .i64 r.e, .int .i64 r.q, .int .i64 r.k, .string r.id, .int .i64 r.n, .slice A r.zs.length C] 106)) w.heap.size (.slice va k vc) l) := ((HO.out.stays hb1).stays hb2).low HB.out.size
        have HW2 : Hid (Below w.heap.size w (w1.alloc (.cells #[.int .i64 r.e, .int .i64 r.q, .int .i64 r.k, .string r.id, .int .i64 r.n, .slice A r.zs.length C] 106))) := HB.out.trans ((hb01.alloc hb01.size _).mono HB.out.size)
        clear hr hb1 hb2 hb01 HW HO HEnd HS ho
        go_wp2_with fail
        go_ret
        exact ⟨⟨_, l, rfl, HO2.out, HF.out⟩, HW2.out⟩
      have hqb : (r.q != (k : Int)) = false := by simpa using hq
      have HQk : Hid (r.q = (k : Int)) := hq
      clear hq
      by_cases he : last ≤ r.e
      case neg =>
        have hel : r.e < last := by omega
        have HF : Hid (l.map RE.r = scanR xs) := HEnd.out (by rw [nextR, hr]; exact if_neg (fun h => he h.2))
        clear he
        have hb2 := (Below.refl w1.heap.size w1).alloc (Nat.le_refl _) (.cells #[.int .i64 r.e, .int .i64 r.q, .int .i64 r.k, .string r.id, .int .i64 r.n, .slice A r.zs.length C] 106)
        have HO2 : Hid (RcRow (w1.alloc (.cells #[.int .i64 r.e, .int .i64 r.q, .int .i64 r.k, .string r.id, .int .i64 r.n, .slice A r.zs.length C] 106)) w.heap.size (.slice va k vc) l) := ((HO.out.stays hb1).stays hb2).low HB.out.size
        have HW2 : Hid (Below w.heap.size w (w1.alloc (.cells #[.int .i64 r.e, .int .i64 r.q, .int .i64 r.k, .string r.id, .int .i64 r.n, .slice A r.zs.length C] 106))) := HB.out.trans ((hb01.alloc hb01.size _).mono HB.out.size)
        clear hr hb1 hb2 hb01 HW HO HEnd HS ho
        go_wp2_with fail
        go_ret
        exact ⟨⟨_, l, rfl, HO2.out, HF.out⟩, HW2.out⟩
      have hel : ¬ r.e < last := by omega
      have hok := okRec_iff (recOf_iff.1 hr).1
      have hk199 : k ≤ 199 := by have h1 := hok.2.1; have h2 := HQk.out; omega
      have hd24 : r.zs.length ≤ 24 := hok.2.2.2.2.2
      have HS2 : Hid (l.map RE.r ++ r :: scanFrom (k + 1) r.e (xs.drop (k + 1)) = scanR xs) := by
        have h2 := HS.out
        rw [scan_go HK.out (show nextR k last x = some r by rw [nextR, hr]; exact if_pos ⟨HQk.out, he⟩)] at h2
        exact h2
      have hb2 := (Below.refl w1.heap.size w1).alloc (Nat.le_refl _) (.cells #[.int .i64 r.e, .int .i64 r.q, .int .i64 r.k, .string r.id, .int .i64 r.n, .slice A r.zs.length C] 106)
      have HB2 : Hid (Below w0.heap.size w0 (w1.alloc (.cells #[.int .i64 r.e, .int .i64 r.q, .int .i64 r.k, .string r.id, .int .i64 r.n, .slice A r.zs.length C] 106))) := hb01.alloc hb01.size _
      have HO2 : Hid (RcRow (w1.alloc (.cells #[.int .i64 r.e, .int .i64 r.q, .int .i64 r.k, .string r.id, .int .i64 r.n, .slice A r.zs.length C] 106)) w0.heap.size (.slice va k vc) l) := (HO.out.stays hb1).stays hb2
      have HG2 : Hid (Owns (w1.alloc (.cells #[.int .i64 r.e, .int .i64 r.q, .int .i64 r.k, .string r.id, .int .i64 r.n, .slice A r.zs.length C] 106)) wr.heap.size A r.zs.length C r.zs) := ho.below hb2
      have HX2 : Hid (BoxN (w1.alloc (.cells #[.int .i64 r.e, .int .i64 r.q, .int .i64 r.k, .string r.id, .int .i64 r.n, .slice A r.zs.length C] 106)) w1.heap.size 106 [.int .i64 r.e, .int .i64 r.q, .int .i64 r.k, .string r.id, .int .i64 r.n, .slice A r.zs.length C]) := BoxN.new _ _ _
      have HAp : Hid (∀ e ∈ l, ∀ q, e.a.map (·.block) = some q → q < wr.heap.size) := fun e he q hq => ((HO.out.2.1 e he).lt q hq).2
      have hws : w0.heap.size ≤ wr.heap.size := HW.out.size
      have HVa : Hid (∀ q, (Value.slice va k vc).ownBlock = some q → q < w1.heap.size) := fun q hq => by have h1 := (HO.out.1.lt q hq).2; have h2 := hb1.size; omega
      clear hok hr hb1 hb2 hb01 HW HO HEnd HS ho HQk he
      go_upto_region 8 with fail
      clear hqb hel
      obtain ⟨x2, hx2⟩ : ∃ x2, w1.alloc (.cells #[.int .i64 r.e, .int .i64 r.q, .int .i64 r.k, .string r.id, .int .i64 r.n, .slice A r.zs.length C] 106) = x2 := ⟨_, rfl⟩
      rw [hx2] at HB2 HO2 HG2 HX2 ⊢
      clear hx2
      generalize w1.heap.size = bx at *
      have s0 := HX2.out.cell 0 rfl
      have s1 := HX2.out.cell 1 rfl
      have s2 := HX2.out.cell 2 rfl
      have s3 := HX2.out.cell 3 rfl
      have s4 := HX2.out.cell 4 rfl
      have s5 := HX2.out.cell 5 rfl
      have HN : Hid (∀ j u, (RE.cells ⟨r, A, r.zs.length, C⟩)[j]? = some u → (x2.alloc (.cells #[.int .i64 r.e, .int .i64 r.q, .int .i64 r.k, .string r.id, .int .i64 r.n, .slice A r.zs.length C] 106)).cell? ((⟨x2.heap.size, 0, none⟩ : Addr).add j) = some u) := six_new x2 r A r.zs.length C
      have HO2' : Hid ((x2.alloc (.cells #[.int .i64 r.e, .int .i64 r.q, .int .i64 r.k, .string r.id, .int .i64 r.n, .slice A r.zs.length C] 106)).ownsRow w0.heap.size 106 6 (.slice va k vc) k (reCells l)) := by
        have h := HO2.out.1.alloc (.cells #[.int .i64 r.e, .int .i64 r.q, .int .i64 r.k, .string r.id, .int .i64 r.n, .slice A r.zs.length C] 106)
        rw [hlk] at h
        exact h
      go_wp2_with (at_builtin; refine wpList_append_own _ rfl _ _ 100 rfl w0.heap.size 106 i0 (.agg #[.int .i64 0, .int .i64 0, .int .i64 0, .string ⟨#[]⟩, .int .i64 0, .slice none 0 0]) 6 72 Tryz.underlying100 hi hz0 hz1 hz2 rfl (by decide) (.slice va k vc) k _ rfl HO2'.out ⟨x2.heap.size, 0, none⟩ 1 1 (RE.cells ⟨r, A, r.zs.length, C⟩) rfl rfl HN.out (six_one r A r.zs.length C) (by unfold maxLen; omega) (by omega) (by have := HB2.out.size; simp; omega) ?_; intro v3 x3 hown3 hgrow3 _; refine Hid.out ?_)
      refine hidden ?_
      have HO3 : Hid (RcRow x3 w0.heap.size v3 (l ++ [⟨r, A, r.zs.length, C⟩])) := HO2.out.snoc HG2.out hws HAp.out (by rw [hlk]; exact hown3) hgrow3
      have HB3 : Hid (Below w0.heap.size w0 x3) := (HB2.out.alloc HB2.out.size _).grown hgrow3 (by have := HB2.out.size; simp; omega) (fun q hq => (HO2.out.1.lt q hq).1)
      have HX3 : Hid (BoxN x3 bx 106 [.int .i64 r.e, .int .i64 r.q, .int .i64 r.k, .string r.id, .int .i64 r.n, .slice A r.zs.length C]) := (HX2.out.alloc _).grown hgrow3 (fun e => by have := HVa.out _ e; omega)
      have t0 := HX3.out.cell 0 rfl
      clear hown3 hgrow3 HN HO2' s0 s1 s2 s3 s4 s5 HO2 HG2 HX2 HB2 HX3
      obtain ⟨v3a, v3c, rfl⟩ := HO3.out.shape
      rw [List.length_append, hlk] at HO3 ⊢
      go_wp2_with fail
      go_roundw
      case rel =>
        refine ⟨k + 1, r.e, l ++ [⟨r, A, r.zs.length, C⟩], by omega, by omega, by simp [hlk], by go_num, rfl, HO3, ?_, HB3⟩
        show _ = _
        rw [List.map_append, List.append_assoc]
        exact HS2.out
      case measure => simp [intOf]; omega
    · obtain rfl : k = n := by omega
      have HF : Hid (l.map RE.r = scanR xs) := by
        have h2 := HS.out
        rw [List.drop_of_length_le (by have := HL.out; omega)] at h2
        show _ = _
        simpa [scanFrom] using h2
      have HO2 : Hid (RcRow wr w.heap.size (.slice va k vc) l) := HO.out.low HB.out.size
      have HW2 : Hid (Below w.heap.size w wr) := HB.out.trans (HW.out.mono HB.out.size)
      clear HO HS HW
      go_wp2_with fail
      go_ret
      exact ⟨⟨_, l, rfl, HO2.out, HF.out⟩, HW2.out⟩

end Go.Proofs.YtogopmngbjkcjavGreatDoor

namespace Go.Proofs.YtogopmngbjkcjavGreatDoor
open Go.RowKit
set_option linter.unusedVariables false

set_option maxRecDepth 10000 in
set_option maxHeartbeats 1600000 in
theorem implTop_any (a : Option Addr) (n ca : Nat) (xs : List ByteArray) (a' : Option Addr) (n' ca' : Nat) (w : World) (h1 : Strs w a n xs) (hn : n ≤ 1099511627776) (hz : ∀ x ∈ xs, x.size ≤ 1048576) (ht : RecT w) :
    Calls Tryz.prog 78 #[.agg #[.slice a n ca, .slice a' n' ca']] w fun e w' => e = .returned (.int .i64 (topE xs)) ∧ Below w.heap.size w w' := by
  have HX : Hid (∀ W, Below w.heap.size w W → Strs W a n xs) := fun W h => h1.below h
  have HL : Hid (xs.length = n) := h1.1
  have HZ : Hid (∀ x ∈ xs, x.size ≤ 1048576) := hz
  have HRT : Hid (RecT w) := ht
  clear h1 hz ht
  obtain ⟨w0, hw0⟩ : ∃ w0, w.alloc (.cells #[.slice a n ca, .slice a' n' ca'] 33) = w0 := ⟨_, rfl⟩
  have HE : Hid (w.alloc (.cells #[.slice a n ca, .slice a' n' ca'] 33) = w0) := hw0
  have HA : Hid (Box2R w0 w.heap.size 33 (.slice a n ca) (.slice a' n' ca')) := by show Box2R _ _ _ _ _; rw [← hw0]; exact Box2R.new _ _ _ _
  have HB : Hid (Below w.heap.size w w0) := by show Below _ _ _; rw [← hw0]; exact (Below.refl _ _).alloc (Nat.le_refl _) _
  clear hw0
  obtain ⟨c0, c1⟩ := HA.out.cells
  go_enter Tryz.func78, Tryz.ntmps78
  go_upto_region 1 with fail
  rw [HE.out]
  clear HE
  go_wp2_with fail
  clear c0 c1
  go_loopw [3, 11] (fun v i wr => ∃ k : Nat, k ≤ n ∧ i = .int .i64 (k : Int) ∧ v = .int .i64 (topE (xs.take k)) ∧ Hid (Below w0.heap.size w0 wr)) (fun _ i _ => n - (intOf i).toNat)
  case atStart => exact ⟨0, Nat.zero_le _, rfl, rfl, Below.refl _ _⟩
  case round =>
    obtain ⟨k, hk, rfl, rfl, HW⟩ := hrel
    by_cases hlt : k < n
    · have hb := HB.out.trans (HW.out.mono HB.out.size)
      obtain ⟨p, po, x, rfl, _, hkx, hp⟩ := (HX.out _ hb).at hlt
      have HT : Hid (topE (xs.take (k + 1)) = topStep (topE (xs.take k)) x) := topE_step xs k x hkx
      have hxz : x.size ≤ 1048576 := HZ.out x (List.mem_of_getElem? hkx)
      have hki : (k : Int) < (n : Int) := by omega
      have hk0 : (0 : Int) ≤ (k : Int) := by omega
      have HTr : Hid (RecT wr) := HRT.out.below hb
      clear hkx hb
      generalize topE (xs.take k) = m at *
      go_wp2_with fail
      refine (implGetR_any x wr (by omega) HTr.out).mono ?_
      rintro _ w1 ⟨⟨v, rfl, hgot⟩, hb1⟩
      have hb01 : Below w0.heap.size w0 w1 := HW.out.trans (hb1.mono HW.out.size)
      rcases hgot with ⟨hr, rfl⟩ | ⟨r, A, C, hr, rfl, ho⟩
      · have HT2 : Hid (topE (xs.take (k + 1)) = m) := HT.out.trans (topStep_none hr)
        have HW2 : Hid (Below w0.heap.size w0 (w1.alloc (.cells #[.int .i64 0, .int .i64 0, .int .i64 0, .string ⟨#[]⟩, .int .i64 0, .slice none 0 0] 106))) := hb01.alloc hb01.size _
        clear hr hb1 hb01 HT HW
        go_wp2_with fail
        go_roundw
        case rel => exact ⟨k + 1, by omega, by go_num, by rw [HT2.out], HW2⟩
        case measure => simp [intOf]; omega
      · have HT2 : Hid (topE (xs.take (k + 1)) = if m < r.e then r.e else m) := HT.out.trans (topStep_some hr)
        have HW2 : Hid (Below w0.heap.size w0 (w1.alloc (.cells #[.int .i64 r.e, .int .i64 r.q, .int .i64 r.k, .string r.id, .int .i64 r.n, .slice A r.zs.length C] 106))) := hb01.alloc hb01.size _
        clear hr hb1 hb01 HT HW ho
        by_cases hm : m < r.e
        · rw [if_pos hm] at HT2
          go_wp2_with fail
          go_roundw
          case rel => exact ⟨k + 1, by omega, by go_num, by rw [HT2.out], HW2⟩
          case measure => simp [intOf]; omega
        · rw [if_neg hm] at HT2
          go_wp2_with fail
          go_roundw
          case rel => exact ⟨k + 1, by omega, by go_num, by rw [HT2.out], HW2⟩
          case measure => simp [intOf]; omega
    · have hkl : k = n := by omega
      have HT : Hid (topE (xs.take k) = topE xs) := by show _ = _; rw [hkl, List.take_of_length_le (by have := HL.out; omega)]
      generalize topE (xs.take k) = m at *
      go_wp2_with fail
      go_ret
      exact ⟨by rw [← HT.out]; rfl, HB.out.trans (HW.out.mono HB.out.size)⟩

end Go.Proofs.YtogopmngbjkcjavGreatDoor

namespace Go.Proofs.YtogopmngbjkcjavGreatDoor
open Go.RowKit
set_option linter.unusedVariables false

theorem scanFrom_ok (l : List ByteArray) : ∀ (i : Nat) (last : Int), (scanFrom i last l).length ≤ l.length ∧ ∀ r ∈ scanFrom i last l, r.zs.length ≤ 24 := by
  induction l with
  | nil => intro i last; simp [scanFrom]
  | cons s l ih =>
    intro i last
    rw [scanFrom]
    cases hr : nextR i last s with
    | none => simp
    | some r =>
      have h1 := ih (i + 1) r.e
      refine ⟨by simp only [List.length_cons]; omega, fun x hx => ?_⟩
      rcases List.mem_cons.1 hx with rfl | hx
      · exact (okRec_iff (recOf_iff.1 (nextR_ok hr).1).1).2.2.2.2.2
      · exact h1.2 x hx

theorem rows_short {W : World} {lo : Nat} {v : Value} {l : List RE} {L : List R} (h : RcRow W lo v l) (hl : l.map RE.r = L) (hL : ∀ r ∈ L, r.zs.length ≤ 24) : ∀ e ∈ l, e.n ≤ 24 := by
  intro e he
  have h1 := (h.2.1 e he).seg.1
  have h2 := hL e.r (by rw [← hl]; exact List.mem_map_of_mem he)
  omega

end Go.Proofs.YtogopmngbjkcjavGreatDoor

namespace Go.Proofs.YtogopmngbjkcjavGreatDoor
open Go.RowKit
set_option linter.unusedVariables false

theorem scanFrom_at (l : List ByteArray) : ∀ (i : Nat) (last : Int) (k : Nat) (r : R), (scanFrom i last l)[k]? = some r → (∃ x, l[k]? = some x ∧ recOf x = some r) ∧ r.q = ((i + k : Nat) : Int) ∧ last ≤ r.e := by
  induction l with
  | nil => intro i last k r h; simp [scanFrom] at h
  | cons s l ih =>
    intro i last k r h
    rw [scanFrom] at h
    cases hn : nextR i last s with
    | none => rw [hn] at h; simp at h
    | some r0 =>
      rw [hn] at h
      obtain ⟨h1, h2, h3⟩ := nextR_ok hn
      cases k with
      | zero =>
        simp at h
        subst h
        exact ⟨⟨s, rfl, h1⟩, by simpa using h2, h3⟩
      | succ k =>
        simp at h
        obtain ⟨⟨x, hx, hr⟩, hq, he⟩ := ih (i + 1) r0.e k r h
        exact ⟨⟨x, by simpa using hx, hr⟩, by rw [hq]; congr 1; omega, by omega⟩

theorem scanFrom_len (l : List ByteArray) : ∀ (i : Nat) (last : Int), (scanFrom i last l).length ≤ l.length := by
  induction l with
  | nil => intro i last; exact Nat.le_refl _
  | cons s l ih =>
    intro i last
    rw [scanFrom]
    cases hn : nextR i last s with
    | none => exact Nat.zero_le _
    | some r0 =>
      have := ih (i + 1) r0.e
      simp only [List.length_cons]
      omega

theorem scanFrom_up (l : List ByteArray) : ∀ (i : Nat) (last : Int) (k : Nat) (r r' : R), (scanFrom i last l)[k]? = some r → (scanFrom i last l)[k + 1]? = some r' → r.e ≤ r'.e := by
  induction l with
  | nil => intro i last k r r' h; simp [scanFrom] at h
  | cons s l ih =>
    intro i last k r r' h h'
    rw [scanFrom] at h h'
    cases hn : nextR i last s with
    | none => rw [hn] at h; simp at h
    | some r0 =>
      rw [hn] at h h'
      cases k with
      | zero =>
        simp at h h'
        subst h
        exact (scanFrom_at l (i + 1) r0.e 0 r' (by simpa using h')).2.2
      | succ k =>
        simp at h h'
        exact ih (i + 1) r0.e k r r' h h'

theorem topStep_ge (m : Int) (s : ByteArray) : m ≤ topStep m s := by
  cases h : recOf s with
  | none => rw [topStep_none h]; exact Int.le_refl _
  | some r => rw [topStep_some h]; split <;> omega

theorem top_ge (l : List ByteArray) : ∀ m : Int, m ≤ l.foldl topStep m := by
  induction l with
  | nil => intro m; exact Int.le_refl _
  | cons s l ih => intro m; exact Int.le_trans (topStep_ge m s) (ih _)

theorem top_in (l : List ByteArray) : ∀ (m : Int) (k : Nat) (x : ByteArray) (r : R), l[k]? = some x → recOf x = some r → r.e ≤ l.foldl topStep m := by
  induction l with
  | nil => intro m k x r h; simp at h
  | cons s l ih =>
    intro m k x r h hr
    cases k with
    | zero =>
      simp at h
      subst h
      refine Int.le_trans ?_ (top_ge l _)
      rw [topStep_some hr]
      split <;> omega
    | succ k => exact ih _ k x r (by simpa using h) hr

/-- One of the records ahead. -/
theorem scan_one {X : List ByteArray} {k : Nat} {r : R} (h : (scanR X)[k]? = some r) : (∃ x, X[k]? = some x ∧ recOf x = some r) ∧ r.q = (k : Int) ∧ r.e ≤ topE X := by
  obtain ⟨⟨x, hx, hr⟩, hq, _⟩ := scanFrom_at X 0 0 k r h
  exact ⟨⟨x, hx, hr⟩, by rw [hq]; congr 1; omega, top_in X (-1) k x r hx hr⟩

theorem scan_two {X : List ByteArray} {k : Nat} {r r' : R} (h : (scanR X)[k]? = some r) (h' : (scanR X)[k + 1]? = some r') : r.e ≤ r'.e := scanFrom_up X 0 0 k r r' h h'

end Go.Proofs.YtogopmngbjkcjavGreatDoor

namespace Go.Proofs.YtogopmngbjkcjavGreatDoor
open Go.RowKit
set_option linter.unusedVariables false

theorem putT_ok {r : R} (h : r.ok = true) : putT r.e r.q r.k r.id r.n r.zs = txU r.put := by
  rw [putT, show okRec r.e r.q r.k r.id r.n r.zs.length = true from h]
  rfl

theorem put_range {r : R} (hz : ∀ x ∈ r.zs, 0 ≤ x ∧ x ≤ 255) : ∀ x ∈ r.put, 0 ≤ x ∧ x ≤ 255 := sumB_range _ (recB_range _ _ _ _ _ _ hz)

theorem rec_back {r : R} (h : r.ok = true) (hz : ∀ x ∈ r.zs, 0 ≤ x ∧ x ≤ 255) : recOf (txU r.put) = some r := recOf_iff.2 ⟨h, (txI_txU _ (put_range hz)).symm⟩

/-- Another text of the same length that is the same but for the last four bytes is no record. -/
theorem rec_turned {r : R} (h : r.ok = true) {t : List Int} (ht : ∀ x ∈ t, 0 ≤ x ∧ x ≤ 255) (hl : t.length = r.put.length) (hs : t.take (r.put.length - 4) = r.put.take (r.put.length - 4)) (hne : t ≠ r.put) : recOf (txU t) = none := by
  cases hr : recOf (txU t) with
  | none => rfl
  | some r' =>
    exfalso
    obtain ⟨h1, h2⟩ := recOf_iff.1 hr
    rw [txI_txU t ht] at h2
    have l1 := put_len r
    have l2 := put_len r'
    have b1 : r.put.take (r.put.length - 4) = r.body := by
      rw [l1, R.put, sumB, show 16 + r.id.size + r.zs.length - 4 = r.body.length by rw [R.body, recB_len]; omega]
      exact List.take_left
    have b2 : r'.put.take (r'.put.length - 4) = r'.body := by
      rw [l2, R.put, sumB, show 16 + r'.id.size + r'.zs.length - 4 = r'.body.length by rw [R.body, recB_len]; omega]
      exact List.take_left
    have hlen : r'.put.length = r.put.length := by rw [h2, hl]
    have hb : r'.body = r.body := by rw [← b2, ← b1, hlen, h2, hs]
    exact hne (by rw [← h2, R.put, R.put, hb])

end Go.Proofs.YtogopmngbjkcjavGreatDoor
