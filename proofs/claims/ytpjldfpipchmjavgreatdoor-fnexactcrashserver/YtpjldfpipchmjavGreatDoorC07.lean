/- What the specification's CrashServer answers. -/
import Derived.Test.YtpjldfpipchmjavGreatDoorC03
import Derived.Test.YtpjldfpipchmjavGreatDoorM24
import Derived.Test.YtpjldfpipchmjavGreatDoorC05
import Derived.Test.YtpjldfpipchmjavGreatDoorC06
import Derived.Test.YtpjldfpipchmjavGreatDoorM22
import Derived.Test.YtpjldfpipchmjavGreatDoorM06
import Derived.Test.YtpjldfpipchmjavGreatDoorM08
import Derived.Deep.RegionHeld3
namespace Go.Proofs.YtpjldfpipchmjavGreatDoor
open Go.RowKit
set_option linter.unusedVariables false

set_option maxRecDepth 10000 in
set_option maxHeartbeats 6400000 in
theorem specCrash_any (a : Option Addr) (n ca : Nat) (X : List ByteArray) (a' : Option Addr) (n' ca' : Nat) (Y : List ByteArray) (ep nx : Int) (ua : Option Addr) (un uc lo : Nat) (l : List UE) (ha : Option Addr) (hn hc : Nat) (hs : List Hd) (ka : Option Addr) (m kc : Nat) (ks : List Bool) (w : World) (h1 : Strs w a n X) (h2 : Strs w a' n' Y) (hln : n ≤ 1048576) (hln' : n' ≤ 1048576) (hzx : ∀ x ∈ X, x.size ≤ 1048576) (hu : UpRow w lo (.slice ua un uc) l) (hun : un = l.length) (hul : un ≤ 1048576) (hz : ∀ e ∈ l, e.n ≤ 1099511627776) (hh : Helds w ha hn hs) (hhl : hn ≤ 1048576) (hk : Bools w ka m ks) (hm : m ≤ 1048576) :
    Calls Tryz.prog 26 #[.agg #[.slice a n ca, .slice a' n' ca', .int .i64 ep, .int .i64 nx, .slice ua un uc, .slice ha hn hc], .slice ka m kc] w fun e w' => (∃ v, e = .returned (.tuple #[v, .bool (crA X Y ep nx (l.map UE.u) hs ks).ok]) ∧ AnsV false w.heap.size (crA X Y ep nx (l.map UE.u) hs ks).X (crA X Y ep nx (l.map UE.u) hs ks).Y (crA X Y ep nx (l.map UE.u) hs ks).ep (crA X Y ep nx (l.map UE.u) hs ks).nx (crA X Y ep nx (l.map UE.u) hs ks).us (crA X Y ep nx (l.map UE.u) hs ks).hs v w') ∧ Below w.heap.size w w' := by
  obtain ⟨W2, hW2⟩ : ∃ W2, (w.alloc (.cells #[.slice a n ca, .slice a' n' ca', .int .i64 ep, .int .i64 nx, .slice ua un uc, .slice ha hn hc] 39)).alloc (.cells #[.slice none 0 0, .slice none 0 0, .int .i64 0, .int .i64 0, .slice none 0 0, .slice none 0 0] 39) = W2 := ⟨_, rfl⟩
  have HE : Hid ((w.alloc (.cells #[.slice a n ca, .slice a' n' ca', .int .i64 ep, .int .i64 nx, .slice ua un uc, .slice ha hn hc] 39)).alloc (.cells #[.slice none 0 0, .slice none 0 0, .int .i64 0, .int .i64 0, .slice none 0 0, .slice none 0 0] 39) = W2) := hW2
  have HB2 : Hid (Below w.heap.size w W2) := by show Below _ _ _; rw [← hW2]; exact ((Below.refl _ _).alloc (Nat.le_refl _) _).alloc (by simp) _
  have HZ2 : Hid (W2.heap.size = w.heap.size + 2) := by show _ = _; rw [← hW2]; simp
  have q1 : BoxN W2 w.heap.size 39 [.slice a n ca, .slice a' n' ca', .int .i64 ep, .int .i64 nx, .slice ua un uc, .slice ha hn hc] := by rw [← hW2]; exact (BoxN.new _ _ _).alloc _
  have q2 : BoxN W2 (w.heap.size + 1) 39 [.slice none 0 0, .slice none 0 0, .int .i64 0, .int .i64 0, .slice none 0 0, .slice none 0 0] := by
    rw [← hW2]
    have := BoxN.new (w.alloc (.cells #[.slice a n ca, .slice a' n' ca', .int .i64 ep, .int .i64 nx, .slice ua un uc, .slice ha hn hc] 39)) 39 [.slice none 0 0, .slice none 0 0, .int .i64 0, .int .i64 0, .slice none 0 0, .slice none 0 0]
    rwa [World.size_alloc] at this
  have HQ : Hid (∀ W, Below W2.heap.size W2 W → BoxN W w.heap.size 39 [.slice a n ca, .slice a' n' ca', .int .i64 ep, .int .i64 nx, .slice ua un uc, .slice ha hn hc] ∧ BoxN W (w.heap.size + 1) 39 [.slice none 0 0, .slice none 0 0, .int .i64 0, .int .i64 0, .slice none 0 0, .slice none 0 0]) := fun W h => ⟨q1.stays h, q2.stays h⟩
  have HX : Hid (∀ W, Below W2.heap.size W2 W → Strs W a n X ∧ Strs W a' n' Y ∧ UpRow W lo (.slice ua un uc) l ∧ Helds W ha hn hs) := fun W h => by
    have hw := HB2.out.trans (h.mono HB2.out.size)
    exact ⟨h1.below hw, h2.below hw, hu.stays hw, hh.below hw⟩
  have HL : Hid (un = l.length ∧ (∀ e ∈ l, e.n ≤ 1099511627776) ∧ hs.length = hn ∧ (∀ s ∈ hs, hd64 s) ∧ X.length = n ∧ Y.length = n' ∧ ∀ x ∈ X, x.size ≤ 1048576) := ⟨hun, hz, hh.1, hh.2.1, h1.1, h2.1, hzx⟩
  have HA0 : Hid (Below W2.heap.size W2 W2) := Below.refl _ _
  have hs2 : w.heap.size + 1 < W2.heap.size := q2.lt
  have hne : w.heap.size ≠ w.heap.size + 1 := by omega
  clear hW2 q1 q2 h1 h2 hu hun hz hh hzx
  have HK : Hid (∀ W, Below W2.heap.size W2 W → Bools W ka m ks) := fun W h => hk.below (HB2.out.trans (h.mono HB2.out.size))
  clear hk
  have HCp : Hid (∀ W, Below W2.heap.size W2 W → Calls Tryz.prog 41 #[.agg #[.slice a n ca, .slice a' n' ca', .int .i64 ep, .int .i64 nx, .slice ua un uc, .slice ha hn hc]] W fun e w' => (∃ b cb b' cb' va vc l' pa pc, e = .returned (.agg #[.slice b n cb, .slice b' n' cb', .int .i64 ep, .int .i64 nx, .slice va un vc, .slice pa hn pc]) ∧ SvAt w' W.heap.size b n cb X b' n' cb' Y va un vc l' pa hn pc hs ∧ l'.map UE.u = l.map UE.u ∧ True) ∧ Below W.heap.size W w') := fun W hb => by
    refine (specVcopy_any a n ca X a' n' ca' Y ep nx ua un uc lo l ha hn hc hs W (HX.out _ hb).1 (HX.out _ hb).2.1 hln hln' (HX.out _ hb).2.2.1 HL.out.1 hul HL.out.2.1 (HX.out _ hb).2.2.2 hhl).mono ?_
    rintro e y1 ⟨⟨v1, rfl, hv1⟩, hb1⟩
    obtain ⟨b, cb, b', cb', va, vc, l', pa, pc, rfl, hs1, hm1, hk1⟩ := hv1.get
    rw [List.length_map, ← HL.out.1, HL.out.2.2.2.2.1, HL.out.2.2.2.2.2.1, HL.out.2.2.1] at hs1 ⊢
    exact ⟨⟨b, cb, b', cb', va, vc, l', pa, pc, rfl, hs1, hm1, trivial⟩, hb1⟩
  have HOk : Hid (∀ W, Below W2.heap.size W2 W → Calls Tryz.prog 8 #[.agg #[.slice a n ca, .slice a' n' ca', .int .i64 ep, .int .i64 nx, .slice ua un uc, .slice ha hn hc]] W fun e w' => e = .returned (.bool (svB X Y ep nx (l.map UE.u) hs)) ∧ Below W.heap.size W w') := fun W hb =>
    specSvok_any a n ca X a' n' ca' Y ep nx ua un uc lo l ha hn hc hs W (HX.out _ hb).1 (HX.out _ hb).2.1 hln hln' HL.out.2.2.2.2.2.2 (HX.out _ hb).2.2.1 HL.out.1 hul (HX.out _ hb).2.2.2 (by omega)
  have HFL : Hid ((fallX X Y ks).length ≤ 1048576 ∧ (fallY X Y ks).length ≤ 1048576) := ⟨by have := (fallX_len X Y ks).1; have := HL.out.2.2.2.2.1; omega, fallY_len X Y ks 1048576 (by have := HL.out.2.2.2.2.1; omega) (by have := HL.out.2.2.2.2.2.1; omega)⟩
  have HFa : Hid (∀ W, Below W2.heap.size W2 W → Calls Tryz.prog 57 #[.agg #[.slice a n ca, .slice a' n' ca'], .slice ka m kc] W fun e w' => (∃ d nd cd d' nd' cd', e = .returned (.agg #[.slice d nd cd, .slice d' nd' cd']) ∧ Strs w' d nd (fallX X Y ks) ∧ Strs w' d' nd' (fallY X Y ks) ∧ nd ≤ 1048576 ∧ nd' ≤ 1048576) ∧ Below W.heap.size W w') := fun W hb => by
    refine (specFall_any a n ca X a' n' ca' Y ka m kc ks W (HX.out _ hb).1 (HX.out _ hb).2.1 (HK.out _ hb) (by omega) (by omega) (by omega)).mono ?_
    rintro e y1 ⟨⟨v1, rfl, A, C, A', C', rfl, o1, o2, _⟩, hb1⟩
    exact ⟨⟨A, _, C, A', _, C', rfl, o1.strs, o2.strs, HFL.out.1, HFL.out.2⟩, hb1⟩
  obtain ⟨O, hO⟩ : ∃ O, openA (fallX X Y ks) (fallY X Y ks) = O := ⟨_, rfl⟩
  have HOp : Hid (∀ W d nd cd d' nd' cd', Below W2.heap.size W2 W → Strs W d nd (fallX X Y ks) → Strs W d' nd' (fallY X Y ks) → nd ≤ 1048576 → nd' ≤ 1048576 → Calls Tryz.prog 56 #[.agg #[.slice d nd cd, .slice d' nd' cd']] W fun e w' => (∃ b nb cb b' nb' cb' va nv vc l', e = .returned (.tuple #[.agg #[.slice b nb cb, .slice b' nb' cb', .int .i64 O.ep, .int .i64 O.nx, .slice va nv vc], .bool O.ok]) ∧ StoAt w' W.heap.size b nb cb O.X b' nb' cb' O.Y va nv vc l' ∧ l'.map UE.u = O.us) ∧ Below W.heap.size W w') := fun W d nd cd d' nd' cd' hb h1 h2 h3 h4 => by
    refine (specOpen_all d nd cd (fallX X Y ks) d' nd' cd' (fallY X Y ks) W h1 h2 h3 h4).mono ?_
    rintro e y1 ⟨ha1, hb1⟩
    obtain ⟨v, rfl, b, nb, cb, b', nb', cb', va, nv, vc, l', rfl, h5, h6⟩ := ha1.get
    rw [hO] at h5 h6 ⊢
    exact ⟨⟨b, nb, cb, b', nb', cb', va, nv, vc, l', rfl, h5, h6⟩, hb1⟩
  obtain ⟨R, hR⟩ : ∃ R, crA X Y ep nx (l.map UE.u) hs ks = R := ⟨_, rfl⟩
  rw [hR]
  obtain ⟨ok, hok⟩ : ∃ ok, svB X Y ep nx (l.map UE.u) hs = ok := ⟨_, rfl⟩
  rw [hok] at HOk
  have HR : Hid (R = if ok = true ∧ O.ok = true then ⟨O.X, O.Y, O.ep, O.nx, O.us, [], true⟩ else ⟨X, Y, ep, nx, l.map UE.u, hs, false⟩) := by show _ = _; rw [← hR, crA, hok, hO]
  clear hok hO hR
  go_enter Tryz.func26, Tryz.ntmps26
  obtain ⟨c0, c1, c2, c3, c4, c5⟩ := (show _ ∧ _ ∧ _ ∧ _ ∧ _ ∧ _ from ⟨BoxN.cell (HQ.out _ HA0.out).1 0 rfl, BoxN.cell (HQ.out _ HA0.out).1 1 rfl, BoxN.cell (HQ.out _ HA0.out).1 2 rfl, BoxN.cell (HQ.out _ HA0.out).1 3 rfl, BoxN.cell (HQ.out _ HA0.out).1 4 rfl, BoxN.cell (HQ.out _ HA0.out).1 5 rfl⟩)
  go_upto_region 1 with fail
  rw [HE.out]
  clear HE
  go_wp2_with fail
  refine (HOk.out _ HA0.out).mono ?_
  rintro e y1 ⟨rfl, hb1⟩
  have HC1 : Hid (Below W2.heap.size W2 y1) := hb1
  clear hb1 c0 c1 c2 c3 c4 c5
  cases ok with
  | false =>
    obtain ⟨c0, c1, c2, c3, c4, c5⟩ := (show _ ∧ _ ∧ _ ∧ _ ∧ _ ∧ _ from ⟨BoxN.cell (HQ.out _ HC1.out).1 0 rfl, BoxN.cell (HQ.out _ HC1.out).1 1 rfl, BoxN.cell (HQ.out _ HC1.out).1 2 rfl, BoxN.cell (HQ.out _ HC1.out).1 3 rfl, BoxN.cell (HQ.out _ HC1.out).1 4 rfl, BoxN.cell (HQ.out _ HC1.out).1 5 rfl⟩)
    go_wp2_with fail
    refine (HCp.out _ HC1.out).mono ?_
    rintro e z2 ⟨⟨b, cb, b', cb', va, vc, l', pa, pc, rfl, hs1, hm1, hk1⟩, hb2⟩
    have HC9 : Hid (Below W2.heap.size W2 z2) := HC1.out.trans (hb2.mono HC1.out.size)
    have HSV : Hid (SvAt z2 y1.heap.size b n cb X b' n' cb' Y va un vc l' pa hn pc hs ∧ l'.map UE.u = l.map UE.u ∧ True) := ⟨hs1, hm1, hk1⟩
    have HBw : Hid (Below w.heap.size w z2) := HB2.out.trans (HC9.out.mono HB2.out.size)
    have hs3 : w.heap.size + 1 < y1.heap.size := by have := HC1.out.size; omega
    obtain ⟨r0, r1, r2, r3, r4, r5⟩ := (show _ ∧ _ ∧ _ ∧ _ ∧ _ ∧ _ from ⟨BoxN.cell (HQ.out _ HC9.out).2 0 rfl, BoxN.cell (HQ.out _ HC9.out).2 1 rfl, BoxN.cell (HQ.out _ HC9.out).2 2 rfl, BoxN.cell (HQ.out _ HC9.out).2 3 rfl, BoxN.cell (HQ.out _ HC9.out).2 4 rfl, BoxN.cell (HQ.out _ HC9.out).2 5 rfl⟩)
    obtain ⟨f0, f1, f2, f3, f4, f5⟩ := (show _ ∧ _ ∧ _ ∧ _ ∧ _ ∧ _ from ⟨BoxN.frozen (HQ.out _ HC9.out).2 0, BoxN.frozen (HQ.out _ HC9.out).2 1, BoxN.frozen (HQ.out _ HC9.out).2 2, BoxN.frozen (HQ.out _ HC9.out).2 3, BoxN.frozen (HQ.out _ HC9.out).2 4, BoxN.frozen (HQ.out _ HC9.out).2 5⟩)
    clear HQ HX HC9 hs1 hm1 hk1 hb2 HCp HOk HFa HOp c0 c1 c2 c3 c4 c5
    go_wp2_with fail
    refine bodyPost_ret (v := .tuple #[.agg #[.slice b n cb, .slice b' n' cb', .int .i64 ep, .int .i64 nx, .slice va un vc, .slice pa hn pc], .bool false]) (by simp [results, Tryz.f26, go_sem, r0, r1, r2, r3, r4, r5]) rfl ?_
    rw [HR.out, if_neg (by simp_all)]
    refine ⟨⟨_, rfl, b, n, cb, b', n', cb', va, un, vc, l', pa, hn, pc, rfl, (HSV.out.1.set6 (by omega) _ _ _ _ _ _).low (by omega), HSV.out.2.1, fun h => ?_⟩, below_set6 HBw.out (by omega) _ _ _ _ _ _⟩
    exact Bool.noConfusion h
  | true =>
    have d0 := BoxN.cell (HQ.out _ HC1.out).1 0 rfl
    have d1 := BoxN.cell (HQ.out _ HC1.out).1 1 rfl
    go_wp2_with fail
    refine (HFa.out _ HC1.out).mono ?_
    rintro e x3 ⟨⟨d, nd, cd, d', nd', cd', rfl, hf1, hf2, hf3, hf4⟩, hb3⟩
    have HC3 : Hid (Below W2.heap.size W2 x3) := HC1.out.trans (hb3.mono HC1.out.size)
    have HF3 : Hid (Strs x3 d nd (fallX X Y ks) ∧ Strs x3 d' nd' (fallY X Y ks) ∧ nd ≤ 1048576 ∧ nd' ≤ 1048576) := ⟨hf1, hf2, hf3, hf4⟩
    clear hf1 hf2 hf3 hf4 hb3 d0 d1
    go_wp2_with fail
    refine (HOp.out x3 d nd cd d' nd' cd' HC3.out HF3.out.1 HF3.out.2.1 HF3.out.2.2.1 HF3.out.2.2.2).mono ?_
    rintro e x4 ⟨⟨b, nb, cb, b', nb', cb', va, nv, vc, l', rfl, hs4, hm4⟩, hb4⟩
    have HV4 : Hid (BoxN (x4.alloc (.cells #[.slice b nb cb, .slice b' nb' cb', .int .i64 O.ep, .int .i64 O.nx, .slice va nv vc] 36)) x4.heap.size 36 [.slice b nb cb, .slice b' nb' cb', .int .i64 O.ep, .int .i64 O.nx, .slice va nv vc] ∧ StoAt (x4.alloc (.cells #[.slice b nb cb, .slice b' nb' cb', .int .i64 O.ep, .int .i64 O.nx, .slice va nv vc] 36)) x3.heap.size b nb cb O.X b' nb' cb' O.Y va nv vc l' ∧ l'.map UE.u = O.us ∧ w.heap.size + 1 < x3.heap.size) := ⟨BoxN.new _ _ _, hs4.stays ((Below.refl _ _).alloc (Nat.le_refl _) _), hm4, by have := HC3.out.size; omega⟩
    have HC4 : Hid (Below W2.heap.size W2 (x4.alloc (.cells #[.slice b nb cb, .slice b' nb' cb', .int .i64 O.ep, .int .i64 O.nx, .slice va nv vc] 36))) := (HC3.out.trans (hb4.mono HC3.out.size)).alloc (HC3.out.trans (hb4.mono HC3.out.size)).size _
    clear hs4 hm4 hb4 HC3 HF3
    go_upto_region 4 with fail
    obtain ⟨w4, hw4⟩ : ∃ w4, x4.alloc (.cells #[.slice b nb cb, .slice b' nb' cb', .int .i64 O.ep, .int .i64 O.nx, .slice va nv vc] 36) = w4 := ⟨_, rfl⟩
    rw [hw4] at HV4 HC4 ⊢
    clear hw4
    generalize x4.heap.size = bs at *
    cases hOo : O.ok with
    | false =>
      rw [hOo] at HR
      obtain ⟨c0, c1, c2, c3, c4, c5⟩ := (show _ ∧ _ ∧ _ ∧ _ ∧ _ ∧ _ from ⟨BoxN.cell (HQ.out _ HC4.out).1 0 rfl, BoxN.cell (HQ.out _ HC4.out).1 1 rfl, BoxN.cell (HQ.out _ HC4.out).1 2 rfl, BoxN.cell (HQ.out _ HC4.out).1 3 rfl, BoxN.cell (HQ.out _ HC4.out).1 4 rfl, BoxN.cell (HQ.out _ HC4.out).1 5 rfl⟩)
      go_wp2_with fail
      refine (HCp.out _ HC4.out).mono ?_
      rintro e z2 ⟨⟨b, cb, b', cb', va, vc, l', pa, pc, rfl, hs1, hm1, hk1⟩, hb2⟩
      have HC9 : Hid (Below W2.heap.size W2 z2) := HC4.out.trans (hb2.mono HC4.out.size)
      have HSV : Hid (SvAt z2 w4.heap.size b n cb X b' n' cb' Y va un vc l' pa hn pc hs ∧ l'.map UE.u = l.map UE.u ∧ True) := ⟨hs1, hm1, hk1⟩
      have HBw : Hid (Below w.heap.size w z2) := HB2.out.trans (HC9.out.mono HB2.out.size)
      have hs3 : w.heap.size + 1 < w4.heap.size := by have := HC4.out.size; omega
      obtain ⟨r0, r1, r2, r3, r4, r5⟩ := (show _ ∧ _ ∧ _ ∧ _ ∧ _ ∧ _ from ⟨BoxN.cell (HQ.out _ HC9.out).2 0 rfl, BoxN.cell (HQ.out _ HC9.out).2 1 rfl, BoxN.cell (HQ.out _ HC9.out).2 2 rfl, BoxN.cell (HQ.out _ HC9.out).2 3 rfl, BoxN.cell (HQ.out _ HC9.out).2 4 rfl, BoxN.cell (HQ.out _ HC9.out).2 5 rfl⟩)
      obtain ⟨f0, f1, f2, f3, f4, f5⟩ := (show _ ∧ _ ∧ _ ∧ _ ∧ _ ∧ _ from ⟨BoxN.frozen (HQ.out _ HC9.out).2 0, BoxN.frozen (HQ.out _ HC9.out).2 1, BoxN.frozen (HQ.out _ HC9.out).2 2, BoxN.frozen (HQ.out _ HC9.out).2 3, BoxN.frozen (HQ.out _ HC9.out).2 4, BoxN.frozen (HQ.out _ HC9.out).2 5⟩)
      clear HQ HX HC9 hs1 hm1 hk1 hb2 HCp HOk HFa HOp c0 c1 c2 c3 c4 c5
      go_wp2_with fail
      refine bodyPost_ret (v := .tuple #[.agg #[.slice b n cb, .slice b' n' cb', .int .i64 ep, .int .i64 nx, .slice va un vc, .slice pa hn pc], .bool false]) (by simp [results, Tryz.f26, go_sem, r0, r1, r2, r3, r4, r5]) rfl ?_
      rw [HR.out, if_neg (by simp_all)]
      refine ⟨⟨_, rfl, b, n, cb, b', n', cb', va, un, vc, l', pa, hn, pc, rfl, (HSV.out.1.set6 (by omega) _ _ _ _ _ _).low (by omega), HSV.out.2.1, fun h => ?_⟩, below_set6 HBw.out (by omega) _ _ _ _ _ _⟩
      exact Bool.noConfusion h
    | true =>
      rw [hOo] at HR
      have HV := HV4
      have HCv := HC4
      clear HV4 HC4
      obtain ⟨o0, o1, o2, o3, o4⟩ := (show _ ∧ _ ∧ _ ∧ _ ∧ _ from ⟨BoxN.cell HV.out.1 0 rfl, BoxN.cell HV.out.1 1 rfl, BoxN.cell HV.out.1 2 rfl, BoxN.cell HV.out.1 3 rfl, BoxN.cell HV.out.1 4 rfl⟩)
      obtain ⟨r0, r1, r2, r3, r4, r5⟩ := (show _ ∧ _ ∧ _ ∧ _ ∧ _ ∧ _ from ⟨BoxN.cell (HQ.out _ HCv.out).2 0 rfl, BoxN.cell (HQ.out _ HCv.out).2 1 rfl, BoxN.cell (HQ.out _ HCv.out).2 2 rfl, BoxN.cell (HQ.out _ HCv.out).2 3 rfl, BoxN.cell (HQ.out _ HCv.out).2 4 rfl, BoxN.cell (HQ.out _ HCv.out).2 5 rfl⟩)
      obtain ⟨f0, f1, f2, f3, f4, f5⟩ := (show _ ∧ _ ∧ _ ∧ _ ∧ _ ∧ _ from ⟨BoxN.frozen (HQ.out _ HCv.out).2 0, BoxN.frozen (HQ.out _ HCv.out).2 1, BoxN.frozen (HQ.out _ HCv.out).2 2, BoxN.frozen (HQ.out _ HCv.out).2 3, BoxN.frozen (HQ.out _ HCv.out).2 4, BoxN.frozen (HQ.out _ HCv.out).2 5⟩)
      have HBw : Hid (Below w.heap.size w w4) := HB2.out.trans (HCv.out.mono HB2.out.size)
      clear HQ HX HCv HCp HOk HFa HOp
      go_wp2_with fail
      refine bodyPost_ret (v := .tuple #[.agg #[.slice b nb cb, .slice b' nb' cb', .int .i64 O.ep, .int .i64 O.nx, .slice va nv vc, .slice none 0 0], .bool true]) (by simp [results, Tryz.f26, go_sem, r0, r1, r2, r3, r4, r5]) rfl ?_
      rw [HR.out, if_pos (by simp_all)]
      refine ⟨⟨_, rfl, b, nb, cb, b', nb', cb', va, nv, vc, l', none, 0, 0, rfl, ⟨(HV.out.2.1.set6 (by have := HV.out.2.2.2; omega) _ _ _ _ _ _).low (by have := HV.out.2.2.2; omega), World.ownsRow_nil _ _ _ _, by simp⟩, HV.out.2.2.1, fun _ => ⟨w4.heap.size, HBw.out.size, HV.out.2.1.inn, fun q e => by cases e⟩⟩, below_set6 HBw.out (by omega) _ _ _ _ _ _⟩

end Go.Proofs.YtpjldfpipchmjavGreatDoor
