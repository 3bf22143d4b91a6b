/- What the specification's CrashServer answers. Drawn truths: which sectors are kept. For codes of at most 2^40 bytes. -/
import Derived.Test.YtlkgopoicpnacaaGreatDoorM18
import Derived.Test.YtlkgopoicpnacaaGreatDoorM27
import Derived.Test.YtlkgopoicpnacaaGreatDoorM29
import Derived.Test.YtlkgopoicpnacaaGreatDoorM29
import Derived.Test.YtlkgopoicpnacaaGreatDoorM17
import Derived.Test.YtlkgopoicpnacaaGreatDoorM18
import Derived.Test.YtlkgopoicpnacaaGreatDoorM18
import Derived.Deep.RegionHeld3
import Derived.Test.YtlkgopoicpnacaaGreatDoorM25
import Derived.Deep.CutBlock
namespace Go.Proofs.YtlkgopoicpnacaaGreatDoor
open Go.RowKit
set_option linter.unusedVariables false

set_option maxRecDepth 10000 in
set_option maxHeartbeats 6400000 in
theorem specCrash_any (a : Option Addr) (n ca : Nat) (X : List ByteArray) (a' : Option Addr) (n' ca' : Nat) (Y : List ByteArray) (ep nx : Int) (ua : Option Addr) (un uc lo : Nat) (l : List UE) (ha : Option Addr) (hn hc : Nat) (hs : List Hd) (ka : Option Addr) (m kc : Nat) (ks : List Bool) (w : World) (h1 : Strs w a n X) (h2 : Strs w a' n' Y) (hln : n ≤ 1048576) (hln' : n' ≤ 1048576) (hzx : ∀ x ∈ X, x.size ≤ 1048576) (hu : UpRow w lo (.slice ua un uc) l) (hun : un = l.length) (hul : un ≤ 1048576) (hz : ∀ e ∈ l, e.n ≤ 1099511627776) (hh : Helds w ha hn hs) (hhl : hn ≤ 1048576) (hk : Bools w ka m ks) (hm : m ≤ 1048576) :
    Calls Tryz.prog 30 #[.agg #[.slice a n ca, .slice a' n' ca', .int .i64 ep, .int .i64 nx, .slice ua un uc, .slice ha hn hc], .slice ka m kc] w fun e w' => (∃ v, e = .returned (.tuple #[v, .bool (crA X Y ep nx (l.map UE.u) hs ks).ok]) ∧ AnsV false w.heap.size (crA X Y ep nx (l.map UE.u) hs ks).X (crA X Y ep nx (l.map UE.u) hs ks).Y (crA X Y ep nx (l.map UE.u) hs ks).ep (crA X Y ep nx (l.map UE.u) hs ks).nx (crA X Y ep nx (l.map UE.u) hs ks).us (crA X Y ep nx (l.map UE.u) hs ks).hs v w') ∧ Below w.heap.size w w' := by
  obtain ⟨W2, hW2⟩ : ∃ W2, (w.alloc (.cells #[.slice a n ca, .slice a' n' ca', .int .i64 ep, .int .i64 nx, .slice ua un uc, .slice ha hn hc] 32)).alloc (.cells #[.slice none 0 0, .slice none 0 0, .int .i64 0, .int .i64 0, .slice none 0 0, .slice none 0 0] 32) = W2 := ⟨_, rfl⟩
  have HE : Hid ((w.alloc (.cells #[.slice a n ca, .slice a' n' ca', .int .i64 ep, .int .i64 nx, .slice ua un uc, .slice ha hn hc] 32)).alloc (.cells #[.slice none 0 0, .slice none 0 0, .int .i64 0, .int .i64 0, .slice none 0 0, .slice none 0 0] 32) = W2) := hW2
  have HB2 : Hid (Below w.heap.size w W2) := by show Below _ _ _; rw [← hW2]; exact ((Below.refl _ _).alloc (Nat.le_refl _) _).alloc (by simp) _
  have HZ2 : Hid (W2.heap.size = w.heap.size + 2) := by show _ = _; rw [← hW2]; simp
  have q1 : BoxN W2 w.heap.size 32 [.slice a n ca, .slice a' n' ca', .int .i64 ep, .int .i64 nx, .slice ua un uc, .slice ha hn hc] := by rw [← hW2]; exact (BoxN.new _ _ _).alloc _
  have q2 : BoxN W2 (w.heap.size + 1) 32 [.slice none 0 0, .slice none 0 0, .int .i64 0, .int .i64 0, .slice none 0 0, .slice none 0 0] := by
    rw [← hW2]
    have := BoxN.new (w.alloc (.cells #[.slice a n ca, .slice a' n' ca', .int .i64 ep, .int .i64 nx, .slice ua un uc, .slice ha hn hc] 32)) 32 [.slice none 0 0, .slice none 0 0, .int .i64 0, .int .i64 0, .slice none 0 0, .slice none 0 0]
    rwa [World.size_alloc] at this
  have HQ : Hid (∀ W, Below W2.heap.size W2 W → BoxN W w.heap.size 32 [.slice a n ca, .slice a' n' ca', .int .i64 ep, .int .i64 nx, .slice ua un uc, .slice ha hn hc] ∧ BoxN W (w.heap.size + 1) 32 [.slice none 0 0, .slice none 0 0, .int .i64 0, .int .i64 0, .slice none 0 0, .slice none 0 0]) := fun W h => ⟨q1.stays h, q2.stays h⟩
  have HX : Hid (∀ W, Below W2.heap.size W2 W → Strs W a n X ∧ Strs W a' n' Y ∧ UpRow W lo (.slice ua un uc) l ∧ Helds W ha hn hs) := fun W h => by
    have hw := HB2.out.trans (h.mono HB2.out.size)
    exact ⟨h1.below hw, h2.below hw, hu.stays hw, hh.below hw⟩
  have HL : Hid (un = l.length ∧ (∀ e ∈ l, e.n ≤ 1099511627776) ∧ hs.length = hn ∧ (∀ s ∈ hs, hd64 s) ∧ X.length = n ∧ Y.length = n' ∧ ∀ x ∈ X, x.size ≤ 1048576) := ⟨hun, hz, hh.1, hh.2.1, h1.1, h2.1, hzx⟩
  have HA0 : Hid (Below W2.heap.size W2 W2) := Below.refl _ _
  have hs2 : w.heap.size + 1 < W2.heap.size := q2.lt
  have hne : w.heap.size ≠ w.heap.size + 1 := by omega
  clear hW2 q1 q2 h1 h2 hu hun hz hh hzx
  have HK : Hid (∀ W, Below W2.heap.size W2 W → Bools W ka m ks) := fun W h => hk.below (HB2.out.trans (h.mono HB2.out.size))
  clear hk
  have HCp : Hid (∀ W, Below W2.heap.size W2 W → Calls Tryz.prog 48 #[.agg #[.slice a n ca, .slice a' n' ca', .int .i64 ep, .int .i64 nx, .slice ua un uc, .slice ha hn hc]] W fun e w' => (∃ b cb b' cb' va vc l' pa pc, e = .returned (.agg #[.slice b n cb, .slice b' n' cb', .int .i64 ep, .int .i64 nx, .slice va un vc, .slice pa hn pc]) ∧ SvAt w' W.heap.size b n cb X b' n' cb' Y va un vc l' pa hn pc hs ∧ l'.map UE.u = l.map UE.u ∧ True) ∧ Below W.heap.size W w') := fun W hb => by
    refine (specVcopy_any a n ca X a' n' ca' Y ep nx ua un uc lo l ha hn hc hs W (HX.out _ hb).1 (HX.out _ hb).2.1 hln hln' (HX.out _ hb).2.2.1 HL.out.1 hul HL.out.2.1 (HX.out _ hb).2.2.2 hhl).mono ?_
    rintro e y1 ⟨⟨v1, rfl, hv1⟩, hb1⟩
    obtain ⟨b, cb, b', cb', va, vc, l', pa, pc, rfl, hs1, hm1, hk1⟩ := hv1.get
    rw [List.length_map, ← HL.out.1, HL.out.2.2.2.2.1, HL.out.2.2.2.2.2.1, HL.out.2.2.1] at hs1 ⊢
    exact ⟨⟨b, cb, b', cb', va, vc, l', pa, pc, rfl, hs1, hm1, trivial⟩, hb1⟩
  have HOk : Hid (∀ W, Below W2.heap.size W2 W → Calls Tryz.prog 49 #[.agg #[.slice a n ca, .slice a' n' ca', .int .i64 ep, .int .i64 nx, .slice ua un uc, .slice ha hn hc]] W fun e w' => e = .returned (.bool (svB X Y ep nx (l.map UE.u) hs)) ∧ Below W.heap.size W w') := fun W hb =>
    specSvok_any a n ca X a' n' ca' Y ep nx ua un uc lo l ha hn hc hs W (HX.out _ hb).1 (HX.out _ hb).2.1 hln hln' HL.out.2.2.2.2.2.2 (HX.out _ hb).2.2.1 HL.out.1 hul (HX.out _ hb).2.2.2 (by omega)
  have HFL : Hid ((fallX X Y ks).length ≤ 1048576 ∧ (fallY X Y ks).length ≤ 1048576) := ⟨by have := (fallX_len X Y ks).1; have := HL.out.2.2.2.2.1; omega, fallY_len X Y ks 1048576 (by have := HL.out.2.2.2.2.1; omega) (by have := HL.out.2.2.2.2.2.1; omega)⟩
  have HFa : Hid (∀ W, Below W2.heap.size W2 W → Calls Tryz.prog 52 #[.agg #[.slice a n ca, .slice a' n' ca'], .slice ka m kc] W fun e w' => (∃ d nd cd d' nd' cd', e = .returned (.agg #[.slice d nd cd, .slice d' nd' cd']) ∧ Strs w' d nd (fallX X Y ks) ∧ Strs w' d' nd' (fallY X Y ks) ∧ nd ≤ 1048576 ∧ nd' ≤ 1048576) ∧ Below W.heap.size W w') := fun W hb => by
    refine (specFall_any a n ca X a' n' ca' Y ka m kc ks W (HX.out _ hb).1 (HX.out _ hb).2.1 (HK.out _ hb) (by omega) (by omega) (by omega)).mono ?_
    rintro e y1 ⟨⟨v1, rfl, A, C, A', C', rfl, o1, o2, _⟩, hb1⟩
    exact ⟨⟨A, _, C, A', _, C', rfl, o1.strs, o2.strs, HFL.out.1, HFL.out.2⟩, hb1⟩
  obtain ⟨O, hO⟩ : ∃ O, openA (fallX X Y ks) (fallY X Y ks) = O := ⟨_, rfl⟩
  have HOp : Hid (∀ W d nd cd d' nd' cd', Below W2.heap.size W2 W → Strs W d nd (fallX X Y ks) → Strs W d' nd' (fallY X Y ks) → nd ≤ 1048576 → nd' ≤ 1048576 → Calls Tryz.prog 51 #[.agg #[.slice d nd cd, .slice d' nd' cd']] W fun e w' => (∃ b nb cb b' nb' cb' va nv vc l', e = .returned (.tuple #[.agg #[.slice b nb cb, .slice b' nb' cb', .int .i64 O.ep, .int .i64 O.nx, .slice va nv vc], .bool O.ok]) ∧ StoAt w' W.heap.size b nb cb O.X b' nb' cb' O.Y va nv vc l' ∧ l'.map UE.u = O.us) ∧ Below W.heap.size W w') := fun W d nd cd d' nd' cd' hb h1 h2 h3 h4 => by
    refine (specOpen_all d nd cd (fallX X Y ks) d' nd' cd' (fallY X Y ks) W h1 h2 h3 h4).mono ?_
    rintro e y1 ⟨ha1, hb1⟩
    obtain ⟨v, rfl, b, nb, cb, b', nb', cb', va, nv, vc, l', rfl, h5, h6⟩ := ha1.get
    rw [hO] at h5 h6 ⊢
    exact ⟨⟨b, nb, cb, b', nb', cb', va, nv, vc, l', rfl, h5, h6⟩, hb1⟩
  obtain ⟨R, hR⟩ : ∃ R, crA X Y ep nx (l.map UE.u) hs ks = R := ⟨_, rfl⟩
  rw [hR]
  obtain ⟨ok, hok⟩ : ∃ ok, svB X Y ep nx (l.map UE.u) hs = ok := ⟨_, rfl⟩
  rw [hok] at HOk
  have HR : Hid (R = if ok = true ∧ O.ok = true then ⟨O.X, O.Y, O.ep, O.nx, O.us, [], true⟩ else ⟨X, Y, ep, nx, l.map UE.u, hs, false⟩) := by show _ = _; rw [← hR, crA, hok, hO]
  clear hok hO hR
  go_enter Tryz.func30, Tryz.ntmps30
  obtain ⟨c0, c1, c2, c3, c4, c5⟩ := (show _ ∧ _ ∧ _ ∧ _ ∧ _ ∧ _ from ⟨BoxN.cell (HQ.out _ HA0.out).1 0 rfl, BoxN.cell (HQ.out _ HA0.out).1 1 rfl, BoxN.cell (HQ.out _ HA0.out).1 2 rfl, BoxN.cell (HQ.out _ HA0.out).1 3 rfl, BoxN.cell (HQ.out _ HA0.out).1 4 rfl, BoxN.cell (HQ.out _ HA0.out).1 5 rfl⟩)
  go_upto_region 1 with fail
  rw [HE.out]
  clear HE
  go_wp2_with fail
  refine (HOk.out _ HA0.out).mono ?_
  rintro e y1 ⟨rfl, hb1⟩
  have HC1 : Hid (Below W2.heap.size W2 y1) := hb1
  clear hb1 c0 c1 c2 c3 c4 c5
  cases ok with
  | false =>
    obtain ⟨c0, c1, c2, c3, c4, c5⟩ := (show _ ∧ _ ∧ _ ∧ _ ∧ _ ∧ _ from ⟨BoxN.cell (HQ.out _ HC1.out).1 0 rfl, BoxN.cell (HQ.out _ HC1.out).1 1 rfl, BoxN.cell (HQ.out _ HC1.out).1 2 rfl, BoxN.cell (HQ.out _ HC1.out).1 3 rfl, BoxN.cell (HQ.out _ HC1.out).1 4 rfl, BoxN.cell (HQ.out _ HC1.out).1 5 rfl⟩)
    go_wp2_with fail
    refine (HCp.out _ HC1.out).mono ?_
    rintro e z2 ⟨⟨b, cb, b', cb', va, vc, l', pa, pc, rfl, hs1, hm1, hk1⟩, hb2⟩
    have HC9 : Hid (Below W2.heap.size W2 z2) := HC1.out.trans (hb2.mono HC1.out.size)
    have HSV : Hid (SvAt z2 y1.heap.size b n cb X b' n' cb' Y va un vc l' pa hn pc hs ∧ l'.map UE.u = l.map UE.u ∧ True) := ⟨hs1, hm1, hk1⟩
    have HBw : Hid (Below w.heap.size w z2) := HB2.out.trans (HC9.out.mono HB2.out.size)
    have hs3 : w.heap.size + 1 < y1.heap.size := by have := HC1.out.size; omega
    obtain ⟨r0, r1, r2, r3, r4, r5⟩ := (show _ ∧ _ ∧ _ ∧ _ ∧ _ ∧ _ from ⟨BoxN.cell (HQ.out _ HC9.out).2 0 rfl, BoxN.cell (HQ.out _ HC9.out).2 1 rfl, BoxN.cell (HQ.out _ HC9.out).2 2 rfl, BoxN.cell (HQ.out _ HC9.out).2 3 rfl, BoxN.cell (HQ.out _ HC9.out).2 4 rfl, BoxN.cell (HQ.out _ HC9.out).2 5 rfl⟩)
    obtain ⟨f0, f1, f2, f3, f4, f5⟩ := (show _ ∧ _ ∧ _ ∧ _ ∧ _ ∧ _ from ⟨BoxN.frozen (HQ.out _ HC9.out).2 0, BoxN.frozen (HQ.out _ HC9.out).2 1, BoxN.frozen (HQ.out _ HC9.out).2 2, BoxN.frozen (HQ.out _ HC9.out).2 3, BoxN.frozen (HQ.out _ HC9.out).2 4, BoxN.frozen (HQ.out _ HC9.out).2 5⟩)
    clear HQ HX HC9 hs1 hm1 hk1 hb2 HCp HOk HFa HOp c0 c1 c2 c3 c4 c5
    go_wp2_with fail
    refine bodyPost_ret (v := .tuple #[.agg #[.slice b n cb, .slice b' n' cb', .int .i64 ep, .int .i64 nx, .slice va un vc, .slice pa hn pc], .bool false]) (by simp [results, Tryz.f30, go_sem, r0, r1, r2, r3, r4, r5]) rfl ?_
    rw [HR.out, if_neg (by simp_all)]
    refine ⟨⟨_, rfl, b, n, cb, b', n', cb', va, un, vc, l', pa, hn, pc, rfl, (HSV.out.1.set6 (by omega) _ _ _ _ _ _).low (by omega), HSV.out.2.1, fun h => ?_⟩, below_set6 HBw.out (by omega) _ _ _ _ _ _⟩
    exact Bool.noConfusion h
  | true =>
    have d0 := BoxN.cell (HQ.out _ HC1.out).1 0 rfl
    have d1 := BoxN.cell (HQ.out _ HC1.out).1 1 rfl
    go_wp2_with fail
    refine (HFa.out _ HC1.out).mono ?_
    rintro e x3 ⟨⟨d, nd, cd, d', nd', cd', rfl, hf1, hf2, hf3, hf4⟩, hb3⟩
    have HC3 : Hid (Below W2.heap.size W2 x3) := HC1.out.trans (hb3.mono HC1.out.size)
    have HF3 : Hid (Strs x3 d nd (fallX X Y ks) ∧ Strs x3 d' nd' (fallY X Y ks) ∧ nd ≤ 1048576 ∧ nd' ≤ 1048576) := ⟨hf1, hf2, hf3, hf4⟩
    clear hf1 hf2 hf3 hf4 hb3 d0 d1
    go_wp2_with fail
    refine (HOp.out x3 d nd cd d' nd' cd' HC3.out HF3.out.1 HF3.out.2.1 HF3.out.2.2.1 HF3.out.2.2.2).mono ?_
    rintro e x4 ⟨⟨b, nb, cb, b', nb', cb', va, nv, vc, l', rfl, hs4, hm4⟩, hb4⟩
    have HV4 : Hid (BoxN (x4.alloc (.cells #[.slice b nb cb, .slice b' nb' cb', .int .i64 O.ep, .int .i64 O.nx, .slice va nv vc] 29)) x4.heap.size 29 [.slice b nb cb, .slice b' nb' cb', .int .i64 O.ep, .int .i64 O.nx, .slice va nv vc] ∧ StoAt (x4.alloc (.cells #[.slice b nb cb, .slice b' nb' cb', .int .i64 O.ep, .int .i64 O.nx, .slice va nv vc] 29)) x3.heap.size b nb cb O.X b' nb' cb' O.Y va nv vc l' ∧ l'.map UE.u = O.us ∧ w.heap.size + 1 < x3.heap.size) := ⟨BoxN.new _ _ _, hs4.stays ((Below.refl _ _).alloc (Nat.le_refl _) _), hm4, by have := HC3.out.size; omega⟩
    have HC4 : Hid (Below W2.heap.size W2 (x4.alloc (.cells #[.slice b nb cb, .slice b' nb' cb', .int .i64 O.ep, .int .i64 O.nx, .slice va nv vc] 29))) := (HC3.out.trans (hb4.mono HC3.out.size)).alloc (HC3.out.trans (hb4.mono HC3.out.size)).size _
    clear hs4 hm4 hb4 HC3 HF3
    go_upto_region 4 with fail
    obtain ⟨w4, hw4⟩ : ∃ w4, x4.alloc (.cells #[.slice b nb cb, .slice b' nb' cb', .int .i64 O.ep, .int .i64 O.nx, .slice va nv vc] 29) = w4 := ⟨_, rfl⟩
    rw [hw4] at HV4 HC4 ⊢
    clear hw4
    generalize x4.heap.size = bs at *
    cases hOo : O.ok with
    | false =>
      rw [hOo] at HR
      obtain ⟨c0, c1, c2, c3, c4, c5⟩ := (show _ ∧ _ ∧ _ ∧ _ ∧ _ ∧ _ from ⟨BoxN.cell (HQ.out _ HC4.out).1 0 rfl, BoxN.cell (HQ.out _ HC4.out).1 1 rfl, BoxN.cell (HQ.out _ HC4.out).1 2 rfl, BoxN.cell (HQ.out _ HC4.out).1 3 rfl, BoxN.cell (HQ.out _ HC4.out).1 4 rfl, BoxN.cell (HQ.out _ HC4.out).1 5 rfl⟩)
      go_wp2_with fail
      refine (HCp.out _ HC4.out).mono ?_
      rintro e z2 ⟨⟨b, cb, b', cb', va, vc, l', pa, pc, rfl, hs1, hm1, hk1⟩, hb2⟩
      have HC9 : Hid (Below W2.heap.size W2 z2) := HC4.out.trans (hb2.mono HC4.out.size)
      have HSV : Hid (SvAt z2 w4.heap.size b n cb X b' n' cb' Y va un vc l' pa hn pc hs ∧ l'.map UE.u = l.map UE.u ∧ True) := ⟨hs1, hm1, hk1⟩
      have HBw : Hid (Below w.heap.size w z2) := HB2.out.trans (HC9.out.mono HB2.out.size)
      have hs3 : w.heap.size + 1 < w4.heap.size := by have := HC4.out.size; omega
      obtain ⟨r0, r1, r2, r3, r4, r5⟩ := (show _ ∧ _ ∧ _ ∧ _ ∧ _ ∧ _ from ⟨BoxN.cell (HQ.out _ HC9.out).2 0 rfl, BoxN.cell (HQ.out _ HC9.out).2 1 rfl, BoxN.cell (HQ.out _ HC9.out).2 2 rfl, BoxN.cell (HQ.out _ HC9.out).2 3 rfl, BoxN.cell (HQ.out _ HC9.out).2 4 rfl, BoxN.cell (HQ.out _ HC9.out).2 5 rfl⟩)
      obtain ⟨f0, f1, f2, f3, f4, f5⟩ := (show _ ∧ _ ∧ _ ∧ _ ∧ _ ∧ _ from ⟨BoxN.frozen (HQ.out _ HC9.out).2 0, BoxN.frozen (HQ.out _ HC9.out).2 1, BoxN.frozen (HQ.out _ HC9.out).2 2, BoxN.frozen (HQ.out _ HC9.out).2 3, BoxN.frozen (HQ.out _ HC9.out).2 4, BoxN.frozen (HQ.out _ HC9.out).2 5⟩)
      clear HQ HX HC9 hs1 hm1 hk1 hb2 HCp HOk HFa HOp c0 c1 c2 c3 c4 c5
      go_wp2_with fail
      refine bodyPost_ret (v := .tuple #[.agg #[.slice b n cb, .slice b' n' cb', .int .i64 ep, .int .i64 nx, .slice va un vc, .slice pa hn pc], .bool false]) (by simp [results, Tryz.f30, go_sem, r0, r1, r2, r3, r4, r5]) rfl ?_
      rw [HR.out, if_neg (by simp_all)]
      refine ⟨⟨_, rfl, b, n, cb, b', n', cb', va, un, vc, l', pa, hn, pc, rfl, (HSV.out.1.set6 (by omega) _ _ _ _ _ _).low (by omega), HSV.out.2.1, fun h => ?_⟩, below_set6 HBw.out (by omega) _ _ _ _ _ _⟩
      exact Bool.noConfusion h
    | true =>
      rw [hOo] at HR
      have HV := HV4
      have HCv := HC4
      clear HV4 HC4
      obtain ⟨o0, o1, o2, o3, o4⟩ := (show _ ∧ _ ∧ _ ∧ _ ∧ _ from ⟨BoxN.cell HV.out.1 0 rfl, BoxN.cell HV.out.1 1 rfl, BoxN.cell HV.out.1 2 rfl, BoxN.cell HV.out.1 3 rfl, BoxN.cell HV.out.1 4 rfl⟩)
      obtain ⟨r0, r1, r2, r3, r4, r5⟩ := (show _ ∧ _ ∧ _ ∧ _ ∧ _ ∧ _ from ⟨BoxN.cell (HQ.out _ HCv.out).2 0 rfl, BoxN.cell (HQ.out _ HCv.out).2 1 rfl, BoxN.cell (HQ.out _ HCv.out).2 2 rfl, BoxN.cell (HQ.out _ HCv.out).2 3 rfl, BoxN.cell (HQ.out _ HCv.out).2 4 rfl, BoxN.cell (HQ.out _ HCv.out).2 5 rfl⟩)
      obtain ⟨f0, f1, f2, f3, f4, f5⟩ := (show _ ∧ _ ∧ _ ∧ _ ∧ _ ∧ _ from ⟨BoxN.frozen (HQ.out _ HCv.out).2 0, BoxN.frozen (HQ.out _ HCv.out).2 1, BoxN.frozen (HQ.out _ HCv.out).2 2, BoxN.frozen (HQ.out _ HCv.out).2 3, BoxN.frozen (HQ.out _ HCv.out).2 4, BoxN.frozen (HQ.out _ HCv.out).2 5⟩)
      have HBw : Hid (Below w.heap.size w w4) := HB2.out.trans (HCv.out.mono HB2.out.size)
      clear HQ HX HCv HCp HOk HFa HOp
      go_wp2_with fail
      refine bodyPost_ret (v := .tuple #[.agg #[.slice b nb cb, .slice b' nb' cb', .int .i64 O.ep, .int .i64 O.nx, .slice va nv vc, .slice none 0 0], .bool true]) (by simp [results, Tryz.f30, go_sem, r0, r1, r2, r3, r4, r5]) rfl ?_
      rw [HR.out, if_pos (by simp_all)]
      refine ⟨⟨_, rfl, b, nb, cb, b', nb', cb', va, nv, vc, l', none, 0, 0, rfl, ⟨(HV.out.2.1.set6 (by have := HV.out.2.2.2; omega) _ _ _ _ _ _).low (by have := HV.out.2.2.2; omega), World.ownsRow_nil _ _ _ _, by simp⟩, HV.out.2.2.1, fun _ => ⟨w4.heap.size, HBw.out.size, HV.out.2.1.inn, fun q e => by cases e⟩⟩, below_set6 HBw.out (by omega) _ _ _ _ _ _⟩

end Go.Proofs.YtlkgopoicpnacaaGreatDoor

namespace Go.Proofs.YtlkgopoicpnacaaGreatDoor
open Go.RowKit
set_option linter.unusedVariables false

/-- A row of truths that grows beside a cursor. -/
def DK (w W : World) (B c : Nat) (a : Option Addr) (len cap : Nat) (zs : List Int) (g n cp : Nat) (l : List Bool) : Prop :=
  Cur W B c a len cap zs ∧ w.grownBy W (some c) ∧ W.ownsRow w.heap.size 4 1 (.slice (some ⟨g, 0, none⟩) n cp) n (bcells l)

section
variable {w W W' : World} {B c len cap g n cp : Nat} {a : Option Addr} {zs : List Int} {l : List Bool}

theorem DK.new (h : DK w W B c a len cap zs g n cp l) (o : Obj) : DK w (W.alloc o) B c a len cap zs g n cp l := ⟨h.1.new o, gnew h.2.1 o, h.2.2.alloc o⟩

theorem ownB_kept {base m : Nat} {v : Value} {xs : List Value} {r : Option Nat} (h : W.ownsRow base 4 1 v m xs) (hg : W.grownBy W' r) (hr : ∀ q, r = some q → q < base) : W'.ownsRow base 4 1 v m xs := by
  refine ⟨h.1, ?_⟩
  rcases h.2 with h0 | ⟨g, cap, cur, he, hgb, hh, rest⟩
  · exact .inl h0
  · refine .inr ⟨g, cap, cur, he, hgb, (hg.block g (Array.getElem?_eq_some_iff.1 hh).1 (fun e => by have := hr g e.symm; omega)).trans hh, rest⟩

theorem DK.call (h : DK w W B c a len cap zs g n cp l) (hc : Cur W' B c a len cap zs) (hg : W.grownBy W' (some c)) (hcw : c < w.heap.size) : DK w W' B c a len cap zs g n cp l :=
  ⟨hc, gtrans h.2.1 hg, ownB_kept h.2.2 hg (fun q e => by injection e with e; omega)⟩

theorem DK.app (h : DK w W B c a len cap zs g n cp l) (hcw : c < w.heap.size) {v : Value} {x : Bool} (ho : W'.ownsRow w.heap.size 4 1 v (n + 1) (bcells l ++ [.bool x])) (hg : W.grownBy W' (some g)) : ∃ g' cp', v = .slice (some ⟨g', 0, none⟩) (n + 1) cp' ∧ DK w W' B c a len cap zs g' (n + 1) cp' (l ++ [x]) := by
  have hgw : w.heap.size ≤ g := by
    rcases h.2.2.2 with ⟨e, _⟩ | ⟨g1, cap1, cur, e, hb, _⟩
    · cases e
    · injection e with e1 _ _
      injection e1 with e1
      injection e1 with e1 _ _
      omega
  rcases ho.2 with ⟨_, h0⟩ | ⟨g1, cap1, cur, rfl, hb, r⟩
  · omega
  · exact ⟨g1, cap1, rfl, h.1.kept hg (fun k e => by injection e with e; have := h.1.1; omega), gown h.2.1 hg (fun j e => by injection e with e; omega), by rw [bcells_append]; exact ho⟩
end

theorem oneB (y : World) (x : Bool) : ∀ j u, [Value.bool x][j]? = some u → (y.alloc (.cells #[.bool x] 4)).cell? ((⟨y.heap.size, 0, none⟩ : Addr).add j) = some u := by
  intro j u hj
  obtain rfl : j = 0 := by have := (List.getElem?_eq_some_iff.1 hj).1; simpa using this
  rw [Addr.add_lit, cell_of_row _ _ _ _ _ _ (heap_alloc_new y (.cells #[.bool x] 4))]
  simpa using hj

set_option maxRecDepth 10000 in
set_option maxHeartbeats 3200000 in
theorem l12Kept_any (B c : Nat) (a : Option Addr) (len cap : Nat) (zs : List Int) (w : World) (hcur : Cur w B c a len cap zs) (hl : len ≤ 1099511627776) :
    Calls Tryz.prog 31 #[.pointer (some ⟨c, 0, none⟩)] w fun e w' => (∃ A n C l, e = .returned (.slice A n C) ∧ n ≤ 8 ∧ OwnBo w' w.heap.size (.slice A n C) n l) ∧ Cur w' B c a len cap zs ∧ w.grownBy w' (some c) := by
  obtain ⟨i0, hi, hz0, hz1, hz2⟩ := info_parts info_bool
  have HC : Hid (Cur w B c a len cap zs) := hcur
  clear hcur
  have hcw : c < w.heap.size := HC.out.lt
  have HD1 : Hid (DK w (w.alloc (.cells #[] 4)) B c a len cap zs w.heap.size 0 0 []) := ⟨HC.out.new _, World.grownBy_alloc w _ _, World.ownsRow_lit w #[] 0 (Nat.le_refl _) (Nat.zero_le _) rfl⟩
  go_enter Tryz.func31, Tryz.ntmps31
  go_wp2_with fail
  obtain ⟨w1, hw1⟩ : ∃ w1, w.alloc (.cells #[] 4) = w1 := ⟨_, rfl⟩
  rw [hw1] at HD1 ⊢
  clear hw1 HC
  refine (l1Below_any B c a len cap zs 8 w1 HD1.out.1 hl (by omega) (by omega)).mono ?_
  rintro e w2 ⟨m, rfl, hm0, hm1, hc2, hg2⟩
  obtain ⟨M, rfl⟩ := Int.eq_ofNat_of_zero_le hm0
  have HD2 : Hid (DK w w2 B c a len cap zs w.heap.size 0 0 []) := HD1.out.call hc2 hg2 hcw
  clear hc2 hg2 HD1
  go_wp2_with fail
  go_loopw [3, 4] (fun v i wr => ∃ (j g n cp : Nat) (l : List Bool), i = .int .i64 (j : Int) ∧ v = .slice (some ⟨g, 0, none⟩) n cp ∧ n + j ≤ 8 ∧ Hid (DK w wr B c a len cap zs g n cp l)) (fun _ i _ => (intOf i).toNat)
  case atStart => exact ⟨M, w.heap.size, 0, 0, [], rfl, rfl, by omega, HD2⟩
  case round =>
    clear HD2
    obtain ⟨j, g, n, cp, l, rfl, rfl, hnj, HD⟩ := hrel
    by_cases hj : j = 0
    · subst hj
      go_wp2_with fail
      go_ret
      exact ⟨⟨_, n, cp, l, rfl, by omega, ⟨HD.out.2.2, trivial⟩⟩, HD.out.1, HD.out.2.1⟩
    · have hji : (0 : Int) < (j : Int) := by omega
      go_wp2_with fail
      refine (l1Once_any B c a len cap zs 2 wr HD.out.1 hl (by omega) (by omega)).mono ?_
      rintro e w4 ⟨y, rfl, hc4, hg4⟩
      have HD4 : Hid (DK w w4 B c a len cap zs g n cp l) := HD.out.call hc4 hg4 hcw
      have hsz := HD4.out.2.1.size
      clear hc4 hg4 HD
      have HN2 : Hid (∀ j u, [Value.bool y][j]? = some u → (w4.alloc (.cells #[.bool y] 4)).cell? ((⟨w4.heap.size, 0, none⟩ : Addr).add j) = some u) := oneB w4 y
      go_wp2_with (at_builtin; refine wpList_append_own _ rfl _ _ 38 rfl w.heap.size 4 i0 (.bool false) 1 1 Tryz.underlying38 hi hz0 hz1 hz2 rfl (by decide) (.slice (some ⟨g, 0, none⟩) n cp) n _ rfl (HD4.out.new _).2.2 ⟨w4.heap.size, 0, none⟩ 1 1 [.bool y] rfl rfl HN2.out (by simp [Value.oneCell']) (by unfold maxLen; omega) (by omega) (by simp; omega) ?_; intro v5 w5 hown5 hgrow5 _; refine Hid.out ?_)
      refine hidden ?_
      obtain ⟨g5, cp5, rfl, hd5⟩ := (HD4.out.new _).app hcw hown5 hgrow5
      have HD5 : Hid (DK w w5 B c a len cap zs g5 (n + 1) cp5 (l ++ [y])) := hd5
      clear hown5 hgrow5 hd5 HN2 HD4
      go_wp2_with fail
      go_roundw
      case rel => exact ⟨j - 1, g5, n + 1, cp5, l ++ [y], by go_num, rfl, by omega, HD5⟩
      case measure => simp [intOf]; omega

end Go.Proofs.YtlkgopoicpnacaaGreatDoor
