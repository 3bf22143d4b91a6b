/- What the program's CrashServer answers. Bytes against themselves. Uploads that say the same are the same to the laws. Which sectors a crash keeps, drawn of a code. For codes of at most 2^40 bytes. The test that lets greater arguments pass. -/
import Derived.Test.YtlkgopoicpnacaaGreatDoorM18
import Derived.Test.YtlkgopoicpnacaaGreatDoorM33
import Derived.Test.YtlkgopoicpnacaaGreatDoorM43
import Derived.Test.YtlkgopoicpnacaaGreatDoorM43
import Derived.Test.YtlkgopoicpnacaaGreatDoorM43
import Derived.Test.YtlkgopoicpnacaaGreatDoorM18
import Derived.Test.YtlkgopoicpnacaaGreatDoorM18
import Derived.Deep.RegionHeld3
import Derived.Test.YtlkgopoicpnacaaGreatDoorM01
import Derived.Deep.QuietTactic
import Derived.Test.YtlkgopoicpnacaaGreatDoorM03
import Derived.Test.YtlkgopoicpnacaaGreatDoorM04
import Derived.BigQuiet
import Derived.Test.YtlkgopoicpnacaaGreatDoorM30
import Derived.Test.YtlkgopoicpnacaaGreatDoorM02
namespace Go.Proofs.YtlkgopoicpnacaaGreatDoor
open Go.RowKit
set_option linter.unusedVariables false

set_option maxRecDepth 10000 in
set_option maxHeartbeats 6400000 in
theorem implCrash_any (a : Option Addr) (n ca : Nat) (X : List ByteArray) (a' : Option Addr) (n' ca' : Nat) (Y : List ByteArray) (ep nx : Int) (ua : Option Addr) (un uc lo : Nat) (l : List UE) (ha : Option Addr) (hn hc : Nat) (hs : List Hd) (ka : Option Addr) (m kc : Nat) (ks : List Bool) (w : World) (h1 : Strs w a n X) (h2 : Strs w a' n' Y) (hln : n ≤ 1048576) (hln' : n' ≤ 1048576) (hzx : ∀ x ∈ X, x.size ≤ 1048576) (hu : UpRow w lo (.slice ua un uc) l) (hun : un = l.length) (hul : un ≤ 1048576) (hz : ∀ e ∈ l, e.n ≤ 1099511627776) (hh : Helds w ha hn hs) (hhl : hn ≤ 1048576) (hk : Bools w ka m ks) (hm : m ≤ 1048576) (hsl : SlOk a n ca) (ht : RecT w) (he : ErrN w) :
    Calls Tryz.prog 7 #[.agg #[.slice a n ca, .slice a' n' ca', .int .i64 ep, .int .i64 nx, .slice ua un uc, .slice ha hn hc], .slice ka m kc] w fun e w' => (∃ v, e = .returned (.tuple #[v, .bool (crA X Y ep nx (l.map UE.u) hs ks).ok]) ∧ AnsV true w.heap.size (crA X Y ep nx (l.map UE.u) hs ks).X (crA X Y ep nx (l.map UE.u) hs ks).Y (crA X Y ep nx (l.map UE.u) hs ks).ep (crA X Y ep nx (l.map UE.u) hs ks).nx (crA X Y ep nx (l.map UE.u) hs ks).us (crA X Y ep nx (l.map UE.u) hs ks).hs v w') ∧ Below w.heap.size w w' := by
  obtain ⟨W2, hW2⟩ : ∃ W2, (w.alloc (.cells #[.slice a n ca, .slice a' n' ca', .int .i64 ep, .int .i64 nx, .slice ua un uc, .slice ha hn hc] 32)).alloc (.cells #[.slice none 0 0, .slice none 0 0, .int .i64 0, .int .i64 0, .slice none 0 0, .slice none 0 0] 32) = W2 := ⟨_, rfl⟩
  have HE : Hid ((w.alloc (.cells #[.slice a n ca, .slice a' n' ca', .int .i64 ep, .int .i64 nx, .slice ua un uc, .slice ha hn hc] 32)).alloc (.cells #[.slice none 0 0, .slice none 0 0, .int .i64 0, .int .i64 0, .slice none 0 0, .slice none 0 0] 32) = W2) := hW2
  have HB2 : Hid (Below w.heap.size w W2) := by show Below _ _ _; rw [← hW2]; exact ((Below.refl _ _).alloc (Nat.le_refl _) _).alloc (by simp) _
  have HZ2 : Hid (W2.heap.size = w.heap.size + 2) := by show _ = _; rw [← hW2]; simp
  have q1 : BoxN W2 w.heap.size 32 [.slice a n ca, .slice a' n' ca', .int .i64 ep, .int .i64 nx, .slice ua un uc, .slice ha hn hc] := by rw [← hW2]; exact (BoxN.new _ _ _).alloc _
  have q2 : BoxN W2 (w.heap.size + 1) 32 [.slice none 0 0, .slice none 0 0, .int .i64 0, .int .i64 0, .slice none 0 0, .slice none 0 0] := by
    rw [← hW2]
    have := BoxN.new (w.alloc (.cells #[.slice a n ca, .slice a' n' ca', .int .i64 ep, .int .i64 nx, .slice ua un uc, .slice ha hn hc] 32)) 32 [.slice none 0 0, .slice none 0 0, .int .i64 0, .int .i64 0, .slice none 0 0, .slice none 0 0]
    rwa [World.size_alloc] at this
  have HQ : Hid (∀ W, Below W2.heap.size W2 W → BoxN W w.heap.size 32 [.slice a n ca, .slice a' n' ca', .int .i64 ep, .int .i64 nx, .slice ua un uc, .slice ha hn hc] ∧ BoxN W (w.heap.size + 1) 32 [.slice none 0 0, .slice none 0 0, .int .i64 0, .int .i64 0, .slice none 0 0, .slice none 0 0]) := fun W h => ⟨q1.stays h, q2.stays h⟩
  have HX : Hid (∀ W, Below W2.heap.size W2 W → Strs W a n X ∧ Strs W a' n' Y ∧ UpRow W lo (.slice ua un uc) l ∧ Helds W ha hn hs ∧ RecT W ∧ ErrN W) := fun W h => by
    have hw := HB2.out.trans (h.mono HB2.out.size)
    exact ⟨h1.below hw, h2.below hw, hu.stays hw, hh.below hw, ht.below hw, he.below hw⟩
  have HL : Hid (un = l.length ∧ (∀ e ∈ l, e.n ≤ 1099511627776) ∧ hs.length = hn ∧ (∀ s ∈ hs, hd64 s) ∧ X.length = n ∧ Y.length = n' ∧ ∀ x ∈ X, x.size ≤ 1048576) := ⟨hun, hz, hh.1, hh.2.1, h1.1, h2.1, hzx⟩
  have HA0 : Hid (Below W2.heap.size W2 W2) := Below.refl _ _
  have hs2 : w.heap.size + 1 < W2.heap.size := q2.lt
  have hne : w.heap.size ≠ w.heap.size + 1 := by omega
  clear hW2 q1 q2 h1 h2 hu hun hz hh hzx ht he
  have HK : Hid (∀ W, Below W2.heap.size W2 W → Bools W ka m ks) := fun W h => hk.below (HB2.out.trans (h.mono HB2.out.size))
  clear hk
  have HCp : Hid (∀ W, Below W2.heap.size W2 W → Calls Tryz.prog 15 #[.agg #[.slice a n ca, .slice a' n' ca', .int .i64 ep, .int .i64 nx, .slice ua un uc, .slice ha hn hc]] W fun e w' => (∃ b cb b' cb' va vc l' pa pc, e = .returned (.agg #[.slice b n cb, .slice b' n' cb', .int .i64 ep, .int .i64 nx, .slice va un vc, .slice pa hn pc]) ∧ SvAt w' W.heap.size b n cb X b' n' cb' Y va un vc l' pa hn pc hs ∧ l'.map UE.u = l.map UE.u ∧ SvBeh W.heap.size b b' va l' pa) ∧ Below W.heap.size W w') := fun W hb => by
    refine (implVcopy_any a n ca X a' n' ca' Y ep nx ua un uc lo l ha hn hc hs W (HX.out _ hb).1 (HX.out _ hb).2.1 hln hln' (HX.out _ hb).2.2.1 HL.out.1 hul HL.out.2.1 (HX.out _ hb).2.2.2.1 hhl).mono ?_
    rintro e y1 ⟨⟨v1, rfl, hv1⟩, hb1⟩
    obtain ⟨b, cb, b', cb', va, vc, l', pa, pc, rfl, hs1, hm1, hk1⟩ := hv1.get
    rw [List.length_map, ← HL.out.1, HL.out.2.2.2.2.1, HL.out.2.2.2.2.2.1, HL.out.2.2.1] at hs1 ⊢
    exact ⟨⟨b, cb, b', cb', va, vc, l', pa, pc, rfl, hs1, hm1, hk1 rfl⟩, hb1⟩
  have HOk : Hid (∀ W, Below W2.heap.size W2 W → Calls Tryz.prog 10 #[.agg #[.slice a n ca, .slice a' n' ca', .int .i64 ep, .int .i64 nx, .slice ua un uc, .slice ha hn hc]] W fun e w' => e = .returned (.bool (svB X Y ep nx (l.map UE.u) hs)) ∧ Below W.heap.size W w') := fun W hb =>
    implSvok_any a n ca X a' n' ca' Y ep nx ua un uc lo l ha hn hc hs W (HX.out _ hb).1 (HX.out _ hb).2.1 hln hln' HL.out.2.2.2.2.2.2 (HX.out _ hb).2.2.1 HL.out.1 hul (HX.out _ hb).2.2.2.1 (by omega) hsl (HX.out _ hb).2.2.2.2.1 (HX.out _ hb).2.2.2.2.2
  have HFL : Hid ((fallX X Y ks).length ≤ 1048576 ∧ (fallY X Y ks).length ≤ 1048576) := ⟨by have := (fallX_len X Y ks).1; have := HL.out.2.2.2.2.1; omega, fallY_len X Y ks 1048576 (by have := HL.out.2.2.2.2.1; omega) (by have := HL.out.2.2.2.2.2.1; omega)⟩
  have HFa : Hid (∀ W, Below W2.heap.size W2 W → Calls Tryz.prog 20 #[.agg #[.slice a n ca, .slice a' n' ca'], .slice ka m kc] W fun e w' => (∃ d nd cd d' nd' cd', e = .returned (.agg #[.slice d nd cd, .slice d' nd' cd']) ∧ Strs w' d nd (fallX X Y ks) ∧ Strs w' d' nd' (fallY X Y ks) ∧ nd ≤ 1048576 ∧ nd' ≤ 1048576) ∧ Below W.heap.size W w') := fun W hb => by
    refine (implFall_any a n ca X a' n' ca' Y ka m kc ks W (HX.out _ hb).1 (HX.out _ hb).2.1 (HK.out _ hb) (by omega) (by omega) (by omega)).mono ?_
    rintro e y1 ⟨⟨v1, rfl, A, C, A', C', rfl, o1, o2, _⟩, hb1⟩
    exact ⟨⟨A, _, C, A', _, C', rfl, o1.strs, o2.strs, HFL.out.1, HFL.out.2⟩, hb1⟩
  obtain ⟨O, hO⟩ : ∃ O, openA (fallX X Y ks) (fallY X Y ks) = O := ⟨_, rfl⟩
  have HOp : Hid (∀ W d nd cd d' nd' cd', Below W2.heap.size W2 W → Strs W d nd (fallX X Y ks) → Strs W d' nd' (fallY X Y ks) → nd ≤ 1048576 → nd' ≤ 1048576 → Calls Tryz.prog 19 #[.agg #[.slice d nd cd, .slice d' nd' cd']] W fun e w' => (∃ b nb cb b' nb' cb' va nv vc l', e = .returned (.tuple #[.agg #[.slice b nb cb, .slice b' nb' cb', .int .i64 O.ep, .int .i64 O.nx, .slice va nv vc], .bool O.ok]) ∧ StoAt w' W.heap.size b nb cb O.X b' nb' cb' O.Y va nv vc l' ∧ l'.map UE.u = O.us) ∧ Below W.heap.size W w') := fun W d nd cd d' nd' cd' hb h1 h2 h3 h4 => by
    refine (implOpen_all d nd cd (fallX X Y ks) d' nd' cd' (fallY X Y ks) W h1 h2 h3 h4 (HX.out _ hb).2.2.2.2.1 (HX.out _ hb).2.2.2.2.2).mono ?_
    rintro e y1 ⟨ha1, hb1⟩
    obtain ⟨v, rfl, b, nb, cb, b', nb', cb', va, nv, vc, l', rfl, h5, h6⟩ := ha1.get
    rw [hO] at h5 h6 ⊢
    exact ⟨⟨b, nb, cb, b', nb', cb', va, nv, vc, l', rfl, h5, h6⟩, hb1⟩
  obtain ⟨R, hR⟩ : ∃ R, crA X Y ep nx (l.map UE.u) hs ks = R := ⟨_, rfl⟩
  rw [hR]
  obtain ⟨ok, hok⟩ : ∃ ok, svB X Y ep nx (l.map UE.u) hs = ok := ⟨_, rfl⟩
  rw [hok] at HOk
  have HR : Hid (R = if ok = true ∧ O.ok = true then ⟨O.X, O.Y, O.ep, O.nx, O.us, [], true⟩ else ⟨X, Y, ep, nx, l.map UE.u, hs, false⟩) := by show _ = _; rw [← hR, crA, hok, hO]
  clear hok hO hR hsl
  go_enter Tryz.func7, Tryz.ntmps7
  go_upto_region 1 with fail
  rw [HE.out]
  clear HE
  have d0 := BoxN.cell (HQ.out _ HA0.out).1 0 rfl
  have d1 := BoxN.cell (HQ.out _ HA0.out).1 1 rfl
  go_wp2_with fail
  refine (HFa.out _ HA0.out).mono ?_
  rintro e x3 ⟨⟨d, nd, cd, d', nd', cd', rfl, hf1, hf2, hf3, hf4⟩, hb3⟩
  have HC3 : Hid (Below W2.heap.size W2 x3) := HA0.out.trans (hb3.mono HA0.out.size)
  have HF3 : Hid (Strs x3 d nd (fallX X Y ks) ∧ Strs x3 d' nd' (fallY X Y ks) ∧ nd ≤ 1048576 ∧ nd' ≤ 1048576) := ⟨hf1, hf2, hf3, hf4⟩
  clear hf1 hf2 hf3 hf4 hb3 d0 d1
  go_wp2_with fail
  refine (HOp.out x3 d nd cd d' nd' cd' HC3.out HF3.out.1 HF3.out.2.1 HF3.out.2.2.1 HF3.out.2.2.2).mono ?_
  rintro e x4 ⟨⟨b, nb, cb, b', nb', cb', va, nv, vc, l', rfl, hs4, hm4⟩, hb4⟩
  have HV4 : Hid (BoxN (x4.alloc (.cells #[.slice b nb cb, .slice b' nb' cb', .int .i64 O.ep, .int .i64 O.nx, .slice va nv vc] 29)) x4.heap.size 29 [.slice b nb cb, .slice b' nb' cb', .int .i64 O.ep, .int .i64 O.nx, .slice va nv vc] ∧ StoAt (x4.alloc (.cells #[.slice b nb cb, .slice b' nb' cb', .int .i64 O.ep, .int .i64 O.nx, .slice va nv vc] 29)) x3.heap.size b nb cb O.X b' nb' cb' O.Y va nv vc l' ∧ l'.map UE.u = O.us ∧ w.heap.size + 1 < x3.heap.size) := ⟨BoxN.new _ _ _, hs4.stays ((Below.refl _ _).alloc (Nat.le_refl _) _), hm4, by have := HC3.out.size; omega⟩
  have HC4 : Hid (Below W2.heap.size W2 (x4.alloc (.cells #[.slice b nb cb, .slice b' nb' cb', .int .i64 O.ep, .int .i64 O.nx, .slice va nv vc] 29))) := (HC3.out.trans (hb4.mono HC3.out.size)).alloc (HC3.out.trans (hb4.mono HC3.out.size)).size _
  clear hs4 hm4 hb4 HC3 HF3
  go_upto_region 2 with fail
  obtain ⟨w4, hw4⟩ : ∃ w4, x4.alloc (.cells #[.slice b nb cb, .slice b' nb' cb', .int .i64 O.ep, .int .i64 O.nx, .slice va nv vc] 29) = w4 := ⟨_, rfl⟩
  rw [hw4] at HV4 HC4 ⊢
  clear hw4
  generalize x4.heap.size = bs at *
  obtain ⟨c0, c1, c2, c3, c4, c5⟩ := (show _ ∧ _ ∧ _ ∧ _ ∧ _ ∧ _ from ⟨BoxN.cell (HQ.out _ HC4.out).1 0 rfl, BoxN.cell (HQ.out _ HC4.out).1 1 rfl, BoxN.cell (HQ.out _ HC4.out).1 2 rfl, BoxN.cell (HQ.out _ HC4.out).1 3 rfl, BoxN.cell (HQ.out _ HC4.out).1 4 rfl, BoxN.cell (HQ.out _ HC4.out).1 5 rfl⟩)
  go_wp2_with fail
  refine (HOk.out _ HC4.out).mono ?_
  rintro e y5 ⟨rfl, hb5⟩
  have HV : Hid (BoxN y5 bs 29 [.slice b nb cb, .slice b' nb' cb', .int .i64 O.ep, .int .i64 O.nx, .slice va nv vc] ∧ StoAt y5 x3.heap.size b nb cb O.X b' nb' cb' O.Y va nv vc l' ∧ l'.map UE.u = O.us ∧ w.heap.size + 1 < x3.heap.size) := ⟨HV4.out.1.stays hb5, HV4.out.2.1.stays hb5, HV4.out.2.2.1, HV4.out.2.2.2⟩
  have HCv : Hid (Below W2.heap.size W2 y5) := HC4.out.trans (hb5.mono HC4.out.size)
  clear hb5 HV4 HC4 c0 c1 c2 c3 c4 c5
  cases ok with
  | false =>
    obtain ⟨c0, c1, c2, c3, c4, c5⟩ := (show _ ∧ _ ∧ _ ∧ _ ∧ _ ∧ _ from ⟨BoxN.cell (HQ.out _ HCv.out).1 0 rfl, BoxN.cell (HQ.out _ HCv.out).1 1 rfl, BoxN.cell (HQ.out _ HCv.out).1 2 rfl, BoxN.cell (HQ.out _ HCv.out).1 3 rfl, BoxN.cell (HQ.out _ HCv.out).1 4 rfl, BoxN.cell (HQ.out _ HCv.out).1 5 rfl⟩)
    go_wp2_with fail
    refine (HCp.out _ HCv.out).mono ?_
    rintro e z2 ⟨⟨b, cb, b', cb', va, vc, l', pa, pc, rfl, hs1, hm1, hk1⟩, hb2⟩
    have HC9 : Hid (Below W2.heap.size W2 z2) := HCv.out.trans (hb2.mono HCv.out.size)
    have HSV : Hid (SvAt z2 y5.heap.size b n cb X b' n' cb' Y va un vc l' pa hn pc hs ∧ l'.map UE.u = l.map UE.u ∧ SvBeh y5.heap.size b b' va l' pa) := ⟨hs1, hm1, hk1⟩
    have HBw : Hid (Below w.heap.size w z2) := HB2.out.trans (HC9.out.mono HB2.out.size)
    have hs3 : w.heap.size + 1 < y5.heap.size := by have := HCv.out.size; omega
    obtain ⟨r0, r1, r2, r3, r4, r5⟩ := (show _ ∧ _ ∧ _ ∧ _ ∧ _ ∧ _ from ⟨BoxN.cell (HQ.out _ HC9.out).2 0 rfl, BoxN.cell (HQ.out _ HC9.out).2 1 rfl, BoxN.cell (HQ.out _ HC9.out).2 2 rfl, BoxN.cell (HQ.out _ HC9.out).2 3 rfl, BoxN.cell (HQ.out _ HC9.out).2 4 rfl, BoxN.cell (HQ.out _ HC9.out).2 5 rfl⟩)
    obtain ⟨f0, f1, f2, f3, f4, f5⟩ := (show _ ∧ _ ∧ _ ∧ _ ∧ _ ∧ _ from ⟨BoxN.frozen (HQ.out _ HC9.out).2 0, BoxN.frozen (HQ.out _ HC9.out).2 1, BoxN.frozen (HQ.out _ HC9.out).2 2, BoxN.frozen (HQ.out _ HC9.out).2 3, BoxN.frozen (HQ.out _ HC9.out).2 4, BoxN.frozen (HQ.out _ HC9.out).2 5⟩)
    clear HQ HX HC9 hs1 hm1 hk1 hb2 HCp HOk HFa HOp c0 c1 c2 c3 c4 c5
    go_wp2_with fail
    refine bodyPost_ret (v := .tuple #[.agg #[.slice b n cb, .slice b' n' cb', .int .i64 ep, .int .i64 nx, .slice va un vc, .slice pa hn pc], .bool false]) (by simp [results, Tryz.f7, go_sem, r0, r1, r2, r3, r4, r5]) rfl ?_
    rw [HR.out, if_neg (by simp_all)]
    refine ⟨⟨_, rfl, b, n, cb, b', n', cb', va, un, vc, l', pa, hn, pc, rfl, (HSV.out.1.set6 (by omega) _ _ _ _ _ _).low (by omega), HSV.out.2.1, fun h => ?_⟩, below_set6 HBw.out (by omega) _ _ _ _ _ _⟩
    obtain ⟨m9, h1, h2, h3⟩ := HSV.out.2.2; exact ⟨m9, by omega, h2, h3⟩
  | true =>
    cases hOo : O.ok with
    | false =>
      rw [hOo] at HR
      obtain ⟨c0, c1, c2, c3, c4, c5⟩ := (show _ ∧ _ ∧ _ ∧ _ ∧ _ ∧ _ from ⟨BoxN.cell (HQ.out _ HCv.out).1 0 rfl, BoxN.cell (HQ.out _ HCv.out).1 1 rfl, BoxN.cell (HQ.out _ HCv.out).1 2 rfl, BoxN.cell (HQ.out _ HCv.out).1 3 rfl, BoxN.cell (HQ.out _ HCv.out).1 4 rfl, BoxN.cell (HQ.out _ HCv.out).1 5 rfl⟩)
      go_wp2_with fail
      refine (HCp.out _ HCv.out).mono ?_
      rintro e z2 ⟨⟨b, cb, b', cb', va, vc, l', pa, pc, rfl, hs1, hm1, hk1⟩, hb2⟩
      have HC9 : Hid (Below W2.heap.size W2 z2) := HCv.out.trans (hb2.mono HCv.out.size)
      have HSV : Hid (SvAt z2 y5.heap.size b n cb X b' n' cb' Y va un vc l' pa hn pc hs ∧ l'.map UE.u = l.map UE.u ∧ SvBeh y5.heap.size b b' va l' pa) := ⟨hs1, hm1, hk1⟩
      have HBw : Hid (Below w.heap.size w z2) := HB2.out.trans (HC9.out.mono HB2.out.size)
      have hs3 : w.heap.size + 1 < y5.heap.size := by have := HCv.out.size; omega
      obtain ⟨r0, r1, r2, r3, r4, r5⟩ := (show _ ∧ _ ∧ _ ∧ _ ∧ _ ∧ _ from ⟨BoxN.cell (HQ.out _ HC9.out).2 0 rfl, BoxN.cell (HQ.out _ HC9.out).2 1 rfl, BoxN.cell (HQ.out _ HC9.out).2 2 rfl, BoxN.cell (HQ.out _ HC9.out).2 3 rfl, BoxN.cell (HQ.out _ HC9.out).2 4 rfl, BoxN.cell (HQ.out _ HC9.out).2 5 rfl⟩)
      obtain ⟨f0, f1, f2, f3, f4, f5⟩ := (show _ ∧ _ ∧ _ ∧ _ ∧ _ ∧ _ from ⟨BoxN.frozen (HQ.out _ HC9.out).2 0, BoxN.frozen (HQ.out _ HC9.out).2 1, BoxN.frozen (HQ.out _ HC9.out).2 2, BoxN.frozen (HQ.out _ HC9.out).2 3, BoxN.frozen (HQ.out _ HC9.out).2 4, BoxN.frozen (HQ.out _ HC9.out).2 5⟩)
      clear HQ HX HC9 hs1 hm1 hk1 hb2 HCp HOk HFa HOp c0 c1 c2 c3 c4 c5
      go_wp2_with fail
      refine bodyPost_ret (v := .tuple #[.agg #[.slice b n cb, .slice b' n' cb', .int .i64 ep, .int .i64 nx, .slice va un vc, .slice pa hn pc], .bool false]) (by simp [results, Tryz.f7, go_sem, r0, r1, r2, r3, r4, r5]) rfl ?_
      rw [HR.out, if_neg (by simp_all)]
      refine ⟨⟨_, rfl, b, n, cb, b', n', cb', va, un, vc, l', pa, hn, pc, rfl, (HSV.out.1.set6 (by omega) _ _ _ _ _ _).low (by omega), HSV.out.2.1, fun h => ?_⟩, below_set6 HBw.out (by omega) _ _ _ _ _ _⟩
      obtain ⟨m9, h1, h2, h3⟩ := HSV.out.2.2; exact ⟨m9, by omega, h2, h3⟩
    | true =>
      rw [hOo] at HR
      obtain ⟨o0, o1, o2, o3, o4⟩ := (show _ ∧ _ ∧ _ ∧ _ ∧ _ from ⟨BoxN.cell HV.out.1 0 rfl, BoxN.cell HV.out.1 1 rfl, BoxN.cell HV.out.1 2 rfl, BoxN.cell HV.out.1 3 rfl, BoxN.cell HV.out.1 4 rfl⟩)
      obtain ⟨r0, r1, r2, r3, r4, r5⟩ := (show _ ∧ _ ∧ _ ∧ _ ∧ _ ∧ _ from ⟨BoxN.cell (HQ.out _ HCv.out).2 0 rfl, BoxN.cell (HQ.out _ HCv.out).2 1 rfl, BoxN.cell (HQ.out _ HCv.out).2 2 rfl, BoxN.cell (HQ.out _ HCv.out).2 3 rfl, BoxN.cell (HQ.out _ HCv.out).2 4 rfl, BoxN.cell (HQ.out _ HCv.out).2 5 rfl⟩)
      obtain ⟨f0, f1, f2, f3, f4, f5⟩ := (show _ ∧ _ ∧ _ ∧ _ ∧ _ ∧ _ from ⟨BoxN.frozen (HQ.out _ HCv.out).2 0, BoxN.frozen (HQ.out _ HCv.out).2 1, BoxN.frozen (HQ.out _ HCv.out).2 2, BoxN.frozen (HQ.out _ HCv.out).2 3, BoxN.frozen (HQ.out _ HCv.out).2 4, BoxN.frozen (HQ.out _ HCv.out).2 5⟩)
      have HBw : Hid (Below w.heap.size w y5) := HB2.out.trans (HCv.out.mono HB2.out.size)
      clear HQ HX HCv HCp HOk HFa HOp
      go_wp2_with fail
      refine bodyPost_ret (v := .tuple #[.agg #[.slice b nb cb, .slice b' nb' cb', .int .i64 O.ep, .int .i64 O.nx, .slice va nv vc, .slice none 0 0], .bool true]) (by simp [results, Tryz.f7, go_sem, r0, r1, r2, r3, r4, r5]) rfl ?_
      rw [HR.out, if_pos (by simp_all)]
      refine ⟨⟨_, rfl, b, nb, cb, b', nb', cb', va, nv, vc, l', none, 0, 0, rfl, ⟨(HV.out.2.1.set6 (by have := HV.out.2.2.2; omega) _ _ _ _ _ _).low (by have := HV.out.2.2.2; omega), World.ownsRow_nil _ _ _ _, by simp⟩, HV.out.2.2.1, fun _ => ⟨y5.heap.size, HBw.out.size, HV.out.2.1.inn, fun q e => by cases e⟩⟩, below_set6 HBw.out (by omega) _ _ _ _ _ _⟩

end Go.Proofs.YtlkgopoicpnacaaGreatDoor

namespace Go.Proofs.YtlkgopoicpnacaaGreatDoor
open Go.RowKit
set_option linter.unusedVariables false

set_option maxHeartbeats 400000 in
theorem sameB_same (a b : Option Addr) (len ca cb : Nat) (xs : List Int) (w : World) (hx : Seg w a len xs) (hy : Seg w b len xs) (hla : len ≤ 1099511627776) :
    Calls Tryz.prog 25 #[.slice a len ca, .slice b len cb] w fun e w' => e = .returned (.bool true) ∧ ∃ n, w' = w.drewN n := by
  have HX : Hid (Seg w a len xs) := hx
  have HY : Hid (Seg w b len xs) := hy
  clear hx hy
  have hne : ((len : Int) != (len : Int)) = false := by simp
  go_enter Tryz.func25, Tryz.ntmps25
  go_wp2
  go_loopw [5] (fun i wr => ∃ k : Nat, k ≤ len ∧ i = .int .i64 k ∧ Hid (∃ n, wr = w.drewN n)) (fun i _ => len - (intOf i).toNat)
  case atStart => exact ⟨0, Nat.zero_le _, rfl, ⟨0, rfl⟩⟩
  case round =>
    obtain ⟨k, hk, rfl, HW⟩ := hrel
    by_cases hlt : k < len
    · obtain ⟨ba, oa, rfl, hba, hca⟩ : ∃ b off, a = some ⟨b, off, none⟩ ∧ b < w.heap.size ∧ ∀ i, i < len → w.cell? ⟨b, off + i, none⟩ = some (.int .u8 (xs.getD i 0)) := by
        rcases HX.out.2.2 with h | h
        · omega
        · exact h
      obtain ⟨bb, ob, rfl, hbb, hcb⟩ : ∃ b' off, b = some ⟨b', off, none⟩ ∧ b' < w.heap.size ∧ ∀ i, i < len → w.cell? ⟨b', off + i, none⟩ = some (.int .u8 (xs.getD i 0)) := by
        rcases HY.out.2.2 with h | h
        · omega
        · exact h
      have ha : wr.cell? ⟨ba, oa + k, none⟩ = some (.int .u8 (xs.getD k 0)) := by obtain ⟨n, rfl⟩ := HW; exact hca k hlt
      have hb : wr.cell? ⟨bb, ob + k, none⟩ = some (.int .u8 (xs.getD k 0)) := by obtain ⟨n, rfl⟩ := HW; exact hcb k hlt
      clear hca hcb
      have hki : (k : Int) < (len : Int) := by omega
      have hk0 : (0 : Int) ≤ (k : Int) := by omega
      go_wp2
      go_quiet (fail)
      go_wp2
      go_roundw
      case rel =>
        refine ⟨k + 1, by omega, by go_num, ?_⟩
        obtain ⟨n, rfl⟩ := HW.out
        exact ⟨_, World.drewN_drewN _ _ _⟩
      case measure => simp [intOf]; omega
    · go_wp2
      go_ret
      exact ⟨rfl, HW.out⟩

end Go.Proofs.YtlkgopoicpnacaaGreatDoor

namespace Go.Proofs.YtlkgopoicpnacaaGreatDoor
open Go.RowKit
set_option linter.unusedVariables false

set_option maxRecDepth 10000 in
set_option maxHeartbeats 3200000 in
theorem sameUs_same (a : Option Addr) (n c lo : Nat) (l : List UE) (b : Option Addr) (m d lo' : Nat) (l' : List UE) (w : World) (h : UpRow w lo (.slice a n c) l) (h' : UpRow w lo' (.slice b m d) l') (hn : n = l.length) (hm : m = l'.length) (he : l.map UE.u = l'.map UE.u) (hl : n ≤ 1099511627776) (hz : ∀ e ∈ l, e.n ≤ 1099511627776) :
    Calls Tryz.prog 11 #[.slice a n c, .slice b m d] w fun e w' => e = .returned (.bool true) ∧ ∃ k, w' = w.drewN k := by
  obtain rfl : n = m := by
    have := congrArg List.length he
    rw [List.length_map, List.length_map] at this
    omega
  have HX : Hid (∀ k : Nat, UpRow (w.drewN k) lo (.slice a n c) l ∧ UpRow (w.drewN k) lo' (.slice b n d) l') := fun k => ⟨h.stays (below_drewN (Below.refl _ _) k), h'.stays (below_drewN (Below.refl _ _) k)⟩
  have HN : Hid (n = l.length) := hn
  have HM : Hid (n = l'.length) := hm
  have HE : Hid (l.map UE.u = l'.map UE.u) := he
  have HZ : Hid (∀ e ∈ l, e.n ≤ 1099511627776) := hz
  clear h h' hn hm he hz
  have hne : ((n : Int) != (n : Int)) = false := by simp
  go_enter Tryz.func11, Tryz.ntmps11
  go_wp2_with fail
  go_loopw [5] (fun i wr => ∃ k : Nat, k ≤ n ∧ i = .int .i64 k ∧ Hid (∃ q, wr = w.drewN q)) (fun i _ => n - (intOf i).toNat)
  case atStart => exact ⟨0, Nat.zero_le _, rfl, ⟨0, rfl⟩⟩
  case round =>
    obtain ⟨k, hk, rfl, HW⟩ := hrel
    by_cases hlt : k < n
    · have hkl : k < l.length := by rw [← HN.out]; exact hlt
      have hkm : k < l'.length := by rw [← HM.out]; exact hlt
      have HR : Hid (UpRow wr lo (.slice a n c) l ∧ UpRow wr lo' (.slice b n d) l') := by obtain ⟨q, rfl⟩ := HW.out; exact HX.out q
      obtain ⟨g, rfl, g0, g1, g2, g3, _⟩ := HR.out.1.at HN.out hkl
      obtain ⟨q, rfl, q0, q1, q2, q3, _⟩ := HR.out.2.at HM.out hkm
      have HU : Hid ((l[k]).u = (l'[k]).u) := by
        show _ = _
        have h1 := congrArg (fun z => z[k]?) HE.out
        simpa only [List.getElem?_map, List.getElem?_eq_getElem hkl, List.getElem?_eq_getElem hkm, Option.map_some, Option.some.injEq] using h1
      have HSx : Hid (Seg wr (l[k]).a (l[k]).n (l[k]).u.zs) := (HR.out.1.2.1 _ (List.getElem_mem hkl)).seg
      have HSy : Hid (Seg wr (l'[k]).a (l'[k]).n (l'[k]).u.zs) := (HR.out.2.2.1 _ (List.getElem_mem hkm)).seg
      have hzx : (l[k]).n ≤ 1099511627776 := HZ.out _ (List.getElem_mem hkl)
      generalize l[k] = x at *
      generalize l'[k] = y at *
      have hxy : x.n = y.n := by have h1 := HSx.out.1; have h2 := HSy.out.1; rw [HU.out] at h1; omega
      rw [← HU.out] at q0 q1 q3 HSy
      rw [← hxy] at q2 HSy
      have HSt : Hid (∀ j : Nat, Calls Tryz.prog 25 #[.slice x.a x.n x.c, .slice y.a x.n y.c] (wr.drewN j) fun e w' => e = .returned (.bool true) ∧ ∃ n, w' = (wr.drewN j).drewN n) := fun j => sameB_same x.a y.a x.n x.c y.c x.u.zs _ (HSx.out.below (below_drewN (Below.refl _ _) j)) (HSy.out.below (below_drewN (Below.refl _ _) j)) hzx
      have hki : (k : Int) < (n : Int) := by omega
      have hk0 : (0 : Int) ≤ (k : Int) := by omega
      have hw1 : (x.u.want != x.u.want) = false := by simp
      have hd1 : (x.u.done != x.u.done) = false := by simp
      clear hxy HU HR HSx HSy hkl hkm
      go_wp2_with fail
      go_quiet (first | (go_at_call 25; exact Calls.quiet_of (HSt.out _)))
      have HQ : Hid (∃ q, wr.drewN nq = w.drewN q) := by
        obtain ⟨q, rfl⟩ := HW.out
        exact ⟨_, World.drewN_drewN _ _ _⟩
      go_wp2_with fail
      go_roundw
      case rel => exact ⟨k + 1, by omega, by go_num, HQ⟩
      case measure => simp [intOf]; omega
    · go_wp2_with fail
      go_ret
      exact ⟨rfl, HW.out⟩

end Go.Proofs.YtlkgopoicpnacaaGreatDoor

namespace Go.Proofs.YtlkgopoicpnacaaGreatDoor
open Go.RowKit
set_option linter.unusedVariables false

set_option maxRecDepth 10000 in
set_option maxHeartbeats 3200000 in
theorem drawKept_any (a : Option Addr) (len cap : Nat) (zs : List Int) (w : World) (hs : Seg w a len zs) (hl : len ≤ 1099511627776) :
    Calls Tryz.prog 8 #[.slice a len cap] w fun e w' => (∃ A C l, e = .returned (.slice A 30 C) ∧ OwnBo w' w.heap.size (.slice A 30 C) 30 l) ∧ Below w.heap.size w w' := by
  obtain ⟨i0, hi, hz0, hz1, hz2⟩ := info_parts info_bool
  have HS : Hid (Seg w a len zs) := hs
  clear hs
  go_enter Tryz.func8, Tryz.ntmps8
  go_wp2_with fail
  refine (l1New_any a len cap zs w HS.out hl).mono ?_
  rintro e wn ⟨rfl, hcn, hbn⟩
  have HBn : Hid (Below w.heap.size w wn) := hbn
  obtain ⟨cc, hcc⟩ : ∃ cc, w.heap.size = cc := ⟨_, rfl⟩
  have HCC : Hid (w.heap.size = cc) := hcc
  rw [hcc] at hcn ⊢
  have HC : Hid (Cur wn cc cc a len cap zs) := hcn
  clear hcn hbn hcc HS
  have hcw : cc < wn.heap.size := HC.out.lt
  have HD1 : Hid (DK wn (wn.alloc (.cells #[] 4)) cc cc a len cap zs wn.heap.size 0 0 []) := ⟨HC.out.new _, World.grownBy_alloc wn _ _, World.ownsRow_lit wn #[] 0 (Nat.le_refl _) (Nat.zero_le _) rfl⟩
  go_wp2_with fail
  obtain ⟨w1, hw1⟩ : ∃ w1, wn.alloc (.cells #[] 4) = w1 := ⟨_, rfl⟩
  rw [hw1] at HD1 ⊢
  clear hw1 HC
  go_loopw [4, 5] (fun v i wr => ∃ (j g cp : Nat) (l : List Bool), i = .int .i64 (j : Int) ∧ v = .slice (some ⟨g, 0, none⟩) j cp ∧ j ≤ 30 ∧ Hid (DK wn wr cc cc a len cap zs g j cp l)) (fun _ i _ => 30 - (intOf i).toNat)
  case atStart => exact ⟨0, wn.heap.size, 0, [], rfl, rfl, by omega, HD1⟩
  case round =>
    clear HD1
    obtain ⟨j, g, cp, l, rfl, rfl, hj30, HD⟩ := hrel
    by_cases hj : j < 30
    case neg =>
      obtain rfl : j = 30 := by omega
      go_wp2_with fail
      go_ret
      refine ⟨⟨_, cp, l, rfl, ⟨own_low HD.out.2.2 (by have := HBn.out.size; have := HCC.out; omega), trivial⟩⟩, ?_⟩
      exact HBn.out.grown HD.out.2.1 HBn.out.size (fun q e => by injection e with e; have := HCC.out; omega)
    · have hji : (j : Int) < 30 := by omega
      go_wp2_with fail
      refine (l1Once_any cc cc a len cap zs 2 wr HD.out.1 hl (by omega) (by omega)).mono ?_
      rintro e w4 ⟨y, rfl, hc4, hg4⟩
      have HD4 : Hid (DK wn w4 cc cc a len cap zs g j cp l) := HD.out.call hc4 hg4 hcw
      have hsz := HD4.out.2.1.size
      clear hc4 hg4 HD
      have HN2 : Hid (∀ j u, [Value.bool y][j]? = some u → (w4.alloc (.cells #[.bool y] 4)).cell? ((⟨w4.heap.size, 0, none⟩ : Addr).add j) = some u) := oneB w4 y
      go_wp2_with (at_builtin; refine wpList_append_own _ rfl _ _ 38 rfl wn.heap.size 4 i0 (.bool false) 1 1 Tryz.underlying38 hi hz0 hz1 hz2 rfl (by decide) (.slice (some ⟨g, 0, none⟩) j cp) j _ rfl (HD4.out.new _).2.2 ⟨w4.heap.size, 0, none⟩ 1 1 [.bool y] rfl rfl HN2.out (by simp [Value.oneCell']) (by unfold maxLen; omega) (by omega) (by simp; omega) ?_; intro v5 w5 hown5 hgrow5 _; refine Hid.out ?_)
      refine hidden ?_
      obtain ⟨g5, cp5, rfl, hd5⟩ := (HD4.out.new _).app hcw hown5 hgrow5
      have HD5 : Hid (DK wn w5 cc cc a len cap zs g5 (j + 1) cp5 (l ++ [y])) := hd5
      clear hown5 hgrow5 hd5 HN2 HD4
      go_wp2_with fail
      go_roundw
      case rel => exact ⟨j + 1, g5, cp5, l ++ [y], by go_num, rfl, by omega, HD5⟩
      case measure => simp [intOf]; omega

end Go.Proofs.YtlkgopoicpnacaaGreatDoor

namespace Go.Proofs.YtlkgopoicpnacaaGreatDoor
open Go.RowKit
set_option linter.unusedVariables false

set_option maxHeartbeats 400000 in
theorem big_any (a : Option Addr) (len cap : Nat) (w : World) (hl : len ≤ maxLen) :
    Calls Tryz.prog 4 #[.slice a len cap] w fun e w' => e = .returned (.bool (decide ((1048576 : Int) < (len : Int)))) ∧ w' = w := by
  go_enter Tryz.func4, Tryz.ntmps4
  go_wp2
  go_ret
  exact ⟨rfl, rfl⟩

end Go.Proofs.YtlkgopoicpnacaaGreatDoor
