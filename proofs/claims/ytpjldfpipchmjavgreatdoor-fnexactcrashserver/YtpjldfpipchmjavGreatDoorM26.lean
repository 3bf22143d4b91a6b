/- What the specification's SyncAll answers. The library's Clone of answers that wait: the same in memory of its own. An append onto a row of the call's own from a slice that may be nil: as an operation, as a step of a region that draws. No program in it. The library's Clone of texts, and the program's copy of a disk: the same in memory of its own. What the program's copy of a disk answers. The library's Clone of bytes: the same bytes in memory of its own. What the program's copy of an upload answers. -/
import Derived.Test.YtpjldfpipchmjavGreatDoorM22
import Derived.Test.YtpjldfpipchmjavGreatDoorM24
import Derived.Test.YtpjldfpipchmjavGreatDoorM25
import Derived.Test.YtpjldfpipchmjavGreatDoorM22
import Derived.Test.YtpjldfpipchmjavGreatDoorM06
import Derived.Test.YtpjldfpipchmjavGreatDoorM22
import Derived.Test.YtpjldfpipchmjavGreatDoorM22
import Derived.Deep.RegionHeld3
import Derived.Lib.SliceRun
import Derived.Deep.RegionLaw
import Derived.Deep.AppendSrc
import Derived.Laws.AppendOwn
import Derived.WalkKit
import Derived.Deep.CutBlock
import Derived.Test.YtpjldfpipchmjavGreatDoorM01
import Derived.Test.YtpjldfpipchmjavGreatDoorM03
import Derived.Test.YtpjldfpipchmjavGreatDoorM03
namespace Go.Proofs.YtpjldfpipchmjavGreatDoor
open Go.RowKit
set_option linter.unusedVariables false

set_option maxRecDepth 10000 in
set_option maxHeartbeats 6400000 in
theorem specSyncAll_any (a : Option Addr) (n ca : Nat) (X : List ByteArray) (a' : Option Addr) (n' ca' : Nat) (Y : List ByteArray) (ep nx : Int) (ua : Option Addr) (un uc lo : Nat) (l : List UE) (ha : Option Addr) (hn hc : Nat) (hs : List Hd) (w : World) (h1 : Strs w a n X) (h2 : Strs w a' n' Y) (hln : n ≤ 1048576) (hln' : n' ≤ 1048576) (hzx : ∀ x ∈ X, x.size ≤ 1048576) (hu : UpRow w lo (.slice ua un uc) l) (hun : un = l.length) (hul : un ≤ 1048576) (hz : ∀ e ∈ l, e.n ≤ 1099511627776) (hh : Helds w ha hn hs) (hhl : hn ≤ 1048576) :
    Calls Tryz.prog 21 #[.agg #[.slice a n ca, .slice a' n' ca', .int .i64 ep, .int .i64 nx, .slice ua un uc, .slice ha hn hc]] w fun e w' => (∃ v u, e = .returned (.tuple #[v, u]) ∧ AnsVL false w.heap.size X (saY X Y ep nx (l.map UE.u) hs) ep nx (l.map UE.u) (saH X Y ep nx (l.map UE.u) hs) (saL X Y ep nx (l.map UE.u) hs) v u w') ∧ Below w.heap.size w w' := by
  obtain ⟨W2, hW2⟩ : ∃ W2, (w.alloc (.cells #[.slice a n ca, .slice a' n' ca', .int .i64 ep, .int .i64 nx, .slice ua un uc, .slice ha hn hc] 39)).alloc (.cells #[.slice none 0 0, .slice none 0 0, .int .i64 0, .int .i64 0, .slice none 0 0, .slice none 0 0] 39) = W2 := ⟨_, rfl⟩
  have HE : Hid ((w.alloc (.cells #[.slice a n ca, .slice a' n' ca', .int .i64 ep, .int .i64 nx, .slice ua un uc, .slice ha hn hc] 39)).alloc (.cells #[.slice none 0 0, .slice none 0 0, .int .i64 0, .int .i64 0, .slice none 0 0, .slice none 0 0] 39) = W2) := hW2
  have HB2 : Hid (Below w.heap.size w W2) := by show Below _ _ _; rw [← hW2]; exact ((Below.refl _ _).alloc (Nat.le_refl _) _).alloc (by simp) _
  have HZ2 : Hid (W2.heap.size = w.heap.size + 2) := by show _ = _; rw [← hW2]; simp
  have q1 : BoxN W2 w.heap.size 39 [.slice a n ca, .slice a' n' ca', .int .i64 ep, .int .i64 nx, .slice ua un uc, .slice ha hn hc] := by rw [← hW2]; exact (BoxN.new _ _ _).alloc _
  have q2 : BoxN W2 (w.heap.size + 1) 39 [.slice none 0 0, .slice none 0 0, .int .i64 0, .int .i64 0, .slice none 0 0, .slice none 0 0] := by
    rw [← hW2]
    have := BoxN.new (w.alloc (.cells #[.slice a n ca, .slice a' n' ca', .int .i64 ep, .int .i64 nx, .slice ua un uc, .slice ha hn hc] 39)) 39 [.slice none 0 0, .slice none 0 0, .int .i64 0, .int .i64 0, .slice none 0 0, .slice none 0 0]
    rwa [World.size_alloc] at this
  have HQ : Hid (∀ W, Below W2.heap.size W2 W → BoxN W w.heap.size 39 [.slice a n ca, .slice a' n' ca', .int .i64 ep, .int .i64 nx, .slice ua un uc, .slice ha hn hc] ∧ BoxN W (w.heap.size + 1) 39 [.slice none 0 0, .slice none 0 0, .int .i64 0, .int .i64 0, .slice none 0 0, .slice none 0 0]) := fun W h => ⟨q1.stays h, q2.stays h⟩
  have HX : Hid (∀ W, Below W2.heap.size W2 W → Strs W a n X ∧ Strs W a' n' Y ∧ UpRow W lo (.slice ua un uc) l ∧ Helds W ha hn hs) := fun W h => by
    have hw := HB2.out.trans (h.mono HB2.out.size)
    exact ⟨h1.below hw, h2.below hw, hu.stays hw, hh.below hw⟩
  have HL : Hid (un = l.length ∧ (∀ e ∈ l, e.n ≤ 1099511627776) ∧ hs.length = hn ∧ (∀ s ∈ hs, hd64 s) ∧ X.length = n ∧ Y.length = n' ∧ ∀ x ∈ X, x.size ≤ 1048576) := ⟨hun, hz, hh.1, hh.2.1, h1.1, h2.1, hzx⟩
  have HA0 : Hid (Below W2.heap.size W2 W2) := Below.refl _ _
  have hs2 : w.heap.size + 1 < W2.heap.size := q2.lt
  have hne : w.heap.size ≠ w.heap.size + 1 := by omega
  clear hW2 q1 q2 h1 h2 hu hun hz hh hzx
  have HCp : Hid (∀ W, Below W2.heap.size W2 W → Calls Tryz.prog 41 #[.agg #[.slice a n ca, .slice a' n' ca', .int .i64 ep, .int .i64 nx, .slice ua un uc, .slice ha hn hc]] W fun e w' => (∃ b cb b' cb' va vc l' pa pc, e = .returned (.agg #[.slice b n cb, .slice b' n' cb', .int .i64 ep, .int .i64 nx, .slice va un vc, .slice pa hn pc]) ∧ SvAt w' W.heap.size b n cb X b' n' cb' Y va un vc l' pa hn pc hs ∧ l'.map UE.u = l.map UE.u) ∧ Below W.heap.size W w') := fun W hb => by
    refine (specVcopy_any a n ca X a' n' ca' Y ep nx ua un uc lo l ha hn hc hs W (HX.out _ hb).1 (HX.out _ hb).2.1 hln hln' (HX.out _ hb).2.2.1 HL.out.1 hul HL.out.2.1 (HX.out _ hb).2.2.2 hhl).mono ?_
    rintro e y1 ⟨⟨v1, rfl, hv1⟩, hb1⟩
    obtain ⟨b, cb, b', cb', va, vc, l', pa, pc, rfl, hs1, hm1, _⟩ := hv1.get
    rw [List.length_map, ← HL.out.1, HL.out.2.2.2.2.1, HL.out.2.2.2.2.2.1, HL.out.2.2.1] at hs1 ⊢
    exact ⟨⟨b, cb, b', cb', va, vc, l', pa, pc, rfl, hs1, hm1⟩, hb1⟩
  have HSy : Hid (∀ W, Below W2.heap.size W2 W → SOk X Y ep nx (l.map UE.u) → Calls Tryz.prog 52 #[.agg #[.slice a n ca, .slice a' n' ca', .int .i64 ep, .int .i64 nx, .slice ua un uc]] W fun e w' => (∃ b cb b' cb' va vc l', e = .returned (.agg #[.slice b n cb, .slice b' n cb', .int .i64 ep, .int .i64 nx, .slice va un vc]) ∧ StoAt w' W.heap.size b n cb X b' n cb' X va un vc l' ∧ l'.map UE.u = l.map UE.u) ∧ Below W.heap.size W w') := fun W hb hok => by
    refine (specSync_any a n ca X a' n' ca' Y ep nx ua un uc lo l W (HX.out _ hb).1 (HX.out _ hb).2.1 hln hln' HL.out.2.2.2.2.2.2 (HX.out _ hb).2.2.1 HL.out.1 hul HL.out.2.1).mono ?_
    rintro e y1 ⟨⟨v1, rfl, hv1⟩, hb1⟩
    rw [syncY_len hok] at hv1
    obtain ⟨b, cb, b', cb', va, vc, l', rfl, hs1, hm1⟩ := hv1.get
    rw [List.length_map, ← HL.out.1, HL.out.2.2.2.2.1] at hs1 ⊢
    exact ⟨⟨b, cb, b', cb', va, vc, l', rfl, hs1, hm1⟩, hb1⟩
  have HOk : Hid (∀ W, Below W2.heap.size W2 W → Calls Tryz.prog 8 #[.agg #[.slice a n ca, .slice a' n' ca', .int .i64 ep, .int .i64 nx, .slice ua un uc, .slice ha hn hc]] W fun e w' => e = .returned (.bool (svB X Y ep nx (l.map UE.u) hs)) ∧ Below W.heap.size W w') := fun W hb =>
    specSvok_any a n ca X a' n' ca' Y ep nx ua un uc lo l ha hn hc hs W (HX.out _ hb).1 (HX.out _ hb).2.1 hln hln' HL.out.2.2.2.2.2.2 (HX.out _ hb).2.2.1 HL.out.1 hul (HX.out _ hb).2.2.2 (by omega)
  have HBk : Hid (svB X Y ep nx (l.map UE.u) hs = true → SOk X Y ep nx (l.map UE.u)) := svB_sok
  have HRY : Hid (saY X Y ep nx (l.map UE.u) hs = if svB X Y ep nx (l.map UE.u) hs = true then syncY X Y ep nx (l.map UE.u) else Y) := rfl
  have HRH : Hid (saH X Y ep nx (l.map UE.u) hs = if svB X Y ep nx (l.map UE.u) hs = true then [] else hs) := rfl
  have HRL : Hid (saL X Y ep nx (l.map UE.u) hs = if svB X Y ep nx (l.map UE.u) hs = true then hs else []) := rfl
  generalize saY X Y ep nx (l.map UE.u) hs = RY at *
  generalize saH X Y ep nx (l.map UE.u) hs = RH at *
  generalize saL X Y ep nx (l.map UE.u) hs = RL at *
  obtain ⟨ok, hok⟩ : ∃ ok, svB X Y ep nx (l.map UE.u) hs = ok := ⟨_, rfl⟩
  rw [hok] at HOk HBk HRY HRH HRL
  clear hok
  obtain ⟨i0, hi, hz0, hz1, hz2⟩ := info_parts info_held
  obtain ⟨c0, c1, c2, c3, c4, c5⟩ := (show _ ∧ _ ∧ _ ∧ _ ∧ _ ∧ _ from ⟨BoxN.cell (HQ.out _ HA0.out).1 0 rfl, BoxN.cell (HQ.out _ HA0.out).1 1 rfl, BoxN.cell (HQ.out _ HA0.out).1 2 rfl, BoxN.cell (HQ.out _ HA0.out).1 3 rfl, BoxN.cell (HQ.out _ HA0.out).1 4 rfl, BoxN.cell (HQ.out _ HA0.out).1 5 rfl⟩)
  go_enter Tryz.func21, Tryz.ntmps21
  go_upto_region 1 with fail
  rw [HE.out]
  clear HE
  go_wp2_with fail
  refine (HCp.out _ HA0.out).mono ?_
  rintro e y1 ⟨⟨b, cb, b', cb', va, vc, l', pa, pc, rfl, hs1, hm1⟩, hb1⟩
  have HV1 : Hid (VB (y1.alloc (.cells #[.slice b n cb, .slice b' n' cb', .int .i64 ep, .int .i64 nx, .slice va un vc, .slice pa hn pc] 39)) W2.heap.size y1.heap.size b n cb X b' n' cb' Y ep nx va un vc l' pa hn pc hs) := VB.new hs1 hb1.size
  have HC1 : Hid (Below W2.heap.size W2 (y1.alloc (.cells #[.slice b n cb, .slice b' n' cb', .int .i64 ep, .int .i64 nx, .slice va un vc, .slice pa hn pc] 39))) := hb1.alloc hb1.size _
  have HM : Hid (l'.map UE.u = l.map UE.u) := hm1
  clear hs1 hb1 hm1 c0 c1 c2 c3 c4 c5
  obtain ⟨c0, c1, c2, c3, c4, c5⟩ := (show _ ∧ _ ∧ _ ∧ _ ∧ _ ∧ _ from ⟨BoxN.cell (HQ.out _ HC1.out).1 0 rfl, BoxN.cell (HQ.out _ HC1.out).1 1 rfl, BoxN.cell (HQ.out _ HC1.out).1 2 rfl, BoxN.cell (HQ.out _ HC1.out).1 3 rfl, BoxN.cell (HQ.out _ HC1.out).1 4 rfl, BoxN.cell (HQ.out _ HC1.out).1 5 rfl⟩)
  go_wp2_with fail
  obtain ⟨w1, hw1⟩ : ∃ w1, y1.alloc (.cells #[.slice b n cb, .slice b' n' cb', .int .i64 ep, .int .i64 nx, .slice va un vc, .slice pa hn pc] 39) = w1 := ⟨_, rfl⟩
  rw [hw1] at HV1 HC1 ⊢
  clear hw1 c0 c1 c2 c3 c4 c5
  generalize y1.heap.size = bo at *
  refine (HOk.out _ HC1.out).mono ?_
  rintro e y2 ⟨rfl, hb2⟩
  have HV2 : Hid (VB y2 W2.heap.size bo b n cb X b' n' cb' Y ep nx va un vc l' pa hn pc hs) := HV1.out.stays hb2
  have HC2 : Hid (Below W2.heap.size W2 y2) := HC1.out.trans (hb2.mono HC1.out.size)
  have hlo : W2.heap.size ≤ bo := HV1.out.lob
  clear hb2 HV1 HC1
  cases ok with
  | false =>
    obtain ⟨r0, r1, r2, r3, r4, r5⟩ := (show _ ∧ _ ∧ _ ∧ _ ∧ _ ∧ _ from ⟨BoxN.cell (HQ.out _ HC2.out).2 0 rfl, BoxN.cell (HQ.out _ HC2.out).2 1 rfl, BoxN.cell (HQ.out _ HC2.out).2 2 rfl, BoxN.cell (HQ.out _ HC2.out).2 3 rfl, BoxN.cell (HQ.out _ HC2.out).2 4 rfl, BoxN.cell (HQ.out _ HC2.out).2 5 rfl⟩)
    obtain ⟨f0, f1, f2, f3, f4, f5⟩ := (show _ ∧ _ ∧ _ ∧ _ ∧ _ ∧ _ from ⟨BoxN.frozen (HQ.out _ HC2.out).2 0, BoxN.frozen (HQ.out _ HC2.out).2 1, BoxN.frozen (HQ.out _ HC2.out).2 2, BoxN.frozen (HQ.out _ HC2.out).2 3, BoxN.frozen (HQ.out _ HC2.out).2 4, BoxN.frozen (HQ.out _ HC2.out).2 5⟩)
    obtain ⟨o0, o1, o2, o3, o4, o5⟩ := (show _ ∧ _ ∧ _ ∧ _ ∧ _ ∧ _ from ⟨BoxN.cell HV2.out.box 0 rfl, BoxN.cell HV2.out.box 1 rfl, BoxN.cell HV2.out.box 2 rfl, BoxN.cell HV2.out.box 3 rfl, BoxN.cell HV2.out.box 4 rfl, BoxN.cell HV2.out.box 5 rfl⟩)
    have HBw : Hid (Below w.heap.size w y2) := HB2.out.trans (HC2.out.mono HB2.out.size)
    have HL9 : Hid (OwnH (y2.alloc (.cells #[] 72)) y2.heap.size (some ⟨y2.heap.size, 0, none⟩) 0 0 []) := ⟨World.ownsRow_lit y2 #[] 0 (Nat.le_refl _) (Nat.zero_le _) rfl, by simp⟩
    have hs3 : w.heap.size + 1 < y2.heap.size := by have := HC2.out.size; omega
    have HSV : Hid (SvAt y2 W2.heap.size b n cb X b' n' cb' Y va un vc l' pa hn pc hs) := HV2.out.sv
    have q9 : BoxN (y2.alloc (.cells #[] 72)) (w.heap.size + 1) 39 [.slice none 0 0, .slice none 0 0, .int .i64 0, .int .i64 0, .slice none 0 0, .slice none 0 0] := (HQ.out _ HC2.out).2.alloc _
    obtain ⟨u0, u1, u2, u3, u4, u5⟩ := (show _ ∧ _ ∧ _ ∧ _ ∧ _ ∧ _ from ⟨BoxN.cell q9 0 rfl, BoxN.cell q9 1 rfl, BoxN.cell q9 2 rfl, BoxN.cell q9 3 rfl, BoxN.cell q9 4 rfl, BoxN.cell q9 5 rfl⟩)
    obtain ⟨z0, z1, z2, z3, z4, z5⟩ := (show _ ∧ _ ∧ _ ∧ _ ∧ _ ∧ _ from ⟨BoxN.frozen q9 0, BoxN.frozen q9 1, BoxN.frozen q9 2, BoxN.frozen q9 3, BoxN.frozen q9 4, BoxN.frozen q9 5⟩)
    obtain ⟨t0, t1, t2, t3, t4, t5⟩ := (show _ ∧ _ ∧ _ ∧ _ ∧ _ ∧ _ from ⟨BoxN.cell (HV2.out.box.alloc (.cells #[] 72)) 0 rfl, BoxN.cell (HV2.out.box.alloc (.cells #[] 72)) 1 rfl, BoxN.cell (HV2.out.box.alloc (.cells #[] 72)) 2 rfl, BoxN.cell (HV2.out.box.alloc (.cells #[] 72)) 3 rfl, BoxN.cell (HV2.out.box.alloc (.cells #[] 72)) 4 rfl, BoxN.cell (HV2.out.box.alloc (.cells #[] 72)) 5 rfl⟩)
    obtain ⟨W8, hW8⟩ : ∃ W8, ((((((y2.setCell ⟨w.heap.size + 1, 0, none⟩ (.slice b n cb)).setCell ⟨w.heap.size + 1, 1, none⟩ (.slice b' n' cb')).setCell ⟨w.heap.size + 1, 2, none⟩ (.int .i64 ep)).setCell ⟨w.heap.size + 1, 3, none⟩ (.int .i64 nx)).setCell ⟨w.heap.size + 1, 4, none⟩ (.slice va un vc)).setCell ⟨w.heap.size + 1, 5, none⟩ (.slice pa hn pc)) = W8 := ⟨_, rfl⟩
    have HB8 : Hid (Below w.heap.size w W8) := by show Below _ _ _; rw [← hW8]; exact below_set6 HBw.out (by omega) _ _ _ _ _ _
    have HS8 : Hid (SvAt W8 W2.heap.size b n cb X b' n' cb' Y va un vc l' pa hn pc hs) := by show SvAt _ _ _ _ _ _ _ _ _ _ _ _ _ _ _ _ _ _; rw [← hW8]; exact HSV.out.set6 (by omega) _ _ _ _ _ _
    have HR8 : Hid (BoxN W8 (w.heap.size + 1) 39 [.slice b n cb, .slice b' n' cb', .int .i64 ep, .int .i64 nx, .slice va un vc, .slice pa hn pc]) := by show BoxN _ _ _ _; rw [← hW8]; exact BoxN.set6 (HQ.out _ HC2.out).2 _ _ _ _ _ _
    have HZ8 : Hid (W8.heap.size = y2.heap.size) := by show _ = _; rw [← hW8]; simp
    clear HQ HX HC2 HV2
    go_wp2_with fail
    clear hW8 t0 t1 t2 t3 t4 t5 o0 o1 o2 o3 o4 o5 u0 u1 u2 u3 u4 u5 z0 z1 z2 z3 z4 z5 r0 r1 r2 r3 r4 r5 f0 f1 f2 f3 f4 f5
    obtain ⟨W9, hW9⟩ : ∃ W9, W8.alloc (.cells #[] 72) = W9 := ⟨_, rfl⟩
    have HF : Hid (Below w.heap.size w W9 ∧ SvAt W9 W2.heap.size b n cb X b' n' cb' Y va un vc l' pa hn pc hs ∧ OwnH W9 W8.heap.size (some ⟨W8.heap.size, 0, none⟩) 0 0 [] ∧ w.heap.size ≤ W8.heap.size) := by
      show _ ∧ _
      rw [← hW9]
      exact ⟨HB8.out.alloc HB8.out.size _, HS8.out.stays ((Below.refl _ _).alloc (Nat.le_refl _) _), ⟨World.ownsRow_lit W8 #[] 0 (Nat.le_refl _) (Nat.zero_le _) rfl, by simp⟩, HB8.out.size⟩
    have hR9 : BoxN W9 (w.heap.size + 1) 39 [.slice b n cb, .slice b' n' cb', .int .i64 ep, .int .i64 nx, .slice va un vc, .slice pa hn pc] := by rw [← hW9]; exact HR8.out.alloc _
    rw [hW9, ← HZ8.out]
    clear hW9 HL9 q9 HSV
    obtain ⟨u0, u1, u2, u3, u4, u5⟩ := (show _ ∧ _ ∧ _ ∧ _ ∧ _ ∧ _ from ⟨BoxN.cell hR9 0 rfl, BoxN.cell hR9 1 rfl, BoxN.cell hR9 2 rfl, BoxN.cell hR9 3 rfl, BoxN.cell hR9 4 rfl, BoxN.cell hR9 5 rfl⟩)
    refine bodyPost_ret (v := .tuple #[.agg #[.slice b n cb, .slice b' n' cb', .int .i64 ep, .int .i64 nx, .slice va un vc, .slice pa hn pc], .slice (some ⟨W8.heap.size, 0, none⟩) 0 0]) (by simp [results, Tryz.f21, go_sem, u0, u1, u2, u3, u4, u5]) rfl ?_
    refine ⟨⟨_, _, rfl, ?_⟩, HF.out.1⟩
    rw [HRY.out, HRH.out, HRL.out]
    exact ⟨b, n, cb, b', n', cb', va, un, vc, l', pa, hn, pc, some ⟨W8.heap.size, 0, none⟩, 0, 0, rfl, rfl, HF.out.2.1.low (by omega), HM.out, HF.out.2.2.1.low HF.out.2.2.2, fun h => Bool.noConfusion h⟩
  | true =>
    obtain ⟨c0, c1, c2, c3, c4, c5⟩ := (show _ ∧ _ ∧ _ ∧ _ ∧ _ ∧ _ from ⟨BoxN.cell (HQ.out _ HC2.out).1 0 rfl, BoxN.cell (HQ.out _ HC2.out).1 1 rfl, BoxN.cell (HQ.out _ HC2.out).1 2 rfl, BoxN.cell (HQ.out _ HC2.out).1 3 rfl, BoxN.cell (HQ.out _ HC2.out).1 4 rfl, BoxN.cell (HQ.out _ HC2.out).1 5 rfl⟩)
    go_wp2_with fail
    refine (HSy.out _ HC2.out (HBk.out (by simp))).mono ?_
    rintro e y3 ⟨⟨d, cd, d', cd', ea, ec, l3, rfl, hs3, hm3⟩, hb3⟩
    have HC3 : Hid (Below W2.heap.size W2 y3) := HC2.out.trans (hb3.mono HC2.out.size)
    have HV3 : Hid (VB y3 W2.heap.size bo b n cb X b' n' cb' Y ep nx va un vc l' pa hn pc hs) := HV2.out.stays hb3
    have HS3 : Hid (StoAt y3 y2.heap.size d n cd X d' n cd' X ea un ec l3 ∧ l3.map UE.u = l.map UE.u) := ⟨hs3, hm3⟩
    have hby : bo < y2.heap.size := HV2.out.box.lt
    have hy23 : y2.heap.size ≤ y3.heap.size := hb3.size
    have ho := HV3.out.box
    obtain ⟨o0, o1, o2, o3, o4, o5⟩ := (show _ ∧ _ ∧ _ ∧ _ ∧ _ ∧ _ from ⟨BoxN.cell ho 0 rfl, BoxN.cell ho 1 rfl, BoxN.cell ho 2 rfl, BoxN.cell ho 3 rfl, BoxN.cell ho 4 rfl, BoxN.cell ho 5 rfl⟩)
    obtain ⟨z0, z1, z2, z3, z4, z5⟩ := (show _ ∧ _ ∧ _ ∧ _ ∧ _ ∧ _ from ⟨BoxN.frozen ho 0, BoxN.frozen ho 1, BoxN.frozen ho 2, BoxN.frozen ho 3, BoxN.frozen ho 4, BoxN.frozen ho 5⟩)
    obtain ⟨x4, hx4⟩ : ∃ x4, ((((y3.setCell ⟨bo, 0, none⟩ (.slice d n cd)).setCell ⟨bo, 1, none⟩ (.slice d' n cd')).setCell ⟨bo, 2, none⟩ (.int .i64 ep)).setCell ⟨bo, 3, none⟩ (.int .i64 nx)).setCell ⟨bo, 4, none⟩ (.slice ea un ec) = x4 := ⟨_, rfl⟩
    have HE4 : Hid (((((y3.setCell ⟨bo, 0, none⟩ (.slice d n cd)).setCell ⟨bo, 1, none⟩ (.slice d' n cd')).setCell ⟨bo, 2, none⟩ (.int .i64 ep)).setCell ⟨bo, 3, none⟩ (.int .i64 nx)).setCell ⟨bo, 4, none⟩ (.slice ea un ec) = x4) := hx4
    have HO4 : Hid (BoxN x4 bo 39 [.slice d n cd, .slice d' n cd', .int .i64 ep, .int .i64 nx, .slice ea un ec, .slice pa hn pc]) := by show BoxN _ _ _ _; rw [← hx4]; exact ((((ho.set 0 _).set 1 _).set 2 _).set 3 _).set 4 _
    have HS4 : Hid (StoAt x4 y2.heap.size d n cd X d' n cd' X ea un ec l3) := by show StoAt _ _ _ _ _ _ _ _ _ _ _ _ _ _; rw [← hx4]; exact ((((HS3.out.1.setLow hby _).setLow hby _).setLow hby _).setLow hby _).setLow hby _
    have HC4 : Hid (Below W2.heap.size W2 x4) := by show Below _ _ _; rw [← hx4]; exact ((((HC3.out.setCell hlo _).setCell hlo _).setCell hlo _).setCell hlo _).setCell hlo _
    have hz4 : y3.heap.size ≤ x4.heap.size := by rw [← hx4]; simp
    clear hx4 ho hs3 hm3 hb3 HV2 HV3 HC3 c0 c1 c2 c3 c4 c5
    go_upto_region 5 with fail
    rw [HE4.out]
    clear HE4 o0 o1 o2 o3 o4 o5 z0 z1 z2 z3 z4 z5
    have o5 := HO4.out.cell 5 rfl
    have z5 := HO4.out.frozen 5
    obtain ⟨x6, hx6⟩ : ∃ x6, (x4.setCell ⟨bo, 5, none⟩ (.slice (some ⟨x4.heap.size, 0, none⟩) 0 0)).alloc (.cells #[] 72) = x6 := ⟨_, rfl⟩
    have HE6 : Hid ((x4.setCell ⟨bo, 5, none⟩ (.slice (some ⟨x4.heap.size, 0, none⟩) 0 0)).alloc (.cells #[] 72) = x6) := hx6
    have hbx : bo < x4.heap.size := by omega
    have HO6 : Hid (BoxN x6 bo 39 [.slice d n cd, .slice d' n cd', .int .i64 ep, .int .i64 nx, .slice ea un ec, .slice (some ⟨x4.heap.size, 0, none⟩) 0 0]) := by show BoxN _ _ _ _; rw [← hx6]; exact (HO4.out.set 5 _).alloc _
    have HS6 : Hid (SvAt x6 y2.heap.size d n cd X d' n cd' X ea un ec l3 (some ⟨x4.heap.size, 0, none⟩) 0 0 []) := by
      show SvAt _ _ _ _ _ _ _ _ _ _ _ _ _ _ _ _ _ _
      rw [← hx6]
      refine ⟨(HS4.out.setLow hby _).stays ((Below.refl _ _).alloc (Nat.le_refl _) _), ?_⟩
      have h9 : OwnH ((x4.setCell ⟨bo, 5, none⟩ (.slice (some ⟨x4.heap.size, 0, none⟩) 0 0)).alloc (.cells #[] 72)) x4.heap.size (some ⟨x4.heap.size, 0, none⟩) 0 0 [] := by
        have h8 := World.ownsRow_lit (x4.setCell ⟨bo, 5, none⟩ (.slice (some ⟨x4.heap.size, 0, none⟩) 0 0)) (e := 72) (size := 3) (base := x4.heap.size) #[] 0 (by simp) (Nat.zero_le _) rfl
        rw [show (x4.setCell ⟨bo, 5, none⟩ (.slice (some ⟨x4.heap.size, 0, none⟩) 0 0)).heap.size = x4.heap.size by simp] at h8
        exact ⟨h8, by simp⟩
      exact h9.low (by omega)
    have HC6 : Hid (Below W2.heap.size W2 x6) := by
      show Below _ _ _
      rw [← hx6]
      have h8 := Below.setCell (p := ⟨bo, 5, none⟩) HC4.out hlo (.slice (some ⟨x4.heap.size, 0, none⟩) 0 0)
      exact h8.alloc h8.size _
    clear hx6 HO4 HS4 HC4
    go_upto_region 6 with fail
    rw [HE6.out]
    clear HE6 o5 z5
    obtain ⟨gh, hgh⟩ : ∃ gh, x4.heap.size = gh := ⟨_, rfl⟩
    rw [hgh] at HO6 HS6 ⊢
    clear hgh hz4 hbx
    have HBa : Hid (Below W2.heap.size W2 (x6.alloc (.cells #[] 72)).drew) := (HC6.out.alloc HC6.out.size _).drew
    have HBz : Hid (Below x6.heap.size x6 (x6.alloc (.cells #[] 72)).drew) := ((Below.refl _ _).alloc (Nat.le_refl _) _).drew
    have HLa : Hid ((x6.alloc (.cells #[] 72)).heap[x6.heap.size]? = some (.cells #[] 72)) := heap_alloc_new _ _
    have hne2 : bo ≠ w.heap.size + 1 := by omega
    obtain ⟨c0, c1, c2, c3, c4, c5⟩ := (show _ ∧ _ ∧ _ ∧ _ ∧ _ ∧ _ from ⟨BoxN.cell (HQ.out _ HC6.out).1 0 rfl, BoxN.cell (HQ.out _ HC6.out).1 1 rfl, BoxN.cell (HQ.out _ HC6.out).1 2 rfl, BoxN.cell (HQ.out _ HC6.out).1 3 rfl, BoxN.cell (HQ.out _ HC6.out).1 4 rfl, BoxN.cell (HQ.out _ HC6.out).1 5 rfl⟩)
    obtain ⟨d0, d1, d2, d3, d4, d5⟩ := (show _ ∧ _ ∧ _ ∧ _ ∧ _ ∧ _ from ⟨BoxN.cell HO6.out 0 rfl, BoxN.cell HO6.out 1 rfl, BoxN.cell HO6.out 2 rfl, BoxN.cell HO6.out 3 rfl, BoxN.cell HO6.out 4 rfl, BoxN.cell HO6.out 5 rfl⟩)
    obtain ⟨k0, k1, k2, k3, k4, k5⟩ := (show _ ∧ _ ∧ _ ∧ _ ∧ _ ∧ _ from ⟨BoxN.cell (HQ.out _ HBa.out).1 0 rfl, BoxN.cell (HQ.out _ HBa.out).1 1 rfl, BoxN.cell (HQ.out _ HBa.out).1 2 rfl, BoxN.cell (HQ.out _ HBa.out).1 3 rfl, BoxN.cell (HQ.out _ HBa.out).1 4 rfl, BoxN.cell (HQ.out _ HBa.out).1 5 rfl⟩)
    obtain ⟨t0, t1, t2, t3, t4, t5⟩ := (show _ ∧ _ ∧ _ ∧ _ ∧ _ ∧ _ from ⟨BoxN.cell (HO6.out.stays HBz.out) 0 rfl, BoxN.cell (HO6.out.stays HBz.out) 1 rfl, BoxN.cell (HO6.out.stays HBz.out) 2 rfl, BoxN.cell (HO6.out.stays HBz.out) 3 rfl, BoxN.cell (HO6.out.stays HBz.out) 4 rfl, BoxN.cell (HO6.out.stays HBz.out) 5 rfl⟩)
    go_region_held3 (fun W => W.cell? ⟨bo, 0, none⟩ = some (.slice d n cd) ∧ W.cell? ⟨bo, 1, none⟩ = some (.slice d' n cd') ∧ W.cell? ⟨bo, 2, none⟩ = some (.int .i64 ep) ∧ W.cell? ⟨bo, 3, none⟩ = some (.int .i64 nx) ∧ W.cell? ⟨bo, 4, none⟩ = some (.slice ea un ec) ∧ W.cell? ⟨bo, 5, none⟩ = some (.slice (some ⟨gh, 0, none⟩) 0 0) ∧ W.cell? ⟨w.heap.size, 5, none⟩ = some (.slice ha hn hc)) (first | with_reducible exact ⟨m0, m1, m2, m3, m4, m5, n5⟩ | with_reducible exact ⟨cellD_kept hne2 (cellD_kept hne2 (cellD_kept hne2 (cellD_kept hne2 (cellD_kept hne2 (cellD_kept hne2 (m0)))))), cellD_kept hne2 (cellD_kept hne2 (cellD_kept hne2 (cellD_kept hne2 (cellD_kept hne2 (cellD_kept hne2 (m1)))))), cellD_kept hne2 (cellD_kept hne2 (cellD_kept hne2 (cellD_kept hne2 (cellD_kept hne2 (cellD_kept hne2 (m2)))))), cellD_kept hne2 (cellD_kept hne2 (cellD_kept hne2 (cellD_kept hne2 (cellD_kept hne2 (cellD_kept hne2 (m3)))))), cellD_kept hne2 (cellD_kept hne2 (cellD_kept hne2 (cellD_kept hne2 (cellD_kept hne2 (cellD_kept hne2 (m4)))))), cellD_kept hne2 (cellD_kept hne2 (cellD_kept hne2 (cellD_kept hne2 (cellD_kept hne2 (cellD_kept hne2 (m5)))))), cellD_kept hne (cellD_kept hne (cellD_kept hne (cellD_kept hne (cellD_kept hne (cellD_kept hne (n5))))))⟩ | with_reducible exact ⟨t0, t1, t2, t3, t4, t5, k5⟩ | exact ⟨d0, d1, d2, d3, d4, d5, c5⟩ | fail) (first
      | (refine step_append_lit rfl (.tmp 19) (.tmp 21) 37 37 rfl W2.heap.size 72 i0 (.agg #[.int .i64 0, .int .i64 0, .int .i64 0]) 3 24 Tryz.underlying37 hi hz0 hz1 hz2 rfl (by decide) x6.heap.size rfl HLa.out (Below.size HC6.out) _ hn (heCells hs) rfl (HX.out _ HBa.out).2.2.2.src (by unfold maxLen; omega) (by omega) (Below.size HBa.out) ?_; intro g2 cg2 y7 hown2 hb2 hw2
         have hB7 : Below W2.heap.size W2 y7 := Below.trans HBa.out (hb2.mono (Below.size HBa.out))
         have hB67 : Below x6.heap.size x6 y7 := Below.trans HBz.out (hb2.mono (Below.size HBz.out))
         have m0 := BoxN.cell (HO6.out.stays hB67) 0 rfl
         have m1 := BoxN.cell (HO6.out.stays hB67) 1 rfl
         have m2 := BoxN.cell (HO6.out.stays hB67) 2 rfl
         have m3 := BoxN.cell (HO6.out.stays hB67) 3 rfl
         have m4 := BoxN.cell (HO6.out.stays hB67) 4 rfl
         have m5 := BoxN.cell (HO6.out.stays hB67) 5 rfl
         have n5 := BoxN.cell (HQ.out _ hB7).1 5 rfl
         have r0 := BoxN.cell (HQ.out _ hB7).2 0 rfl
         have r1 := BoxN.cell (HQ.out _ hB7).2 1 rfl
         have r2 := BoxN.cell (HQ.out _ hB7).2 2 rfl
         have r3 := BoxN.cell (HQ.out _ hB7).2 3 rfl
         have r4 := BoxN.cell (HQ.out _ hB7).2 4 rfl
         have r5 := BoxN.cell (HQ.out _ hB7).2 5 rfl
         have f0 := BoxN.frozen (HQ.out _ hB7).2 0
         have f1 := BoxN.frozen (HQ.out _ hB7).2 1
         have f2 := BoxN.frozen (HQ.out _ hB7).2 2
         have f3 := BoxN.frozen (HQ.out _ hB7).2 3
         have f4 := BoxN.frozen (HQ.out _ hB7).2 4
         have f5 := BoxN.frozen (HQ.out _ hB7).2 5)
      | fail)
    all_goals
      have HF : Hid (SvAt y7 y2.heap.size d n cd X d' n cd' X ea un ec l3 (some ⟨gh, 0, none⟩) 0 0 [] ∧ OwnH y7 W2.heap.size (some ⟨g2, 0, none⟩) hn cg2 hs ∧ Below w.heap.size w y7) := ⟨HS6.out.stays hB67, ⟨hown2, HL.out.2.2.2.1⟩, HB2.out.trans (hB7.mono HB2.out.size)⟩
      have HSO : Hid (SOk X Y ep nx (l.map UE.u)) := HBk.out (by simp)
      clear hown2 hb2 hw2 hB7 hB67 n5 c0 c1 c2 c3 c4 c5 d0 d1 d2 d3 d4 d5 k0 k1 k2 k3 k4 k5 t0 t1 t2 t3 t4 t5 m0 m1 m2 m3 m4 m5 HQ HX HBa HBz HLa HC6 HO6 HS6 HCp HSy HOk HBk
      go_wp2_with fail
      refine bodyPost_ret (v := .tuple #[.agg #[.slice d n cd, .slice d' n cd', .int .i64 ep, .int .i64 nx, .slice ea un ec, .slice (some ⟨gh, 0, none⟩) 0 0], .slice (some ⟨g2, 0, none⟩) hn cg2]) (by simp [results, Tryz.f21, go_sem, r0, r1, r2, r3, r4, r5]) rfl ?_
      refine ⟨⟨_, _, rfl, ?_⟩, below_set6 HF.out.2.2 (by omega) _ _ _ _ _ _⟩
      rw [HRY.out, HRH.out, HRL.out]
      simp only [if_pos, syncY_len HSO.out]
      exact ⟨d, n, cd, d', n, cd', ea, un, ec, l3, some ⟨gh, 0, none⟩, 0, 0, some ⟨g2, 0, none⟩, hn, cg2, rfl, rfl, (HF.out.1.set6 (by omega) _ _ _ _ _ _).low (by omega), HS3.out.2, (HF.out.2.1.set6 (by omega) _ _ _ _ _ _).low (by omega), fun h => Bool.noConfusion h⟩

end Go.Proofs.YtpjldfpipchmjavGreatDoor

namespace Go.Proofs.YtpjldfpipchmjavGreatDoor
open Go.RowKit
set_option linter.unusedVariables false

set_option maxRecDepth 10000 in
set_option maxHeartbeats 400000 in
theorem cloneH_any (a : Option Addr) (len cap : Nat) (l : List Hd) (w : World) (hs : Helds w a len l) (hl : len ≤ 1048576) :
    Calls Tryz.prog 92 #[.slice a len cap] w fun e w' => ∃ a' cap', e = .returned (.slice a' len cap') ∧ OwnH w' w.heap.size a' len cap' l ∧ Below w.heap.size w w' := by
  obtain ⟨i0, hi, hz0, hz1, hz2⟩ := info_parts info_held
  have qT : ∀ (w : World) (a : Option Addr) (n c n' c' : Nat), (binOp .eql 37 (.slice a n c) (.slice none n' c')).run Tryz.prog w = .ok (.bool a.isNone) w := fun w a n c n' c' => Lib.run_eql_slice_nil w _ _ a n c n' c' Tryz.underlying37
  cases a with
  | none =>
    have h0 := helds_nil hs rfl
    subst h0
    obtain rfl : l = [] := List.eq_nil_of_length_eq_zero hs.1
    go_enter Tryz.func92, Tryz.ntmps92
    go_wp2
    go_ret
    exact ⟨none, 0, rfl, ⟨World.ownsRow_nil _ _ _ _, by simp⟩, Below.refl _ _⟩
  | some ad =>
    have hzl : l.length = len := hs.1
    have HR : Hid (∀ s ∈ l, hd64 s) := hs.2.1
    have HS1 : Hid (Helds (w.alloc (.cells #[] 72)) (some ad) len l) := hs.below ((Below.refl _ _).alloc (Nat.le_refl _) _)
    have HO1 : Hid ((w.alloc (.cells #[] 72)).ownsRow w.heap.size 72 3 (.slice (some ⟨w.heap.size, 0, none⟩) 0 0) 0 []) := World.ownsRow_lit w #[] 0 (Nat.le_refl _) (Nat.zero_le _) rfl
    clear hs
    go_enter Tryz.func92, Tryz.ntmps92
    go_wp2_with (at_builtin; refine wpList_append_own _ rfl _ _ 37 rfl w.heap.size 72 i0 (.agg #[.int .i64 0, .int .i64 0, .int .i64 0]) 3 24 Tryz.underlying37 hi hz0 hz1 hz2 rfl (by decide) (.slice (some ⟨w.heap.size, 0, none⟩) 0 0) 0 [] rfl HO1.out ad len cap (heCells l) rfl (by rw [heCells_len, hzl]) (helds_src HS1.out ad rfl) (heCells_one l) (by unfold maxLen; omega) (by omega) (by simp) ?_; intro v1 w1 hown1 hgrow1 _; refine Hid.out ?_)
    refine hidden ?_
    have HB1 : Hid (Below w.heap.size w w1) := ((Below.refl _ _).alloc (Nat.le_refl _) _).grown hgrow1 (by simp) (by simp [Value.ownBlock])
    obtain ⟨a1, c1, rfl⟩ := ownH_shape hown1
    have HO2 : Hid (w1.ownsRow w.heap.size 72 3 (.slice a1 len c1) len (heCells l)) := by
      show World.ownsRow _ _ _ _ _ _ _
      have h := hown1
      rw [Nat.zero_add] at h
      simpa using h
    have hll : 0 + len = len := Nat.zero_add _
    rw [hll]
    clear hown1 hgrow1
    go_wp2_with fail
    go_ret
    exact ⟨_, _, rfl, ⟨HO2.out, HR.out⟩, HB1.out⟩

end Go.Proofs.YtpjldfpipchmjavGreatDoor

namespace Go.Proofs.YtpjldfpipchmjavGreatDoor
open Go.RowKit
set_option linter.unusedVariables false

theorem run_append_src {P : Program} (w : World) (base : Nat) (t ty e : TypeId) (i : TypeInfo) (z : Value) (size bytes : Nat) (ht : P.underlying t = some (.slice e)) (hi : P.info? e = some i) (hz : i.zero = some z)
    (hsize : i.size = size) (hby : i.bytes = bytes) (hzs : z.cells.size = size) (hsz : 0 < size)
    (g n cap : Nat) (xs : List Value) (hown : w.ownsRow base e size (.slice (some ⟨g, 0, none⟩) n cap) n xs)
    (src : Option Addr) (m c : Nat) (news : List Value) (hnone : src = none → m = 0) (hl : news.length = m * size) (hnews : ∀ ad, src = some ad → ∀ j u, news[j]? = some u → w.cell? (ad.add j) = some u) (h1 : ∀ u ∈ news, u.oneCell' = true)
    (h63 : n + m ≤ maxLen) (hbytes : (n + m) * bytes ≤ 140737488355328) (hbase : base ≤ w.heap.size) :
    ∃ v' w', (Builtin.append_ #[t, t] ty #[.slice (some ⟨g, 0, none⟩) n cap, .slice src m c]).run P w = .ok v' w' ∧ w'.ownsRow base e size v' (n + m) (xs ++ news) ∧ w.grownBy w' (some g) := by
  cases src with
  | some ad =>
    obtain ⟨v', w', hr, r1, r2, _⟩ := run_append_own (P := P) w base t ty e i z size bytes ht hi hz hsize hby hzs hsz (.slice (some ⟨g, 0, none⟩) n cap) n xs hown ad m c news hl (hnews ad rfl) h1 h63 hbytes hbase
    exact ⟨v', w', hr, r1, r2⟩
  | none =>
    obtain rfl := hnone rfl
    obtain rfl : news = [] := List.eq_nil_of_length_eq_zero (by simpa using hl)
    have hcap : n ≤ cap := by
      rcases hown.2 with ⟨h, _⟩ | ⟨g', cap', cur, h, _, _, hc, _⟩
      · cases h
      · injection h with _ _ h3
        omega
    have hr := run_append_room_src (P := P) w t t ty e i ht hi g 0 n cap (.slice none 0 c) 0 [] (Src.ofNil w ht c) (by omega) (by intro j hj; simp at hj) (by intro j hj; simp at hj)
    refine ⟨_, _, hr, ?_, ?_⟩
    · rw [List.append_nil]
      exact hown
    · exact ⟨rfl, rfl, rfl, Nat.le_refl _, fun _ _ _ => rfl⟩

theorem wp_append_src {P : Program} {o : Oper} {a : Act} {w : World} {K : Act → World → Prop} {Q : Exit → Act → World → Prop} (s x : Operand) (t : TypeId)
    (ho : o.op = .call { callee := .builtin .append, args := #[s, x], argTypes := #[t, t] })
    (base : Nat) (e : TypeId) (i : TypeInfo) (z : Value) (size bytes : Nat) (ht : P.underlying t = some (.slice e)) (hi : P.info? e = some i) (hz : i.zero = some z)
    (hsize : i.size = size) (hby : i.bytes = bytes) (hzs : z.cells.size = size) (hsz : 0 < size)
    (g n cap : Nat) (xs : List Value) (hs : a.eval s = .slice (some ⟨g, 0, none⟩) n cap) (hown : w.ownsRow base e size (.slice (some ⟨g, 0, none⟩) n cap) n xs)
    (src : Option Addr) (m c : Nat) (news : List Value) (hx : a.eval x = .slice src m c) (hnone : src = none → m = 0) (hl : news.length = m * size) (hnews : ∀ ad, src = some ad → ∀ j u, news[j]? = some u → w.cell? (ad.add j) = some u) (h1 : ∀ u ∈ news, u.oneCell' = true)
    (h63 : n + m ≤ maxLen) (hbytes : (n + m) * bytes ≤ 140737488355328) (hbase : base ≤ w.heap.size)
    (h : ∀ v' w', w'.ownsRow base e size v' (n + m) (xs ++ news) → w.grownBy w' (some g) → K (a.put o.dst v') w') : o.wp P a w K Q := by
  obtain ⟨v', w', hr, h2, h3⟩ := run_append_src (P := P) w base t o.type e i z size bytes ht hi hz hsize hby hzs hsz g n cap xs hown src m c news hnone hl hnews h1 h63 hbytes hbase
  unfold Oper.wp execOp
  simp only [ho, resolve, invoke, builtin, Sem.run_bind, Sem.run_pure, Result.andThen_ok, List.map_toArray, List.map_cons, List.map_nil, hs, hx, hr]
  exact h v' w' h2 h3

theorem step_append_src {P : Program} {ops : Array Oper} {o : Oper} {a : Act} {w : World} {K : Act → World → Prop} {Q : Exit → Act → World → Prop} {E : Prop} (hg : o.guard = none) (s x : Operand) (t : TypeId)
    (ho : o.op = .call { callee := .builtin .append, args := #[s, x], argTypes := #[t, t] })
    (base : Nat) (e : TypeId) (i : TypeInfo) (z : Value) (size bytes : Nat) (ht : P.underlying t = some (.slice e)) (hi : P.info? e = some i) (hz : i.zero = some z)
    (hsize : i.size = size) (hby : i.bytes = bytes) (hzs : z.cells.size = size) (hsz : 0 < size)
    (g n cap : Nat) (xs : List Value) (hs : a.eval s = .slice (some ⟨g, 0, none⟩) n cap) (hown : w.ownsRow base e size (.slice (some ⟨g, 0, none⟩) n cap) n xs)
    (src : Option Addr) (m c : Nat) (news : List Value) (hx : a.eval x = .slice src m c) (hnone : src = none → m = 0) (hl : news.length = m * size) (hnews : ∀ ad, src = some ad → ∀ j u, news[j]? = some u → w.cell? (ad.add j) = some u) (h1 : ∀ u ∈ news, u.oneCell' = true)
    (h63 : n + m ≤ maxLen) (hbytes : (n + m) * bytes ≤ 140737488355328) (hbase : base ≤ w.heap.size)
    (h : ∀ v' w', w'.ownsRow base e size v' (n + m) (xs ++ news) → w.grownBy w' (some g) → K (a.put o.dst v') w') :
    if Region.wanted o (yielded ops a.tmps) = true then Oper.wp P o a w K Q else E := by
  have hw : Region.wanted o (yielded ops a.tmps) = true := by simp [Region.wanted, hg]
  rw [if_pos hw]
  exact wp_append_src s x t ho base e i z size bytes ht hi hz hsize hby hzs hsz g n cap xs hs hown src m c news hx hnone hl hnews h1 h63 hbytes hbase h

theorem step_call_any {P : Program} {ops : Array Oper} {o : Oper} {a : Act} {w : World} {K : Act → World → Prop} {Q : Exit → Act → World → Prop} {E : Prop}
    (hg : o.guard = none) (f : FuncId) (x : Operand) (t : TypeId) (ho : o.op = .call { callee := .value (.func f), args := #[x], argTypes := #[t] })
    (hent : ∀ args w, (callFunc f args).run P w = .ok (.enter f args) w) (u : Value) (hx : a.eval x = u) (R : Ending → World → Prop)
    (hc : Calls P f #[u] w R) (h : ∀ e w', R e w' → ∃ v, e = .returned v ∧ K (a.put o.dst v) w') :
    if Region.wanted o (yielded ops a.tmps) = true then Oper.wp P o a w K Q else E := by
  have hw : Region.wanted o (yielded ops a.tmps) = true := by simp [Region.wanted, hg]
  rw [if_pos hw]
  have hf : a.eval (.func f) = .func (.func f) #[] #[] := rfl
  unfold Oper.wp
  simp [execOp, ho, resolve, invoke, Deferred.ofValue, hent, hf, hx, Oper.upon_enter]
  refine hc.mono ?_
  intro e w' hr
  obtain ⟨v, rfl, hk⟩ := h e w' hr
  exact hk

end Go.Proofs.YtpjldfpipchmjavGreatDoor

namespace Go.Proofs.YtpjldfpipchmjavGreatDoor
open Go.RowKit
set_option linter.unusedVariables false

theorem cloneRow_shape {w : World} {base n : Nat} {v : Value} {xs : List Value} (h : w.ownsRow base 9 1 v n xs) : ∃ a cap, v = .slice a n cap := by
  rcases h.2 with ⟨rfl, rfl⟩ | ⟨g, cap, cur, rfl, _⟩
  · exact ⟨_, _, rfl⟩
  · exact ⟨_, _, rfl⟩

set_option maxRecDepth 10000 in
set_option maxHeartbeats 400000 in
theorem cloneS_any (a : Option Addr) (len cap : Nat) (l : List ByteArray) (w : World) (hs : Strs w a len l) (hl : len ≤ 2097152) :
    Calls Tryz.prog 146 #[.slice a len cap] w fun e w' => (∃ a' cap', e = .returned (.slice a' len cap') ∧ OwnSt w' w.heap.size (.slice a' len cap') len l) ∧ Below w.heap.size w w' := by
  obtain ⟨i0, hi, hz0, hz1, hz2⟩ := info_parts info_string
  have qT : ∀ (w : World) (a : Option Addr) (n c n' c' : Nat), (binOp .eql 22 (.slice a n c) (.slice none n' c')).run Tryz.prog w = .ok (.bool a.isNone) w := fun w a n c n' c' => Lib.run_eql_slice_nil w _ _ a n c n' c' Tryz.underlying22
  cases a with
  | none =>
    have h0 := hs.none_nil rfl
    subst h0
    obtain rfl : l = [] := List.eq_nil_of_length_eq_zero hs.1
    go_enter Tryz.func146, Tryz.ntmps146
    go_wp2
    go_ret
    exact ⟨⟨none, 0, rfl, ⟨World.ownsRow_nil _ _ _ _, by simp⟩⟩, Below.refl _ _⟩
  | some ad =>
    have hzl : l.length = len := hs.1
    have HR : Hid (∀ x ∈ l, x.size ≤ maxLen) := hs.2.1
    have HS1 : Hid (Strs (w.alloc (.cells #[] 9)) (some ad) len l) := hs.below ((Below.refl _ _).alloc (Nat.le_refl _) _)
    have HO1 : Hid ((w.alloc (.cells #[] 9)).ownsRow w.heap.size 9 1 (.slice (some ⟨w.heap.size, 0, none⟩) 0 0) 0 []) := World.ownsRow_lit w #[] 0 (Nat.le_refl _) (Nat.zero_le _) rfl
    clear hs
    go_enter Tryz.func146, Tryz.ntmps146
    go_wp2_with (at_builtin; refine wpList_append_own _ rfl _ _ 22 rfl w.heap.size 9 i0 (.string ⟨#[]⟩) 1 16 Tryz.underlying22 hi hz0 hz1 hz2 rfl (by decide) (.slice (some ⟨w.heap.size, 0, none⟩) 0 0) 0 [] rfl HO1.out ad len cap (scells l) rfl (by rw [scells_len, hzl, Nat.mul_one]) (HS1.out.cells ad rfl) (scells_one l) (by unfold maxLen; omega) (by omega) (by simp) ?_; intro v1 w1 hown1 hgrow1 _; refine Hid.out ?_)
    refine hidden ?_
    have HB1 : Hid (Below w.heap.size w w1) := ((Below.refl _ _).alloc (Nat.le_refl _) _).grown hgrow1 (by simp) (by simp [Value.ownBlock])
    obtain ⟨a1, c1, rfl⟩ := cloneRow_shape hown1
    have HO2 : Hid (w1.ownsRow w.heap.size 9 1 (.slice a1 len c1) len (scells l)) := by
      show World.ownsRow _ _ _ _ _ _ _
      have h := hown1
      rw [Nat.zero_add] at h
      simpa using h
    have hll : 0 + len = len := Nat.zero_add _
    rw [hll]
    clear hown1 hgrow1
    go_wp2_with fail
    go_ret
    exact ⟨⟨_, _, rfl, ⟨HO2.out, HR.out⟩⟩, HB1.out⟩

end Go.Proofs.YtpjldfpipchmjavGreatDoor

namespace Go.Proofs.YtpjldfpipchmjavGreatDoor
open Go.RowKit
set_option linter.unusedVariables false

theorem blkOf_sC (a : Option Addr) (n c : Nat) : blkOf (.slice a n c) = a.map (·.block) := by cases a <;> rfl

set_option maxRecDepth 10000 in
set_option maxHeartbeats 3200000 in
theorem implDcopy_any (a : Option Addr) (n ca : Nat) (xs : List ByteArray) (a' : Option Addr) (n' ca' : Nat) (ys : List ByteArray) (w : World) (h1 : Strs w a n xs) (h2 : Strs w a' n' ys) (hn : n ≤ 2097152) (hn' : n' ≤ 2097152) :
    Calls Tryz.prog 109 #[.agg #[.slice a n ca, .slice a' n' ca']] w fun e w' => (∃ v, e = .returned v ∧ AnsD w.heap.size xs ys v w') ∧ Below w.heap.size w w' := by
  have HLn : Hid (xs.length = n ∧ ys.length = n') := ⟨h1.1, h2.1⟩
  obtain ⟨W2, hW2⟩ : ∃ W2, (w.alloc (.cells #[.slice a n ca, .slice a' n' ca'] 33)).alloc (.cells #[.slice none 0 0, .slice none 0 0] 33) = W2 := ⟨_, rfl⟩
  have HE : Hid ((w.alloc (.cells #[.slice a n ca, .slice a' n' ca'] 33)).alloc (.cells #[.slice none 0 0, .slice none 0 0] 33) = W2) := hW2
  have HB2 : Hid (Below w.heap.size w W2) := by show Below _ _ _; rw [← hW2]; exact ((Below.refl _ _).alloc (Nat.le_refl _) _).alloc (by simp) _
  have HZ2 : Hid (W2.heap.size = w.heap.size + 2) := by show _ = _; rw [← hW2]; simp
  have q1 : Box2R W2 w.heap.size 33 (.slice a n ca) (.slice a' n' ca') := by rw [← hW2]; exact (Box2R.new _ _ _ _).alloc _
  have q2 : Box2R W2 (w.heap.size + 1) 33 (.slice none 0 0) (.slice none 0 0) := by
    rw [← hW2]
    have := Box2R.new (w.alloc (.cells #[.slice a n ca, .slice a' n' ca'] 33)) 33 (.slice none 0 0) (.slice none 0 0)
    rwa [World.size_alloc] at this
  have HQ : Hid (∀ W, Below W2.heap.size W2 W → Box2R W w.heap.size 33 (.slice a n ca) (.slice a' n' ca') ∧ Box2R W (w.heap.size + 1) 33 (.slice none 0 0) (.slice none 0 0)) := fun W h => ⟨q1.stays h, q2.stays h⟩
  have HX : Hid (∀ W, Below W2.heap.size W2 W → Strs W a n xs ∧ Strs W a' n' ys) := fun W h => by
    have hw := HB2.out.trans (h.mono HB2.out.size)
    exact ⟨h1.below hw, h2.below hw⟩
  have HBd : Hid (Below W2.heap.size W2 W2.drew) := (Below.refl _ _).drew
  clear hW2 q1 q2 h1 h2
  have hne : w.heap.size ≠ w.heap.size + 1 := by omega
  have hs2 : w.heap.size + 1 < W2.heap.size := by have := HZ2.out; omega
  go_enter Tryz.func109, Tryz.ntmps109
  go_upto_region 1 with fail
  rw [HE.out]
  clear HE
  obtain ⟨c0, c1⟩ := (HQ.out _ (Below.refl _ _)).1.cells
  go_region_held3 (fun W => W.cell? ⟨w.heap.size, 0, none⟩ = some (.slice a n ca) ∧ W.cell? ⟨w.heap.size, 1, none⟩ = some (.slice a' n' ca')) (first | (refine ⟨?_, ?_⟩ <;> assumption) | (refine ⟨?_, ?_⟩ <;> (exact cellD_kept hne (cellD_kept hne (by assumption)))) | go_keep) (first
    | (go_at_call 146; refine (cloneS_any a' n' ca' ys _ (HX.out _ hB1).2 hn').mono ?_; rintro e y2 ⟨⟨A2, C2, rfl, own2⟩, hb2⟩
       have hB2 : Below W2.heap.size W2 y2 := hB1.trans (hb2.mono hB1.size)
       obtain ⟨m0, m1⟩ := (HQ.out _ hB2).1.cells
       obtain ⟨r0, r1⟩ := (HQ.out _ hB2).2.cells
       have f0 := (HQ.out _ hB2).2.frozen 0
       have f1 := (HQ.out _ hB2).2.frozen 1)
    | (go_at_call 146; refine (cloneS_any a n ca xs _ (HX.out _ HBd.out).1 hn).mono ?_; rintro e y1 ⟨⟨A1, C1, rfl, own1⟩, hb1⟩
       have hB1 : Below W2.heap.size W2 y1 := HBd.out.trans (hb1.mono (Nat.le_refl _))
       obtain ⟨e0, e1⟩ := (HQ.out _ hB1).1.cells)
    | fail)
  all_goals
    have HF : Hid (AnsD w.heap.size xs ys (.agg #[.slice A1 n C1, .slice A2 n' C2]) ((y2.setCell ⟨w.heap.size + 1, 0, none⟩ (.slice A1 n C1)).setCell ⟨w.heap.size + 1, 1, none⟩ (.slice A2 n' C2)) ∧ Below w.heap.size w ((y2.setCell ⟨w.heap.size + 1, 0, none⟩ (.slice A1 n C1)).setCell ⟨w.heap.size + 1, 1, none⟩ (.slice A2 n' C2))) := by
      have hz := HZ2.out
      have o1 : OwnSt y2 W2.heap.size (.slice A1 n C1) n xs := own1.below hb2
      have o2 : OwnSt y2 W2.heap.size (.slice A2 n' C2) n' ys := own2.low (by have := hB1.size; omega)
      have n1 : blkOf (.slice A1 n C1) ≠ some (w.heap.size + 1) := fun e => by have := (o1.lt _ e).1; omega
      have n2 : blkOf (.slice A2 n' C2) ≠ some (w.heap.size + 1) := fun e => by have := (o2.lt _ e).1; omega
      have hbw := HB2.out.trans (hB2.mono HB2.out.size)
      refine ⟨AnsD.mk' HLn.out.1 HLn.out.2 (((o1.setCell n1 _).setCell n1 _).low (by omega)) (((o2.setCell n2 _).setCell n2 _).low (by omega)) ?_, (hbw.setCell (by dsimp only; omega) _).setCell (by dsimp only; omega) _⟩
      intro q e1 e2
      rw [← blkOf_sC A1 n C1] at e1
      rw [← blkOf_sC A2 n' C2] at e2
      have := (own1.lt q e1).2
      have := (own2.lt q e2).1
      omega
    clear own1 own2 hb1 hb2 hB1 hB2 e0 e1 m0 m1
    go_wp2_with fail
    refine bodyPost_ret (v := .agg #[.slice A1 n C1, .slice A2 n' C2]) (by simp [results, Tryz.f109, go_sem, r0, r1]) rfl ?_
    exact ⟨⟨_, rfl, HF.out.1⟩, HF.out.2⟩

end Go.Proofs.YtpjldfpipchmjavGreatDoor

namespace Go.Proofs.YtpjldfpipchmjavGreatDoor
open Go.RowKit
set_option linter.unusedVariables false

set_option maxRecDepth 10000 in
set_option maxHeartbeats 400000 in
theorem cloneB_any (a : Option Addr) (len cap : Nat) (zs : List Int) (w : World) (hs : Seg w a len zs) (hl : len ≤ 1099511627776) :
    Calls Tryz.prog 161 #[.slice a len cap] w fun e w' => ∃ a' cap', e = .returned (.slice a' len cap') ∧ Owns w' w.heap.size a' len cap' zs ∧ Below w.heap.size w w' := by
  obtain ⟨i0, hi, hz0, hz1, hz2⟩ := info_parts Tryz.info5
  have qT : ∀ (w : World) (a : Option Addr) (n c n' c' : Nat), (binOp .eql 45 (.slice a n c) (.slice none n' c')).run Tryz.prog w = .ok (.bool a.isNone) w := fun w a n c n' c' => Lib.run_eql_slice_nil w _ _ a n c n' c' Tryz.underlying45
  cases a with
  | none =>
    have h0 : len = 0 := by
      rcases hs.2.2 with h | ⟨b, off, h, _⟩
      · exact h
      · cases h
    subst h0
    obtain rfl : zs = [] := List.eq_nil_of_length_eq_zero hs.1
    go_enter Tryz.func161, Tryz.ntmps161
    go_wp2
    go_ret
    exact ⟨none, 0, rfl, ⟨World.ownsRow_nil _ _ _ _, by simp⟩, Below.refl _ _⟩
  | some ad =>
    have hzl : zs.length = len := hs.1
    have HC : Hid (∀ j u, (zs.map (Value.int .u8))[j]? = some u → (w.alloc (.cells #[] 5)).cell? (ad.add j) = some u) := by
      intro j u hj
      have hl2 : j < zs.length := by
        by_cases h : j < zs.length
        · exact h
        · rw [List.getElem?_eq_none (by simp; omega)] at hj; cases hj
      rcases hs.2.2 with h | ⟨b, off, h, _⟩
      · omega
      · injection h with h
        subst h
        exact cells_ints (hs.below ((Below.refl _ _).alloc (Nat.le_refl _) _)) j u hj
    have HR : Hid (∀ n ∈ zs, 0 ≤ n ∧ n ≤ 255) := hs.2.1
    have HO1 : Hid ((w.alloc (.cells #[] 5)).ownsRow w.heap.size 5 1 (.slice (some ⟨w.heap.size, 0, none⟩) 0 0) 0 []) := World.ownsRow_lit w #[] 0 (Nat.le_refl _) (Nat.zero_le _) rfl
    clear hs
    go_enter Tryz.func161, Tryz.ntmps161
    go_wp2_with (at_builtin; refine wpList_append_own _ rfl _ _ 45 rfl w.heap.size 5 i0 (.int .u8 0) 1 1 Tryz.underlying45 hi hz0 hz1 hz2 rfl (by decide) (.slice (some ⟨w.heap.size, 0, none⟩) 0 0) 0 [] rfl HO1.out ad len cap (zs.map (Value.int .u8)) rfl (by simp [hzl]) HC.out (ints_one zs) (by unfold maxLen; omega) (by omega) (by simp) ?_; intro v1 w1 hown1 hgrow1 _; refine Hid.out ?_)
    refine hidden ?_
    have HB1 : Hid (Below w.heap.size w w1) := ((Below.refl _ _).alloc (Nat.le_refl _) _).grown hgrow1 (by simp) (by simp [Value.ownBlock])
    obtain ⟨a1, c1, rfl⟩ := shape_of_owns hown1
    have HO2 : Hid (w1.ownsRow w.heap.size 5 1 (.slice a1 len c1) len (zs.map (Value.int .u8))) := by
      show World.ownsRow _ _ _ _ _ _ _
      have h := hown1
      rw [Nat.zero_add] at h
      simpa using h
    have hll : 0 + len = len := Nat.zero_add _
    rw [hll]
    clear hown1 hgrow1
    go_wp2_with fail
    go_ret
    exact ⟨_, _, rfl, ⟨HO2.out, HR.out⟩, HB1.out⟩

end Go.Proofs.YtpjldfpipchmjavGreatDoor

namespace Go.Proofs.YtpjldfpipchmjavGreatDoor
open Go.RowKit
set_option linter.unusedVariables false

set_option maxRecDepth 10000 in
set_option maxHeartbeats 800000 in
theorem implCopyUp_any (x : UE) (w : World) (hs : Seg w x.a x.n x.u.zs) (hl : x.n ≤ 1099511627776) :
    Calls Tryz.prog 133 #[.agg #[.string x.u.id, .int .i64 x.u.want, .slice x.a x.n x.c, .bool x.u.done]] w fun e w' => (∃ A C, e = .returned (.agg #[.string x.u.id, .int .i64 x.u.want, .slice A x.n C, .bool x.u.done]) ∧ Owns w' w.heap.size A x.n C x.u.zs) ∧ Below w.heap.size w w' := by
  obtain ⟨w0, hw0⟩ : ∃ w0, (w.alloc (.cells #[.string x.u.id, .int .i64 x.u.want, .slice x.a x.n x.c, .bool x.u.done] 118)).alloc (.cells #[.string ⟨#[]⟩, .int .i64 0, .slice none 0 0, .bool false] 118) = w0 := ⟨_, rfl⟩
  have HE : Hid ((w.alloc (.cells #[.string x.u.id, .int .i64 x.u.want, .slice x.a x.n x.c, .bool x.u.done] 118)).alloc (.cells #[.string ⟨#[]⟩, .int .i64 0, .slice none 0 0, .bool false] 118) = w0) := hw0
  have HB : Hid (Below w.heap.size w w0) := by show Below _ _ _; rw [← hw0]; exact ((Below.refl _ _).alloc (Nat.le_refl _) _).alloc (by simp) _
  have HQ : Hid (BoxN w0 w.heap.size 118 [.string x.u.id, .int .i64 x.u.want, .slice x.a x.n x.c, .bool x.u.done]) := by show BoxN _ _ _ _; rw [← hw0]; exact (BoxN.new _ _ _).alloc _
  have HR : Hid (BoxN w0 (w.heap.size + 1) 118 [.string ⟨#[]⟩, .int .i64 0, .slice none 0 0, .bool false]) := by
    show BoxN _ _ _ _
    rw [← hw0]
    have := BoxN.new (w.alloc (.cells #[.string x.u.id, .int .i64 x.u.want, .slice x.a x.n x.c, .bool x.u.done] 118)) 118 [.string ⟨#[]⟩, .int .i64 0, .slice none 0 0, .bool false]
    rw [World.size_alloc] at this
    exact this
  have HS : Hid (Seg w0 x.a x.n x.u.zs) := hs.below HB.out
  have hwl : w.heap.size + 1 < w0.heap.size := HR.out.lt
  clear hw0 hs
  have c2 := HQ.out.cell 2 rfl
  go_enter Tryz.func133, Tryz.ntmps133
  go_upto_region 1 with fail
  rw [HE.out]
  clear HE
  go_wp2_with fail
  refine (cloneB_any x.a x.n x.c x.u.zs w0 HS.out hl).mono ?_
  rintro _ w1 ⟨A, C, rfl, ho1, hb1⟩
  have hq := HQ.out.stays hb1
  have hr := HR.out.stays hb1
  have HB1 : Hid (Below w.heap.size w w1) := HB.out.trans (hb1.mono HB.out.size)
  have HO1 : Hid (Owns w1 w0.heap.size A x.n C x.u.zs) := ho1
  have b0 := hq.cell 0 rfl
  have b1 := hq.cell 1 rfl
  have b2 := hq.cell 2 rfl
  have b3 := hq.cell 3 rfl
  have z2 := hq.frozen 2
  have a0 := hr.cell 0 rfl
  have a1 := hr.cell 1 rfl
  have a2 := hr.cell 2 rfl
  have a3 := hr.cell 3 rfl
  have f0 := hr.frozen 0
  have f1 := hr.frozen 1
  have f2 := hr.frozen 2
  have f3 := hr.frozen 3
  have hA1 : A.map (·.block) ≠ some w.heap.size := fun e => by have := (ho1.lt _ e).1; omega
  have hA2 : A.map (·.block) ≠ some (w.heap.size + 1) := fun e => by have := (ho1.lt _ e).1; omega
  clear hq hr ho1 hb1 c2 HQ HR
  go_wp2_with fail
  refine bodyPost_ret (v := .agg #[.string x.u.id, .int .i64 x.u.want, .slice A x.n C, .bool x.u.done]) (by simp [results, Tryz.f133, go_sem, a0, a1, a2, a3]) rfl ?_
  refine ⟨⟨A, C, rfl, ?_⟩, ?_⟩
  · exact (owns_set (owns_set (owns_set (owns_set (owns_set HO1.out hA1) hA2) hA2) hA2) hA2).low (by omega)
  · exact ((((HB1.out.setCell (by dsimp only; omega) _).setCell (by dsimp only; omega) _).setCell (by dsimp only; omega) _).setCell (by dsimp only; omega) _).setCell (by dsimp only; omega) _

end Go.Proofs.YtpjldfpipchmjavGreatDoor
