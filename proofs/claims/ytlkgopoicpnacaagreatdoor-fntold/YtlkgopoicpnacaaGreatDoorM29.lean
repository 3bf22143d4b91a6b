/- What the specification's SyncAll answers. A copy of a disk in a variable, beside the disk and a variable for the answer. No statement of the program but its table of types. What the specification's FallDisk answers. What the specification's TopEpoch answers. What the specification's OpenStore answers of any disk. -/
import Derived.Test.YtlkgopoicpnacaaGreatDoorM18
import Derived.Test.YtlkgopoicpnacaaGreatDoorM27
import Derived.Test.YtlkgopoicpnacaaGreatDoorM28
import Derived.Test.YtlkgopoicpnacaaGreatDoorM17
import Derived.Test.YtlkgopoicpnacaaGreatDoorM18
import Derived.Test.YtlkgopoicpnacaaGreatDoorM20
import Derived.Test.YtlkgopoicpnacaaGreatDoorM18
import Derived.Deep.RegionHeld3
import Derived.Test.YtlkgopoicpnacaaGreatDoorM21
import Derived.Test.YtlkgopoicpnacaaGreatDoorM12
import Derived.Test.YtlkgopoicpnacaaGreatDoorM06
import Derived.Deep.CutBlock
import Derived.Test.YtlkgopoicpnacaaGreatDoorM14
import Derived.Test.YtlkgopoicpnacaaGreatDoorM03
import Derived.Test.YtlkgopoicpnacaaGreatDoorM05
import Derived.Test.YtlkgopoicpnacaaGreatDoorM05
import Derived.Test.YtlkgopoicpnacaaGreatDoorM10
import Derived.Test.YtlkgopoicpnacaaGreatDoorM15
import Derived.Test.YtlkgopoicpnacaaGreatDoorM15
namespace Go.Proofs.YtlkgopoicpnacaaGreatDoor
open Go.RowKit
set_option linter.unusedVariables false

set_option maxRecDepth 10000 in
set_option maxHeartbeats 6400000 in
theorem specSyncAll_any (a : Option Addr) (n ca : Nat) (X : List ByteArray) (a' : Option Addr) (n' ca' : Nat) (Y : List ByteArray) (ep nx : Int) (ua : Option Addr) (un uc lo : Nat) (l : List UE) (ha : Option Addr) (hn hc : Nat) (hs : List Hd) (w : World) (h1 : Strs w a n X) (h2 : Strs w a' n' Y) (hln : n ≤ 1048576) (hln' : n' ≤ 1048576) (hzx : ∀ x ∈ X, x.size ≤ 1048576) (hu : UpRow w lo (.slice ua un uc) l) (hun : un = l.length) (hul : un ≤ 1048576) (hz : ∀ e ∈ l, e.n ≤ 1099511627776) (hh : Helds w ha hn hs) (hhl : hn ≤ 1048576) :
    Calls Tryz.prog 29 #[.agg #[.slice a n ca, .slice a' n' ca', .int .i64 ep, .int .i64 nx, .slice ua un uc, .slice ha hn hc]] w fun e w' => (∃ v u, e = .returned (.tuple #[v, u]) ∧ AnsVL false w.heap.size X (saY X Y ep nx (l.map UE.u) hs) ep nx (l.map UE.u) (saH X Y ep nx (l.map UE.u) hs) (saL X Y ep nx (l.map UE.u) hs) v u w') ∧ Below w.heap.size w w' := by
  obtain ⟨W2, hW2⟩ : ∃ W2, (w.alloc (.cells #[.slice a n ca, .slice a' n' ca', .int .i64 ep, .int .i64 nx, .slice ua un uc, .slice ha hn hc] 32)).alloc (.cells #[.slice none 0 0, .slice none 0 0, .int .i64 0, .int .i64 0, .slice none 0 0, .slice none 0 0] 32) = W2 := ⟨_, rfl⟩
  have HE : Hid ((w.alloc (.cells #[.slice a n ca, .slice a' n' ca', .int .i64 ep, .int .i64 nx, .slice ua un uc, .slice ha hn hc] 32)).alloc (.cells #[.slice none 0 0, .slice none 0 0, .int .i64 0, .int .i64 0, .slice none 0 0, .slice none 0 0] 32) = W2) := hW2
  have HB2 : Hid (Below w.heap.size w W2) := by show Below _ _ _; rw [← hW2]; exact ((Below.refl _ _).alloc (Nat.le_refl _) _).alloc (by simp) _
  have HZ2 : Hid (W2.heap.size = w.heap.size + 2) := by show _ = _; rw [← hW2]; simp
  have q1 : BoxN W2 w.heap.size 32 [.slice a n ca, .slice a' n' ca', .int .i64 ep, .int .i64 nx, .slice ua un uc, .slice ha hn hc] := by rw [← hW2]; exact (BoxN.new _ _ _).alloc _
  have q2 : BoxN W2 (w.heap.size + 1) 32 [.slice none 0 0, .slice none 0 0, .int .i64 0, .int .i64 0, .slice none 0 0, .slice none 0 0] := by
    rw [← hW2]
    have := BoxN.new (w.alloc (.cells #[.slice a n ca, .slice a' n' ca', .int .i64 ep, .int .i64 nx, .slice ua un uc, .slice ha hn hc] 32)) 32 [.slice none 0 0, .slice none 0 0, .int .i64 0, .int .i64 0, .slice none 0 0, .slice none 0 0]
    rwa [World.size_alloc] at this
  have HQ : Hid (∀ W, Below W2.heap.size W2 W → BoxN W w.heap.size 32 [.slice a n ca, .slice a' n' ca', .int .i64 ep, .int .i64 nx, .slice ua un uc, .slice ha hn hc] ∧ BoxN W (w.heap.size + 1) 32 [.slice none 0 0, .slice none 0 0, .int .i64 0, .int .i64 0, .slice none 0 0, .slice none 0 0]) := fun W h => ⟨q1.stays h, q2.stays h⟩
  have HX : Hid (∀ W, Below W2.heap.size W2 W → Strs W a n X ∧ Strs W a' n' Y ∧ UpRow W lo (.slice ua un uc) l ∧ Helds W ha hn hs) := fun W h => by
    have hw := HB2.out.trans (h.mono HB2.out.size)
    exact ⟨h1.below hw, h2.below hw, hu.stays hw, hh.below hw⟩
  have HL : Hid (un = l.length ∧ (∀ e ∈ l, e.n ≤ 1099511627776) ∧ hs.length = hn ∧ (∀ s ∈ hs, hd64 s) ∧ X.length = n ∧ Y.length = n' ∧ ∀ x ∈ X, x.size ≤ 1048576) := ⟨hun, hz, hh.1, hh.2.1, h1.1, h2.1, hzx⟩
  have HA0 : Hid (Below W2.heap.size W2 W2) := Below.refl _ _
  have hs2 : w.heap.size + 1 < W2.heap.size := q2.lt
  have hne : w.heap.size ≠ w.heap.size + 1 := by omega
  clear hW2 q1 q2 h1 h2 hu hun hz hh hzx
  have HCp : Hid (∀ W, Below W2.heap.size W2 W → Calls Tryz.prog 48 #[.agg #[.slice a n ca, .slice a' n' ca', .int .i64 ep, .int .i64 nx, .slice ua un uc, .slice ha hn hc]] W fun e w' => (∃ b cb b' cb' va vc l' pa pc, e = .returned (.agg #[.slice b n cb, .slice b' n' cb', .int .i64 ep, .int .i64 nx, .slice va un vc, .slice pa hn pc]) ∧ SvAt w' W.heap.size b n cb X b' n' cb' Y va un vc l' pa hn pc hs ∧ l'.map UE.u = l.map UE.u) ∧ Below W.heap.size W w') := fun W hb => by
    refine (specVcopy_any a n ca X a' n' ca' Y ep nx ua un uc lo l ha hn hc hs W (HX.out _ hb).1 (HX.out _ hb).2.1 hln hln' (HX.out _ hb).2.2.1 HL.out.1 hul HL.out.2.1 (HX.out _ hb).2.2.2 hhl).mono ?_
    rintro e y1 ⟨⟨v1, rfl, hv1⟩, hb1⟩
    obtain ⟨b, cb, b', cb', va, vc, l', pa, pc, rfl, hs1, hm1, _⟩ := hv1.get
    rw [List.length_map, ← HL.out.1, HL.out.2.2.2.2.1, HL.out.2.2.2.2.2.1, HL.out.2.2.1] at hs1 ⊢
    exact ⟨⟨b, cb, b', cb', va, vc, l', pa, pc, rfl, hs1, hm1⟩, hb1⟩
  have HSy : Hid (∀ W, Below W2.heap.size W2 W → SOk X Y ep nx (l.map UE.u) → Calls Tryz.prog 50 #[.agg #[.slice a n ca, .slice a' n' ca', .int .i64 ep, .int .i64 nx, .slice ua un uc]] W fun e w' => (∃ b cb b' cb' va vc l', e = .returned (.agg #[.slice b n cb, .slice b' n cb', .int .i64 ep, .int .i64 nx, .slice va un vc]) ∧ StoAt w' W.heap.size b n cb X b' n cb' X va un vc l' ∧ l'.map UE.u = l.map UE.u) ∧ Below W.heap.size W w') := fun W hb hok => by
    refine (specSync_any a n ca X a' n' ca' Y ep nx ua un uc lo l W (HX.out _ hb).1 (HX.out _ hb).2.1 hln hln' HL.out.2.2.2.2.2.2 (HX.out _ hb).2.2.1 HL.out.1 hul HL.out.2.1).mono ?_
    rintro e y1 ⟨⟨v1, rfl, hv1⟩, hb1⟩
    rw [syncY_len hok] at hv1
    obtain ⟨b, cb, b', cb', va, vc, l', rfl, hs1, hm1⟩ := hv1.get
    rw [List.length_map, ← HL.out.1, HL.out.2.2.2.2.1] at hs1 ⊢
    exact ⟨⟨b, cb, b', cb', va, vc, l', rfl, hs1, hm1⟩, hb1⟩
  have HOk : Hid (∀ W, Below W2.heap.size W2 W → Calls Tryz.prog 49 #[.agg #[.slice a n ca, .slice a' n' ca', .int .i64 ep, .int .i64 nx, .slice ua un uc, .slice ha hn hc]] W fun e w' => e = .returned (.bool (svB X Y ep nx (l.map UE.u) hs)) ∧ Below W.heap.size W w') := fun W hb =>
    specSvok_any a n ca X a' n' ca' Y ep nx ua un uc lo l ha hn hc hs W (HX.out _ hb).1 (HX.out _ hb).2.1 hln hln' HL.out.2.2.2.2.2.2 (HX.out _ hb).2.2.1 HL.out.1 hul (HX.out _ hb).2.2.2 (by omega)
  have HBk : Hid (svB X Y ep nx (l.map UE.u) hs = true → SOk X Y ep nx (l.map UE.u)) := svB_sok
  have HRY : Hid (saY X Y ep nx (l.map UE.u) hs = if svB X Y ep nx (l.map UE.u) hs = true then syncY X Y ep nx (l.map UE.u) else Y) := rfl
  have HRH : Hid (saH X Y ep nx (l.map UE.u) hs = if svB X Y ep nx (l.map UE.u) hs = true then [] else hs) := rfl
  have HRL : Hid (saL X Y ep nx (l.map UE.u) hs = if svB X Y ep nx (l.map UE.u) hs = true then hs else []) := rfl
  generalize saY X Y ep nx (l.map UE.u) hs = RY at *
  generalize saH X Y ep nx (l.map UE.u) hs = RH at *
  generalize saL X Y ep nx (l.map UE.u) hs = RL at *
  obtain ⟨ok, hok⟩ : ∃ ok, svB X Y ep nx (l.map UE.u) hs = ok := ⟨_, rfl⟩
  rw [hok] at HOk HBk HRY HRH HRL
  clear hok
  obtain ⟨i0, hi, hz0, hz1, hz2⟩ := info_parts info_held
  obtain ⟨c0, c1, c2, c3, c4, c5⟩ := (show _ ∧ _ ∧ _ ∧ _ ∧ _ ∧ _ from ⟨BoxN.cell (HQ.out _ HA0.out).1 0 rfl, BoxN.cell (HQ.out _ HA0.out).1 1 rfl, BoxN.cell (HQ.out _ HA0.out).1 2 rfl, BoxN.cell (HQ.out _ HA0.out).1 3 rfl, BoxN.cell (HQ.out _ HA0.out).1 4 rfl, BoxN.cell (HQ.out _ HA0.out).1 5 rfl⟩)
  go_enter Tryz.func29, Tryz.ntmps29
  go_upto_region 1 with fail
  rw [HE.out]
  clear HE
  go_wp2_with fail
  refine (HCp.out _ HA0.out).mono ?_
  rintro e y1 ⟨⟨b, cb, b', cb', va, vc, l', pa, pc, rfl, hs1, hm1⟩, hb1⟩
  have HV1 : Hid (VB (y1.alloc (.cells #[.slice b n cb, .slice b' n' cb', .int .i64 ep, .int .i64 nx, .slice va un vc, .slice pa hn pc] 32)) W2.heap.size y1.heap.size b n cb X b' n' cb' Y ep nx va un vc l' pa hn pc hs) := VB.new hs1 hb1.size
  have HC1 : Hid (Below W2.heap.size W2 (y1.alloc (.cells #[.slice b n cb, .slice b' n' cb', .int .i64 ep, .int .i64 nx, .slice va un vc, .slice pa hn pc] 32))) := hb1.alloc hb1.size _
  have HM : Hid (l'.map UE.u = l.map UE.u) := hm1
  clear hs1 hb1 hm1 c0 c1 c2 c3 c4 c5
  obtain ⟨c0, c1, c2, c3, c4, c5⟩ := (show _ ∧ _ ∧ _ ∧ _ ∧ _ ∧ _ from ⟨BoxN.cell (HQ.out _ HC1.out).1 0 rfl, BoxN.cell (HQ.out _ HC1.out).1 1 rfl, BoxN.cell (HQ.out _ HC1.out).1 2 rfl, BoxN.cell (HQ.out _ HC1.out).1 3 rfl, BoxN.cell (HQ.out _ HC1.out).1 4 rfl, BoxN.cell (HQ.out _ HC1.out).1 5 rfl⟩)
  go_wp2_with fail
  obtain ⟨w1, hw1⟩ : ∃ w1, y1.alloc (.cells #[.slice b n cb, .slice b' n' cb', .int .i64 ep, .int .i64 nx, .slice va un vc, .slice pa hn pc] 32) = w1 := ⟨_, rfl⟩
  rw [hw1] at HV1 HC1 ⊢
  clear hw1 c0 c1 c2 c3 c4 c5
  generalize y1.heap.size = bo at *
  refine (HOk.out _ HC1.out).mono ?_
  rintro e y2 ⟨rfl, hb2⟩
  have HV2 : Hid (VB y2 W2.heap.size bo b n cb X b' n' cb' Y ep nx va un vc l' pa hn pc hs) := HV1.out.stays hb2
  have HC2 : Hid (Below W2.heap.size W2 y2) := HC1.out.trans (hb2.mono HC1.out.size)
  have hlo : W2.heap.size ≤ bo := HV1.out.lob
  clear hb2 HV1 HC1
  cases ok with
  | false =>
    obtain ⟨r0, r1, r2, r3, r4, r5⟩ := (show _ ∧ _ ∧ _ ∧ _ ∧ _ ∧ _ from ⟨BoxN.cell (HQ.out _ HC2.out).2 0 rfl, BoxN.cell (HQ.out _ HC2.out).2 1 rfl, BoxN.cell (HQ.out _ HC2.out).2 2 rfl, BoxN.cell (HQ.out _ HC2.out).2 3 rfl, BoxN.cell (HQ.out _ HC2.out).2 4 rfl, BoxN.cell (HQ.out _ HC2.out).2 5 rfl⟩)
    obtain ⟨f0, f1, f2, f3, f4, f5⟩ := (show _ ∧ _ ∧ _ ∧ _ ∧ _ ∧ _ from ⟨BoxN.frozen (HQ.out _ HC2.out).2 0, BoxN.frozen (HQ.out _ HC2.out).2 1, BoxN.frozen (HQ.out _ HC2.out).2 2, BoxN.frozen (HQ.out _ HC2.out).2 3, BoxN.frozen (HQ.out _ HC2.out).2 4, BoxN.frozen (HQ.out _ HC2.out).2 5⟩)
    obtain ⟨o0, o1, o2, o3, o4, o5⟩ := (show _ ∧ _ ∧ _ ∧ _ ∧ _ ∧ _ from ⟨BoxN.cell HV2.out.box 0 rfl, BoxN.cell HV2.out.box 1 rfl, BoxN.cell HV2.out.box 2 rfl, BoxN.cell HV2.out.box 3 rfl, BoxN.cell HV2.out.box 4 rfl, BoxN.cell HV2.out.box 5 rfl⟩)
    have HBw : Hid (Below w.heap.size w y2) := HB2.out.trans (HC2.out.mono HB2.out.size)
    have HL9 : Hid (OwnH (y2.alloc (.cells #[] 54)) y2.heap.size (some ⟨y2.heap.size, 0, none⟩) 0 0 []) := ⟨World.ownsRow_lit y2 #[] 0 (Nat.le_refl _) (Nat.zero_le _) rfl, by simp⟩
    have hs3 : w.heap.size + 1 < y2.heap.size := by have := HC2.out.size; omega
    have HSV : Hid (SvAt y2 W2.heap.size b n cb X b' n' cb' Y va un vc l' pa hn pc hs) := HV2.out.sv
    have q9 : BoxN (y2.alloc (.cells #[] 54)) (w.heap.size + 1) 32 [.slice none 0 0, .slice none 0 0, .int .i64 0, .int .i64 0, .slice none 0 0, .slice none 0 0] := (HQ.out _ HC2.out).2.alloc _
    obtain ⟨u0, u1, u2, u3, u4, u5⟩ := (show _ ∧ _ ∧ _ ∧ _ ∧ _ ∧ _ from ⟨BoxN.cell q9 0 rfl, BoxN.cell q9 1 rfl, BoxN.cell q9 2 rfl, BoxN.cell q9 3 rfl, BoxN.cell q9 4 rfl, BoxN.cell q9 5 rfl⟩)
    obtain ⟨z0, z1, z2, z3, z4, z5⟩ := (show _ ∧ _ ∧ _ ∧ _ ∧ _ ∧ _ from ⟨BoxN.frozen q9 0, BoxN.frozen q9 1, BoxN.frozen q9 2, BoxN.frozen q9 3, BoxN.frozen q9 4, BoxN.frozen q9 5⟩)
    obtain ⟨t0, t1, t2, t3, t4, t5⟩ := (show _ ∧ _ ∧ _ ∧ _ ∧ _ ∧ _ from ⟨BoxN.cell (HV2.out.box.alloc (.cells #[] 54)) 0 rfl, BoxN.cell (HV2.out.box.alloc (.cells #[] 54)) 1 rfl, BoxN.cell (HV2.out.box.alloc (.cells #[] 54)) 2 rfl, BoxN.cell (HV2.out.box.alloc (.cells #[] 54)) 3 rfl, BoxN.cell (HV2.out.box.alloc (.cells #[] 54)) 4 rfl, BoxN.cell (HV2.out.box.alloc (.cells #[] 54)) 5 rfl⟩)
    obtain ⟨W8, hW8⟩ : ∃ W8, ((((((y2.setCell ⟨w.heap.size + 1, 0, none⟩ (.slice b n cb)).setCell ⟨w.heap.size + 1, 1, none⟩ (.slice b' n' cb')).setCell ⟨w.heap.size + 1, 2, none⟩ (.int .i64 ep)).setCell ⟨w.heap.size + 1, 3, none⟩ (.int .i64 nx)).setCell ⟨w.heap.size + 1, 4, none⟩ (.slice va un vc)).setCell ⟨w.heap.size + 1, 5, none⟩ (.slice pa hn pc)) = W8 := ⟨_, rfl⟩
    have HB8 : Hid (Below w.heap.size w W8) := by show Below _ _ _; rw [← hW8]; exact below_set6 HBw.out (by omega) _ _ _ _ _ _
    have HS8 : Hid (SvAt W8 W2.heap.size b n cb X b' n' cb' Y va un vc l' pa hn pc hs) := by show SvAt _ _ _ _ _ _ _ _ _ _ _ _ _ _ _ _ _ _; rw [← hW8]; exact HSV.out.set6 (by omega) _ _ _ _ _ _
    have HR8 : Hid (BoxN W8 (w.heap.size + 1) 32 [.slice b n cb, .slice b' n' cb', .int .i64 ep, .int .i64 nx, .slice va un vc, .slice pa hn pc]) := by show BoxN _ _ _ _; rw [← hW8]; exact BoxN.set6 (HQ.out _ HC2.out).2 _ _ _ _ _ _
    have HZ8 : Hid (W8.heap.size = y2.heap.size) := by show _ = _; rw [← hW8]; simp
    clear HQ HX HC2 HV2
    go_wp2_with fail
    clear hW8 t0 t1 t2 t3 t4 t5 o0 o1 o2 o3 o4 o5 u0 u1 u2 u3 u4 u5 z0 z1 z2 z3 z4 z5 r0 r1 r2 r3 r4 r5 f0 f1 f2 f3 f4 f5
    obtain ⟨W9, hW9⟩ : ∃ W9, W8.alloc (.cells #[] 54) = W9 := ⟨_, rfl⟩
    have HF : Hid (Below w.heap.size w W9 ∧ SvAt W9 W2.heap.size b n cb X b' n' cb' Y va un vc l' pa hn pc hs ∧ OwnH W9 W8.heap.size (some ⟨W8.heap.size, 0, none⟩) 0 0 [] ∧ w.heap.size ≤ W8.heap.size) := by
      show _ ∧ _
      rw [← hW9]
      exact ⟨HB8.out.alloc HB8.out.size _, HS8.out.stays ((Below.refl _ _).alloc (Nat.le_refl _) _), ⟨World.ownsRow_lit W8 #[] 0 (Nat.le_refl _) (Nat.zero_le _) rfl, by simp⟩, HB8.out.size⟩
    have hR9 : BoxN W9 (w.heap.size + 1) 32 [.slice b n cb, .slice b' n' cb', .int .i64 ep, .int .i64 nx, .slice va un vc, .slice pa hn pc] := by rw [← hW9]; exact HR8.out.alloc _
    rw [hW9, ← HZ8.out]
    clear hW9 HL9 q9 HSV
    obtain ⟨u0, u1, u2, u3, u4, u5⟩ := (show _ ∧ _ ∧ _ ∧ _ ∧ _ ∧ _ from ⟨BoxN.cell hR9 0 rfl, BoxN.cell hR9 1 rfl, BoxN.cell hR9 2 rfl, BoxN.cell hR9 3 rfl, BoxN.cell hR9 4 rfl, BoxN.cell hR9 5 rfl⟩)
    refine bodyPost_ret (v := .tuple #[.agg #[.slice b n cb, .slice b' n' cb', .int .i64 ep, .int .i64 nx, .slice va un vc, .slice pa hn pc], .slice (some ⟨W8.heap.size, 0, none⟩) 0 0]) (by simp [results, Tryz.f29, go_sem, u0, u1, u2, u3, u4, u5]) rfl ?_
    refine ⟨⟨_, _, rfl, ?_⟩, HF.out.1⟩
    rw [HRY.out, HRH.out, HRL.out]
    exact ⟨b, n, cb, b', n', cb', va, un, vc, l', pa, hn, pc, some ⟨W8.heap.size, 0, none⟩, 0, 0, rfl, rfl, HF.out.2.1.low (by omega), HM.out, HF.out.2.2.1.low HF.out.2.2.2, fun h => Bool.noConfusion h⟩
  | true =>
    obtain ⟨c0, c1, c2, c3, c4, c5⟩ := (show _ ∧ _ ∧ _ ∧ _ ∧ _ ∧ _ from ⟨BoxN.cell (HQ.out _ HC2.out).1 0 rfl, BoxN.cell (HQ.out _ HC2.out).1 1 rfl, BoxN.cell (HQ.out _ HC2.out).1 2 rfl, BoxN.cell (HQ.out _ HC2.out).1 3 rfl, BoxN.cell (HQ.out _ HC2.out).1 4 rfl, BoxN.cell (HQ.out _ HC2.out).1 5 rfl⟩)
    go_wp2_with fail
    refine (HSy.out _ HC2.out (HBk.out (by simp))).mono ?_
    rintro e y3 ⟨⟨d, cd, d', cd', ea, ec, l3, rfl, hs3, hm3⟩, hb3⟩
    have HC3 : Hid (Below W2.heap.size W2 y3) := HC2.out.trans (hb3.mono HC2.out.size)
    have HV3 : Hid (VB y3 W2.heap.size bo b n cb X b' n' cb' Y ep nx va un vc l' pa hn pc hs) := HV2.out.stays hb3
    have HS3 : Hid (StoAt y3 y2.heap.size d n cd X d' n cd' X ea un ec l3 ∧ l3.map UE.u = l.map UE.u) := ⟨hs3, hm3⟩
    have hby : bo < y2.heap.size := HV2.out.box.lt
    have hy23 : y2.heap.size ≤ y3.heap.size := hb3.size
    have ho := HV3.out.box
    obtain ⟨o0, o1, o2, o3, o4, o5⟩ := (show _ ∧ _ ∧ _ ∧ _ ∧ _ ∧ _ from ⟨BoxN.cell ho 0 rfl, BoxN.cell ho 1 rfl, BoxN.cell ho 2 rfl, BoxN.cell ho 3 rfl, BoxN.cell ho 4 rfl, BoxN.cell ho 5 rfl⟩)
    obtain ⟨z0, z1, z2, z3, z4, z5⟩ := (show _ ∧ _ ∧ _ ∧ _ ∧ _ ∧ _ from ⟨BoxN.frozen ho 0, BoxN.frozen ho 1, BoxN.frozen ho 2, BoxN.frozen ho 3, BoxN.frozen ho 4, BoxN.frozen ho 5⟩)
    obtain ⟨x4, hx4⟩ : ∃ x4, ((((y3.setCell ⟨bo, 0, none⟩ (.slice d n cd)).setCell ⟨bo, 1, none⟩ (.slice d' n cd')).setCell ⟨bo, 2, none⟩ (.int .i64 ep)).setCell ⟨bo, 3, none⟩ (.int .i64 nx)).setCell ⟨bo, 4, none⟩ (.slice ea un ec) = x4 := ⟨_, rfl⟩
    have HE4 : Hid (((((y3.setCell ⟨bo, 0, none⟩ (.slice d n cd)).setCell ⟨bo, 1, none⟩ (.slice d' n cd')).setCell ⟨bo, 2, none⟩ (.int .i64 ep)).setCell ⟨bo, 3, none⟩ (.int .i64 nx)).setCell ⟨bo, 4, none⟩ (.slice ea un ec) = x4) := hx4
    have HO4 : Hid (BoxN x4 bo 32 [.slice d n cd, .slice d' n cd', .int .i64 ep, .int .i64 nx, .slice ea un ec, .slice pa hn pc]) := by show BoxN _ _ _ _; rw [← hx4]; exact ((((ho.set 0 _).set 1 _).set 2 _).set 3 _).set 4 _
    have HS4 : Hid (StoAt x4 y2.heap.size d n cd X d' n cd' X ea un ec l3) := by show StoAt _ _ _ _ _ _ _ _ _ _ _ _ _ _; rw [← hx4]; exact ((((HS3.out.1.setLow hby _).setLow hby _).setLow hby _).setLow hby _).setLow hby _
    have HC4 : Hid (Below W2.heap.size W2 x4) := by show Below _ _ _; rw [← hx4]; exact ((((HC3.out.setCell hlo _).setCell hlo _).setCell hlo _).setCell hlo _).setCell hlo _
    have hz4 : y3.heap.size ≤ x4.heap.size := by rw [← hx4]; simp
    clear hx4 ho hs3 hm3 hb3 HV2 HV3 HC3 c0 c1 c2 c3 c4 c5
    go_upto_region 5 with fail
    rw [HE4.out]
    clear HE4 o0 o1 o2 o3 o4 o5 z0 z1 z2 z3 z4 z5
    have o5 := HO4.out.cell 5 rfl
    have z5 := HO4.out.frozen 5
    obtain ⟨x6, hx6⟩ : ∃ x6, (x4.setCell ⟨bo, 5, none⟩ (.slice (some ⟨x4.heap.size, 0, none⟩) 0 0)).alloc (.cells #[] 54) = x6 := ⟨_, rfl⟩
    have HE6 : Hid ((x4.setCell ⟨bo, 5, none⟩ (.slice (some ⟨x4.heap.size, 0, none⟩) 0 0)).alloc (.cells #[] 54) = x6) := hx6
    have hbx : bo < x4.heap.size := by omega
    have HO6 : Hid (BoxN x6 bo 32 [.slice d n cd, .slice d' n cd', .int .i64 ep, .int .i64 nx, .slice ea un ec, .slice (some ⟨x4.heap.size, 0, none⟩) 0 0]) := by show BoxN _ _ _ _; rw [← hx6]; exact (HO4.out.set 5 _).alloc _
    have HS6 : Hid (SvAt x6 y2.heap.size d n cd X d' n cd' X ea un ec l3 (some ⟨x4.heap.size, 0, none⟩) 0 0 []) := by
      show SvAt _ _ _ _ _ _ _ _ _ _ _ _ _ _ _ _ _ _
      rw [← hx6]
      refine ⟨(HS4.out.setLow hby _).stays ((Below.refl _ _).alloc (Nat.le_refl _) _), ?_⟩
      have h9 : OwnH ((x4.setCell ⟨bo, 5, none⟩ (.slice (some ⟨x4.heap.size, 0, none⟩) 0 0)).alloc (.cells #[] 54)) x4.heap.size (some ⟨x4.heap.size, 0, none⟩) 0 0 [] := by
        have h8 := World.ownsRow_lit (x4.setCell ⟨bo, 5, none⟩ (.slice (some ⟨x4.heap.size, 0, none⟩) 0 0)) (e := 54) (size := 3) (base := x4.heap.size) #[] 0 (by simp) (Nat.zero_le _) rfl
        rw [show (x4.setCell ⟨bo, 5, none⟩ (.slice (some ⟨x4.heap.size, 0, none⟩) 0 0)).heap.size = x4.heap.size by simp] at h8
        exact ⟨h8, by simp⟩
      exact h9.low (by omega)
    have HC6 : Hid (Below W2.heap.size W2 x6) := by
      show Below _ _ _
      rw [← hx6]
      have h8 := Below.setCell (p := ⟨bo, 5, none⟩) HC4.out hlo (.slice (some ⟨x4.heap.size, 0, none⟩) 0 0)
      exact h8.alloc h8.size _
    clear hx6 HO4 HS4 HC4
    go_upto_region 6 with fail
    rw [HE6.out]
    clear HE6 o5 z5
    obtain ⟨gh, hgh⟩ : ∃ gh, x4.heap.size = gh := ⟨_, rfl⟩
    rw [hgh] at HO6 HS6 ⊢
    clear hgh hz4 hbx
    have HBa : Hid (Below W2.heap.size W2 (x6.alloc (.cells #[] 54)).drew) := (HC6.out.alloc HC6.out.size _).drew
    have HBz : Hid (Below x6.heap.size x6 (x6.alloc (.cells #[] 54)).drew) := ((Below.refl _ _).alloc (Nat.le_refl _) _).drew
    have HLa : Hid ((x6.alloc (.cells #[] 54)).heap[x6.heap.size]? = some (.cells #[] 54)) := heap_alloc_new _ _
    have hne2 : bo ≠ w.heap.size + 1 := by omega
    obtain ⟨c0, c1, c2, c3, c4, c5⟩ := (show _ ∧ _ ∧ _ ∧ _ ∧ _ ∧ _ from ⟨BoxN.cell (HQ.out _ HC6.out).1 0 rfl, BoxN.cell (HQ.out _ HC6.out).1 1 rfl, BoxN.cell (HQ.out _ HC6.out).1 2 rfl, BoxN.cell (HQ.out _ HC6.out).1 3 rfl, BoxN.cell (HQ.out _ HC6.out).1 4 rfl, BoxN.cell (HQ.out _ HC6.out).1 5 rfl⟩)
    obtain ⟨d0, d1, d2, d3, d4, d5⟩ := (show _ ∧ _ ∧ _ ∧ _ ∧ _ ∧ _ from ⟨BoxN.cell HO6.out 0 rfl, BoxN.cell HO6.out 1 rfl, BoxN.cell HO6.out 2 rfl, BoxN.cell HO6.out 3 rfl, BoxN.cell HO6.out 4 rfl, BoxN.cell HO6.out 5 rfl⟩)
    obtain ⟨k0, k1, k2, k3, k4, k5⟩ := (show _ ∧ _ ∧ _ ∧ _ ∧ _ ∧ _ from ⟨BoxN.cell (HQ.out _ HBa.out).1 0 rfl, BoxN.cell (HQ.out _ HBa.out).1 1 rfl, BoxN.cell (HQ.out _ HBa.out).1 2 rfl, BoxN.cell (HQ.out _ HBa.out).1 3 rfl, BoxN.cell (HQ.out _ HBa.out).1 4 rfl, BoxN.cell (HQ.out _ HBa.out).1 5 rfl⟩)
    obtain ⟨t0, t1, t2, t3, t4, t5⟩ := (show _ ∧ _ ∧ _ ∧ _ ∧ _ ∧ _ from ⟨BoxN.cell (HO6.out.stays HBz.out) 0 rfl, BoxN.cell (HO6.out.stays HBz.out) 1 rfl, BoxN.cell (HO6.out.stays HBz.out) 2 rfl, BoxN.cell (HO6.out.stays HBz.out) 3 rfl, BoxN.cell (HO6.out.stays HBz.out) 4 rfl, BoxN.cell (HO6.out.stays HBz.out) 5 rfl⟩)
    go_region_held3 (fun W => W.cell? ⟨bo, 0, none⟩ = some (.slice d n cd) ∧ W.cell? ⟨bo, 1, none⟩ = some (.slice d' n cd') ∧ W.cell? ⟨bo, 2, none⟩ = some (.int .i64 ep) ∧ W.cell? ⟨bo, 3, none⟩ = some (.int .i64 nx) ∧ W.cell? ⟨bo, 4, none⟩ = some (.slice ea un ec) ∧ W.cell? ⟨bo, 5, none⟩ = some (.slice (some ⟨gh, 0, none⟩) 0 0) ∧ W.cell? ⟨w.heap.size, 5, none⟩ = some (.slice ha hn hc)) (first | with_reducible exact ⟨m0, m1, m2, m3, m4, m5, n5⟩ | with_reducible exact ⟨cellD_kept hne2 (cellD_kept hne2 (cellD_kept hne2 (cellD_kept hne2 (cellD_kept hne2 (cellD_kept hne2 (m0)))))), cellD_kept hne2 (cellD_kept hne2 (cellD_kept hne2 (cellD_kept hne2 (cellD_kept hne2 (cellD_kept hne2 (m1)))))), cellD_kept hne2 (cellD_kept hne2 (cellD_kept hne2 (cellD_kept hne2 (cellD_kept hne2 (cellD_kept hne2 (m2)))))), cellD_kept hne2 (cellD_kept hne2 (cellD_kept hne2 (cellD_kept hne2 (cellD_kept hne2 (cellD_kept hne2 (m3)))))), cellD_kept hne2 (cellD_kept hne2 (cellD_kept hne2 (cellD_kept hne2 (cellD_kept hne2 (cellD_kept hne2 (m4)))))), cellD_kept hne2 (cellD_kept hne2 (cellD_kept hne2 (cellD_kept hne2 (cellD_kept hne2 (cellD_kept hne2 (m5)))))), cellD_kept hne (cellD_kept hne (cellD_kept hne (cellD_kept hne (cellD_kept hne (cellD_kept hne (n5))))))⟩ | with_reducible exact ⟨t0, t1, t2, t3, t4, t5, k5⟩ | exact ⟨d0, d1, d2, d3, d4, d5, c5⟩ | fail) (first
      | (refine step_append_lit rfl (.tmp 19) (.tmp 21) 30 30 rfl W2.heap.size 54 i0 (.agg #[.int .i64 0, .int .i64 0, .int .i64 0]) 3 24 Tryz.underlying30 hi hz0 hz1 hz2 rfl (by decide) x6.heap.size rfl HLa.out (Below.size HC6.out) _ hn (heCells hs) rfl (HX.out _ HBa.out).2.2.2.src (by unfold maxLen; omega) (by omega) (Below.size HBa.out) ?_; intro g2 cg2 y7 hown2 hb2 hw2
         have hB7 : Below W2.heap.size W2 y7 := Below.trans HBa.out (hb2.mono (Below.size HBa.out))
         have hB67 : Below x6.heap.size x6 y7 := Below.trans HBz.out (hb2.mono (Below.size HBz.out))
         have m0 := BoxN.cell (HO6.out.stays hB67) 0 rfl
         have m1 := BoxN.cell (HO6.out.stays hB67) 1 rfl
         have m2 := BoxN.cell (HO6.out.stays hB67) 2 rfl
         have m3 := BoxN.cell (HO6.out.stays hB67) 3 rfl
         have m4 := BoxN.cell (HO6.out.stays hB67) 4 rfl
         have m5 := BoxN.cell (HO6.out.stays hB67) 5 rfl
         have n5 := BoxN.cell (HQ.out _ hB7).1 5 rfl
         have r0 := BoxN.cell (HQ.out _ hB7).2 0 rfl
         have r1 := BoxN.cell (HQ.out _ hB7).2 1 rfl
         have r2 := BoxN.cell (HQ.out _ hB7).2 2 rfl
         have r3 := BoxN.cell (HQ.out _ hB7).2 3 rfl
         have r4 := BoxN.cell (HQ.out _ hB7).2 4 rfl
         have r5 := BoxN.cell (HQ.out _ hB7).2 5 rfl
         have f0 := BoxN.frozen (HQ.out _ hB7).2 0
         have f1 := BoxN.frozen (HQ.out _ hB7).2 1
         have f2 := BoxN.frozen (HQ.out _ hB7).2 2
         have f3 := BoxN.frozen (HQ.out _ hB7).2 3
         have f4 := BoxN.frozen (HQ.out _ hB7).2 4
         have f5 := BoxN.frozen (HQ.out _ hB7).2 5)
      | fail)
    all_goals
      have HF : Hid (SvAt y7 y2.heap.size d n cd X d' n cd' X ea un ec l3 (some ⟨gh, 0, none⟩) 0 0 [] ∧ OwnH y7 W2.heap.size (some ⟨g2, 0, none⟩) hn cg2 hs ∧ Below w.heap.size w y7) := ⟨HS6.out.stays hB67, ⟨hown2, HL.out.2.2.2.1⟩, HB2.out.trans (hB7.mono HB2.out.size)⟩
      have HSO : Hid (SOk X Y ep nx (l.map UE.u)) := HBk.out (by simp)
      clear hown2 hb2 hw2 hB7 hB67 n5 c0 c1 c2 c3 c4 c5 d0 d1 d2 d3 d4 d5 k0 k1 k2 k3 k4 k5 t0 t1 t2 t3 t4 t5 m0 m1 m2 m3 m4 m5 HQ HX HBa HBz HLa HC6 HO6 HS6 HCp HSy HOk HBk
      go_wp2_with fail
      refine bodyPost_ret (v := .tuple #[.agg #[.slice d n cd, .slice d' n cd', .int .i64 ep, .int .i64 nx, .slice ea un ec, .slice (some ⟨gh, 0, none⟩) 0 0], .slice (some ⟨g2, 0, none⟩) hn cg2]) (by simp [results, Tryz.f29, go_sem, r0, r1, r2, r3, r4, r5]) rfl ?_
      refine ⟨⟨_, _, rfl, ?_⟩, below_set6 HF.out.2.2 (by omega) _ _ _ _ _ _⟩
      rw [HRY.out, HRH.out, HRL.out]
      simp only [if_pos, syncY_len HSO.out]
      exact ⟨d, n, cd, d', n, cd', ea, un, ec, l3, some ⟨gh, 0, none⟩, 0, 0, some ⟨g2, 0, none⟩, hn, cg2, rfl, rfl, (HF.out.1.set6 (by omega) _ _ _ _ _ _).low (by omega), HS3.out.2, (HF.out.2.1.set6 (by omega) _ _ _ _ _ _).low (by omega), fun h => Bool.noConfusion h⟩

end Go.Proofs.YtlkgopoicpnacaaGreatDoor

namespace Go.Proofs.YtlkgopoicpnacaaGreatDoor
open Go.RowKit
set_option linter.unusedVariables false

def DOut (w W : World) (d d' : Value) (o : Nat) (v v' : Value) (k k' : Nat) (X Y : List ByteArray) : Prop :=
  Box2R W w.heap.size 26 d d' ∧ Box2R W (w.heap.size + 1) 26 (.slice none 0 0) (.slice none 0 0) ∧ Box2R W o 26 v v' ∧
  OwnSt W (w.heap.size + 2) v k X ∧ OwnSt W (w.heap.size + 2) v' k' Y ∧ (∀ q, blkOf v = some q → q < o ∧ blkOf v' ≠ some q) ∧ (∀ q, blkOf v' = some q → q < o) ∧ w.heap.size + 2 ≤ o ∧ Below w.heap.size w W

section
variable {w W W' : World} {d d' v v' : Value} {o k k' : Nat} {X Y : List ByteArray}

theorem DOut.stays (h : DOut w W d d' o v v' k k' X Y) (hb : Below W.heap.size W W') : DOut w W' d d' o v v' k k' X Y := by
  obtain ⟨h1, h2, h3, h4, h5, h6, h7, h8, h9⟩ := h
  exact ⟨h1.stays hb, h2.stays hb, h3.stays hb, h4.below hb, h5.below hb, h6, h7, h8, h9.trans (hb.mono h9.size)⟩

theorem DOut.new {x : World} (h1 : Box2R W w.heap.size 26 d d') (h2 : Box2R W (w.heap.size + 1) 26 (.slice none 0 0) (.slice none 0 0)) (hz : W.heap.size = w.heap.size + 2) (hb : Below w.heap.size w W) (hx : Below W.heap.size W x)
    (o1 : OwnSt x W.heap.size v k X) (o2 : OwnSt x W.heap.size v' k' Y) (hne : ∀ q, blkOf v = some q → blkOf v' ≠ some q) : DOut w (x.alloc (.cells #[v, v'] 26)) d d' x.heap.size v v' k k' X Y := by
  have ha := (Below.refl x.heap.size x).alloc (Nat.le_refl _) (.cells #[v, v'] 26)
  have hxs := hx.size
  refine ⟨(h1.stays hx).alloc _, (h2.stays hx).alloc _, Box2R.new _ _ _ _, (o1.below ha).low (by omega), (o2.below ha).low (by omega), fun q e => ⟨(o1.lt q e).2, hne q e⟩, fun q e => (o2.lt q e).2, by omega, ?_⟩
  have hbx := hb.trans (hx.mono hb.size)
  exact hbx.alloc hbx.size _

/-- One text of the first row is written. -/
theorem DOut.put0 {g c j : Nat} (h : DOut w W d d' o (.slice (some ⟨g, 0, none⟩) k c) v' k k' X Y) (x : ByteArray) (hx : x.size ≤ maxLen) : DOut w (W.setCell ⟨g, j, none⟩ (.string x)) d d' o (.slice (some ⟨g, 0, none⟩) k c) v' k k' (X.set j x) Y := by
  obtain ⟨h1, h2, h3, h4, h5, h6, h7, h8, h9⟩ := h
  have hg := (h4.lt g rfl).1
  have hgo := (h6 g rfl).1
  have hst := (h4.1.stored j (.string x)).1
  rw [scells_set] at hst
  refine ⟨h1.other (by omega) _, h2.other (by omega) _, h3.other (by omega) _, ⟨hst, fun y hy => ?_⟩, h5.setCell (h6 g rfl).2 _, h6, h7, h8, h9.setCell (by dsimp only; omega) _⟩
  rcases List.mem_or_eq_of_mem_set hy with hy | rfl
  · exact h4.2 y hy
  · exact hx

/-- One text of the second row is written. -/
theorem DOut.put1 {g c j : Nat} (h : DOut w W d d' o v (.slice (some ⟨g, 0, none⟩) k' c) k k' X Y) (x : ByteArray) (hx : x.size ≤ maxLen) : DOut w (W.setCell ⟨g, j, none⟩ (.string x)) d d' o v (.slice (some ⟨g, 0, none⟩) k' c) k k' X (Y.set j x) := by
  obtain ⟨h1, h2, h3, h4, h5, h6, h7, h8, h9⟩ := h
  have hg := (h5.lt g rfl).1
  have hgo := h7 g rfl
  have hst := (h5.1.stored j (.string x)).1
  rw [scells_set] at hst
  refine ⟨h1.other (by omega) _, h2.other (by omega) _, h3.other (by omega) _, h4.setCell (fun e => (h6 g e).2 rfl) _, ⟨hst, fun y hy => ?_⟩, h6, h7, h8, h9.setCell (by dsimp only; omega) _⟩
  rcases List.mem_or_eq_of_mem_set hy with hy | rfl
  · exact h5.2 y hy
  · exact hx

/-- The copy is the answer. -/
theorem DOut.done {A A' : Option Addr} {c c' : Nat} (h : DOut w W d d' o (.slice A k c) (.slice A' k' c') k k' X Y) : AnsD w.heap.size X Y (.agg #[.slice A k c, .slice A' k' c']) ((W.setCell ⟨w.heap.size + 1, 0, none⟩ (.slice A k c)).setCell ⟨w.heap.size + 1, 1, none⟩ (.slice A' k' c')) ∧ Below w.heap.size w ((W.setCell ⟨w.heap.size + 1, 0, none⟩ (.slice A k c)).setCell ⟨w.heap.size + 1, 1, none⟩ (.slice A' k' c')) := by
  obtain ⟨h1, h2, h3, h4, h5, h6, h7, h8, h9⟩ := h
  have n0 : blkOf (.slice A k c) ≠ some (w.heap.size + 1) := fun e => by have := (h4.lt _ e).1; omega
  have n1 : blkOf (.slice A' k' c') ≠ some (w.heap.size + 1) := fun e => by have := (h5.lt _ e).1; omega
  refine ⟨AnsD.mk' h4.len h5.len (((h4.setCell n0 _).setCell n0 _).low (by omega)) (((h5.setCell n1 _).setCell n1 _).low (by omega)) (fun q e e2 => ?_), (h9.setCell (by dsimp only; omega) _).setCell (by dsimp only; omega) _⟩
  refine (h6 q ?_).2 ?_
  · cases A <;> simp_all [blkOf]
  · cases A' <;> simp_all [blkOf]
end

end Go.Proofs.YtlkgopoicpnacaaGreatDoor

namespace Go.Proofs.YtlkgopoicpnacaaGreatDoor
open Go.RowKit
set_option linter.unusedVariables false

theorem blkOf_sF (a : Option Addr) (n c : Nat) : blkOf (.slice a n c) = a.map (·.block) := by cases a <;> rfl

set_option maxRecDepth 10000 in
set_option maxHeartbeats 3200000 in
theorem specFall_any (a : Option Addr) (n ca : Nat) (xs : List ByteArray) (a' : Option Addr) (n' ca' : Nat) (ys : List ByteArray) (ka : Option Addr) (m kc : Nat) (ks : List Bool) (w : World) (h1 : Strs w a n xs) (h2 : Strs w a' n' ys) (h3 : Bools w ka m ks) (hn : n ≤ 2097152) (hn' : n' ≤ 2097152) (hm : m ≤ 1099511627776) :
    Calls Tryz.prog 52 #[.agg #[.slice a n ca, .slice a' n' ca'], .slice ka m kc] w fun e w' => (∃ v, e = .returned v ∧ AnsD w.heap.size (fallX xs ys ks) (fallY xs ys ks) v w') ∧ Below w.heap.size w w' := by
  have HK : Hid (∀ W, Below w.heap.size w W → Bools W ka m ks) := fun W h => h3.below h
  have HKl : Hid (ks.length = m) := h3.1
  clear h3
  have HX : Hid (∀ W, Below w.heap.size w W → Strs W a n xs ∧ Strs W a' n' ys) := fun W h => ⟨h1.below h, h2.below h⟩
  have HLn : Hid (xs.length = n ∧ ys.length = n') := ⟨h1.1, h2.1⟩
  obtain ⟨W2, hW2⟩ : ∃ W2, (w.alloc (.cells #[.slice a n ca, .slice a' n' ca'] 26)).alloc (.cells #[.slice none 0 0, .slice none 0 0] 26) = W2 := ⟨_, rfl⟩
  have HE : Hid ((w.alloc (.cells #[.slice a n ca, .slice a' n' ca'] 26)).alloc (.cells #[.slice none 0 0, .slice none 0 0] 26) = W2) := hW2
  have HB2 : Hid (Below w.heap.size w W2) := by show Below _ _ _; rw [← hW2]; exact ((Below.refl _ _).alloc (Nat.le_refl _) _).alloc (by simp) _
  have HZ2 : Hid (W2.heap.size = w.heap.size + 2) := by show _ = _; rw [← hW2]; simp
  have HQ1 : Hid (Box2R W2 w.heap.size 26 (.slice a n ca) (.slice a' n' ca')) := by show Box2R _ _ _ _ _; rw [← hW2]; exact (Box2R.new _ _ _ _).alloc _
  have HQ2 : Hid (Box2R W2 (w.heap.size + 1) 26 (.slice none 0 0) (.slice none 0 0)) := by
    show Box2R _ _ _ _ _
    rw [← hW2]
    have := Box2R.new (w.alloc (.cells #[.slice a n ca, .slice a' n' ca'] 26)) 26 (.slice none 0 0) (.slice none 0 0)
    rwa [World.size_alloc] at this
  clear hW2 h1 h2
  go_enter Tryz.func52, Tryz.ntmps52
  go_upto_region 1 with fail
  rw [HE.out]
  clear HE
  obtain ⟨c0, c1⟩ := HQ1.out.cells
  go_wp2_with fail
  refine (specDcopy_any a n ca xs a' n' ca' ys _ (HX.out _ HB2.out).1 (HX.out _ HB2.out).2 hn hn').mono ?_
  rintro e x3 ⟨⟨v, rfl, A, C, A', C', rfl, o1, o2, hap⟩, hb3⟩
  rw [HLn.out.1] at o1 ⊢
  rw [HLn.out.2] at o2 ⊢
  have HD : Hid (DOut w (x3.alloc (.cells #[.slice A n C, .slice A' n' C'] 26)) (.slice a n ca) (.slice a' n' ca') x3.heap.size (.slice A n C) (.slice A' n' C') n n' xs ys) := DOut.new HQ1.out HQ2.out HZ2.out HB2.out hb3 o1 o2 (fun q e e2 => by rw [blkOf_sF] at e e2; exact hap q e e2)
  clear o1 o2 hap hb3 HQ1 HQ2 HB2 HZ2 c0 c1
  go_upto_region 2 with fail
  obtain ⟨W3, hW3⟩ : ∃ W3, x3.alloc (.cells #[.slice A n C, .slice A' n' C'] 26) = W3 := ⟨_, rfl⟩
  rw [hW3] at HD ⊢
  clear hW3
  generalize x3.heap.size = o at *
  obtain ⟨c0, c1⟩ := HD.out.1.cells
  go_wp2_with fail
  refine (specDok_any a n ca xs a' n' ca' ys _ (HX.out _ HD.out.2.2.2.2.2.2.2.2).1 (HX.out _ HD.out.2.2.2.2.2.2.2.2).2 (by omega) (by omega)).mono ?_
  rintro e x4 ⟨rfl, hb4⟩
  have HDx : Hid (DOut w x4 (.slice a n ca) (.slice a' n' ca') o (.slice A n C) (.slice A' n' C') n n' xs ys) := HD.out.stays hb4
  clear hb4 HD c0 c1
  cases hok : okD xs ys
  · have HPX : Hid (fallX xs ys ks = xs) := by show _ = _; rw [fallX, hok]; rfl
    have HPY : Hid (fallY xs ys ks = ys) := by show _ = _; rw [fallY, hok]; rfl
    clear hok
    obtain ⟨c0, c1⟩ := HDx.out.2.2.1.cells
    obtain ⟨r0, r1⟩ := HDx.out.2.1.cells
    have f0 := HDx.out.2.1.frozen 0
    have f1 := HDx.out.2.1.frozen 1
    have HR := (show Hid _ from HDx.out.done)
    clear HDx
    go_wp2_with fail
    refine bodyPost_ret (v := .agg #[.slice A n C, .slice A' n' C']) (by simp [results, Tryz.f52, go_sem, r0, r1]) rfl ?_
    exact ⟨⟨_, rfl, by rw [HPX.out, HPY.out]; exact HR.out.1⟩, HR.out.2⟩
  obtain rfl : n = n' := by
    have h := (okD_iff.1 hok).1
    have := HLn.out
    omega
  have HPX : Hid (fallX xs ys ks = fallL xs ys ks) := by show _ = _; rw [fallX, hok]; rfl
  have HPY : Hid (fallY xs ys ks = fallL xs ys ks) := by show _ = _; rw [fallY, hok]; rfl
  have HFl : Hid ((fallL xs ys ks).length = xs.length ∧ (fallL xs ys ks).length = ys.length) := ⟨fallL_len _ _ _, (fallL_len _ _ _).trans (okD_iff.1 hok).1⟩
  have HFa : Hid (∀ (k : Nat) (x y : ByteArray), xs[k]? = some x → ys[k]? = some y → (fallL xs ys ks)[k]? = some (if ks.getD k false then x else y)) := fun k x y h1 h2 => fallL_at h1 h2
  clear hok
  generalize fallL xs ys ks = F at *
  obtain ⟨c0, c1⟩ := HDx.out.2.2.1.cells
  go_wp2_with fail
  clear c0 c1
  go_loopw [6] (fun i wr => ∃ k : Nat, k ≤ n ∧ i = .int .i64 (k : Int) ∧ Hid (DOut w wr (.slice a n ca) (.slice a' n ca') o (.slice A n C) (.slice A' n C') n n (fallTo F xs k) (fallTo F ys k))) (fun i _ => n - (intOf i).toNat)
  case atStart => exact ⟨0, Nat.zero_le _, rfl, by rw [fallTo_zero, fallTo_zero]; exact HDx⟩
  case round =>
    clear HDx
    obtain ⟨k, hk, rfl, HDk⟩ := hrel
    obtain ⟨c0, c1⟩ := HDk.out.2.2.1.cells
    by_cases hlt : k < n
    · obtain ⟨g, rfl⟩ : ∃ g, A = some ⟨g, 0, none⟩ := by
        rcases HDk.out.2.2.2.1.1.2 with ⟨_, h0⟩ | ⟨g, cap', cur, he, _⟩
        · omega
        · injection he with e1 _ _
          exact ⟨g, e1⟩
      obtain ⟨g', rfl⟩ : ∃ g, A' = some ⟨g, 0, none⟩ := by
        rcases HDk.out.2.2.2.2.1.1.2 with ⟨_, h0⟩ | ⟨g, cap', cur, he, _⟩
        · omega
        · injection he with e1 _ _
          exact ⟨g, e1⟩
      obtain ⟨x, hx⟩ : ∃ x, xs[k]? = some x := ⟨_, List.getElem?_eq_getElem (by have := HLn.out; omega)⟩
      obtain ⟨y, hy⟩ : ∃ y, ys[k]? = some y := ⟨_, List.getElem?_eq_getElem (by have := HLn.out; omega)⟩
      have HXY : Hid (xs[k]? = some x ∧ ys[k]? = some y) := ⟨hx, hy⟩
      have hxm : x.size ≤ maxLen := (HX.out w (Below.refl _ _)).1.2.1 x (List.mem_of_getElem? hx)
      have hym : y.size ≤ maxLen := (HX.out w (Below.refl _ _)).2.2.1 y (List.mem_of_getElem? hy)
      have hgx : wr.cell? ⟨g, k, none⟩ = some (.string x) := by
        rw [HDk.out.2.2.2.1.1.cellAt _ (by omega)]
        have h := fallTo_at F xs k HFl.out.1 (by have := HLn.out; omega)
        rw [hx] at h
        simp [scells, h]
      have hgy : wr.cell? ⟨g', k, none⟩ = some (.string y) := by
        rw [HDk.out.2.2.2.2.1.1.cellAt _ (by omega)]
        have h := fallTo_at F ys k HFl.out.2 (by have := HLn.out; omega)
        rw [hy] at h
        simp [scells, h]
      have HFk0 := (show Hid _ from HFa.out k x y hx hy)
      clear hx hy
      have hki : (k : Int) < (n : Int) := by omega
      have hk0 : (0 : Int) ≤ (k : Int) := by omega
      have hbel := HDk.out.2.2.2.2.2.2.2.2
      by_cases hkm : k < m
      case neg =>
        have HFk : Hid (F[k]? = some y) := by
          have h := HFk0.out
          have e : ks[k]? = none := List.getElem?_eq_none (by have := HKl.out; omega)
          rw [List.getD_eq_getElem?_getD, e] at h
          exact h
        have hkmi : ¬ (k : Int) < (m : Int) := by omega
        clear HFk0 hbel
        have HD2 : Hid (DOut w (wr.setCell ⟨g, k, none⟩ (.string y)) (.slice a n ca) (.slice a' n ca') o (.slice (some ⟨g, 0, none⟩) n C) (.slice (some ⟨g', 0, none⟩) n C') n n (fallTo F xs (k + 1)) (fallTo F ys (k + 1))) := by
          have h := HDk.out.put0 (j := k) y hym
          rw [fallTo_set F xs k y HFl.out.1 (by have := HLn.out; omega) HFk.out, fallTo_same F ys k y HFl.out.2 HXY.out.2 HFk.out] at h
          exact h
        have fz : wr.frozen? ⟨g, k, none⟩ = false := HDk.out.2.2.2.1.1.frozenAt _
        have ne1 : o ≠ g := (by have := (HDk.out.2.2.2.2.2.1 g rfl).1; omega)
        have ne2 : g' ≠ g := fun e => (HDk.out.2.2.2.2.2.1 g rfl).2 (by rw [← e]; rfl)
        clear HDk HXY HFk
        go_wp2_with fail
        go_region_held3 (fun W => W.cell? ⟨o, 0, none⟩ = some (.slice (some ⟨g, 0, none⟩) n C) ∧ W.cell? ⟨o, 1, none⟩ = some (.slice (some ⟨g', 0, none⟩) n C') ∧ W.cell? ⟨g', k, none⟩ = some (.string y)) (first | (refine ⟨?_, ?_, ?_⟩ <;> assumption) | (exact ⟨cellD_kept ne1 (by assumption), cellD_kept ne1 (by assumption), cellD_kept ne2 (by assumption)⟩) | go_keep) (fail)
        go_wp2_with fail
        go_roundw
        case rel => exact ⟨k + 1, by omega, by go_num, HD2.out.stays (Below.refl _ _).drew⟩
        case measure => simp [intOf]; omega
      obtain ⟨kb, ko, b, rfl, _, hkb, hcb⟩ := (HK.out _ hbel).at hkm
      have hkmi : (k : Int) < (m : Int) := by omega
      have HFk1 : Hid (F[k]? = some (if b then x else y)) := by
        have h := HFk0.out
        rw [List.getD_eq_getElem?_getD, hkb] at h
        exact h
      clear HFk0 hkb hbel
      cases b
      · have HFk : Hid (F[k]? = some y) := HFk1.out
        clear HFk1
        have HD2 : Hid (DOut w (wr.setCell ⟨g, k, none⟩ (.string y)) (.slice a n ca) (.slice a' n ca') o (.slice (some ⟨g, 0, none⟩) n C) (.slice (some ⟨g', 0, none⟩) n C') n n (fallTo F xs (k + 1)) (fallTo F ys (k + 1))) := by
          have h := HDk.out.put0 (j := k) y hym
          rw [fallTo_set F xs k y HFl.out.1 (by have := HLn.out; omega) HFk.out, fallTo_same F ys k y HFl.out.2 HXY.out.2 HFk.out] at h
          exact h
        have fz : wr.frozen? ⟨g, k, none⟩ = false := HDk.out.2.2.2.1.1.frozenAt _
        have ne1 : o ≠ g := (by have := (HDk.out.2.2.2.2.2.1 g rfl).1; omega)
        have ne2 : g' ≠ g := fun e => (HDk.out.2.2.2.2.2.1 g rfl).2 (by rw [← e]; rfl)
        clear HDk HXY HFk
        go_wp2_with fail
        go_region_held3 (fun W => W.cell? ⟨o, 0, none⟩ = some (.slice (some ⟨g, 0, none⟩) n C) ∧ W.cell? ⟨o, 1, none⟩ = some (.slice (some ⟨g', 0, none⟩) n C') ∧ W.cell? ⟨g', k, none⟩ = some (.string y)) (first | (refine ⟨?_, ?_, ?_⟩ <;> assumption) | (exact ⟨cellD_kept ne1 (by assumption), cellD_kept ne1 (by assumption), cellD_kept ne2 (by assumption)⟩) | go_keep) (fail)
        go_wp2_with fail
        go_roundw
        case rel => exact ⟨k + 1, by omega, by go_num, HD2.out.stays (Below.refl _ _).drew⟩
        case measure => simp [intOf]; omega
      · have HFk : Hid (F[k]? = some x) := HFk1.out
        clear HFk1
        have HD2 : Hid (DOut w (wr.setCell ⟨g', k, none⟩ (.string x)) (.slice a n ca) (.slice a' n ca') o (.slice (some ⟨g, 0, none⟩) n C) (.slice (some ⟨g', 0, none⟩) n C') n n (fallTo F xs (k + 1)) (fallTo F ys (k + 1))) := by
          have h := HDk.out.put1 (j := k) x hxm
          rw [fallTo_set F ys k x HFl.out.2 (by have := HLn.out; omega) HFk.out, fallTo_same F xs k x HFl.out.1 HXY.out.1 HFk.out] at h
          exact h
        have fz : wr.frozen? ⟨g', k, none⟩ = false := HDk.out.2.2.2.2.1.1.frozenAt _
        have ne1 : o ≠ g' := (by have := HDk.out.2.2.2.2.2.2.1 g' rfl; omega)
        have ne2 : g ≠ g' := fun e => (HDk.out.2.2.2.2.2.1 g rfl).2 (by rw [e]; rfl)
        clear HDk HXY HFk
        go_wp2_with fail
        go_region_held3 (fun W => W.cell? ⟨o, 0, none⟩ = some (.slice (some ⟨g, 0, none⟩) n C) ∧ W.cell? ⟨o, 1, none⟩ = some (.slice (some ⟨g', 0, none⟩) n C') ∧ W.cell? ⟨g, k, none⟩ = some (.string x)) (first | (refine ⟨?_, ?_, ?_⟩ <;> assumption) | (exact ⟨cellD_kept ne1 (by assumption), cellD_kept ne1 (by assumption), cellD_kept ne2 (by assumption)⟩) | go_keep) (fail)
        go_wp2_with fail
        go_roundw
        case rel => exact ⟨k + 1, by omega, by go_num, HD2.out.stays (Below.refl _ _).drew⟩
        case measure => simp [intOf]; omega
    · obtain rfl : k = n := by omega
      have HDx : Hid (DOut w wr (.slice a k ca) (.slice a' k ca') o (.slice A k C) (.slice A' k C') k k F F) := by
        have h := HDk.out
        have hl := HLn.out
        rw [show fallTo F xs k = F from by rw [← hl.1]; exact fallTo_all F xs HFl.out.1, show fallTo F ys k = F from by rw [← hl.2]; exact fallTo_all F ys HFl.out.2] at h
        exact h
      clear HDk c0 c1
      obtain ⟨c0, c1⟩ := HDx.out.2.2.1.cells
      obtain ⟨r0, r1⟩ := HDx.out.2.1.cells
      have f0 := HDx.out.2.1.frozen 0
      have f1 := HDx.out.2.1.frozen 1
      have HR := (show Hid _ from HDx.out.done)
      clear HDx
      go_wp2_with fail
      refine bodyPost_ret (v := .agg #[.slice A k C, .slice A' k C']) (by simp [results, Tryz.f52, go_sem, r0, r1]) rfl ?_
      exact ⟨⟨_, rfl, by rw [HPX.out, HPY.out]; exact HR.out.1⟩, HR.out.2⟩

end Go.Proofs.YtlkgopoicpnacaaGreatDoor

namespace Go.Proofs.YtlkgopoicpnacaaGreatDoor
open Go.RowKit
set_option linter.unusedVariables false

set_option maxRecDepth 10000 in
set_option maxHeartbeats 1600000 in
theorem specTop_any (a : Option Addr) (n ca : Nat) (xs : List ByteArray) (a' : Option Addr) (n' ca' : Nat) (w : World) (h1 : Strs w a n xs) (hn : n ≤ 1099511627776) (hz : ∀ x ∈ xs, x.size ≤ 1048576) :
    Calls Tryz.prog 77 #[.agg #[.slice a n ca, .slice a' n' ca']] w fun e w' => e = .returned (.int .i64 (topE xs)) ∧ Below w.heap.size w w' := by
  have HX : Hid (∀ W, Below w.heap.size w W → Strs W a n xs) := fun W h => h1.below h
  have HL : Hid (xs.length = n) := h1.1
  have HZ : Hid (∀ x ∈ xs, x.size ≤ 1048576) := hz
  clear h1 hz
  obtain ⟨w0, hw0⟩ : ∃ w0, w.alloc (.cells #[.slice a n ca, .slice a' n' ca'] 26) = w0 := ⟨_, rfl⟩
  have HE : Hid (w.alloc (.cells #[.slice a n ca, .slice a' n' ca'] 26) = w0) := hw0
  have HA : Hid (Box2R w0 w.heap.size 26 (.slice a n ca) (.slice a' n' ca')) := by show Box2R _ _ _ _ _; rw [← hw0]; exact Box2R.new _ _ _ _
  have HB : Hid (Below w.heap.size w w0) := by show Below _ _ _; rw [← hw0]; exact (Below.refl _ _).alloc (Nat.le_refl _) _
  clear hw0
  go_enter Tryz.func77, Tryz.ntmps77
  go_wp2_with fail
  rw [HE.out]
  clear HE
  go_loopw [3, 4] (fun v i wr => ∃ k : Nat, k ≤ n ∧ i = .int .i64 (k : Int) ∧ v = .int .i64 (topE (xs.take k)) ∧ Hid (Below w0.heap.size w0 wr)) (fun _ i _ => n - (intOf i).toNat)
  case atStart => exact ⟨0, Nat.zero_le _, rfl, rfl, Below.refl _ _⟩
  case round =>
    obtain ⟨k, hk, rfl, rfl, HW⟩ := hrel
    obtain ⟨c0, c1⟩ := (HA.out.stays HW.out).cells
    by_cases hlt : k < n
    · have hb := HB.out.trans (HW.out.mono HB.out.size)
      obtain ⟨p, po, x, rfl, _, hkx, hp⟩ := (HX.out _ hb).at hlt
      have HT : Hid (topE (xs.take (k + 1)) = topStep (topE (xs.take k)) x) := topE_step xs k x hkx
      have hxz : x.size ≤ 1048576 := HZ.out x (List.mem_of_getElem? hkx)
      have hki : (k : Int) < (n : Int) := by omega
      have hk0 : (0 : Int) ≤ (k : Int) := by omega
      clear hkx hb
      generalize topE (xs.take k) = m at *
      go_wp2_with fail
      refine (specGetR_any x wr (by omega)).mono ?_
      rintro _ w1 ⟨⟨v, rfl, hgot⟩, hb1⟩
      have hb01 : Below w0.heap.size w0 w1 := HW.out.trans (hb1.mono HW.out.size)
      rcases hgot with ⟨hr, rfl⟩ | ⟨r, A, C, hr, rfl, ho⟩
      · have HT2 : Hid (topE (xs.take (k + 1)) = m) := HT.out.trans (topStep_none hr)
        have HW2 : Hid (Below w0.heap.size w0 (w1.alloc (.cells #[.int .i64 0, .int .i64 0, .int .i64 0, .string ⟨#[]⟩, .int .i64 0, .slice none 0 0] 107))) := hb01.alloc hb01.size _
        clear hr hb1 hb01 HT HW
        go_wp2_with fail
        go_roundw
        case rel => exact ⟨k + 1, by omega, by go_num, by rw [HT2.out], HW2⟩
        case measure => simp [intOf]; omega
      · have HT2 : Hid (topE (xs.take (k + 1)) = if m < r.e then r.e else m) := HT.out.trans (topStep_some hr)
        have HW2 : Hid (Below w0.heap.size w0 (w1.alloc (.cells #[.int .i64 r.e, .int .i64 r.q, .int .i64 r.k, .string r.id, .int .i64 r.n, .slice A r.zs.length C] 107))) := hb01.alloc hb01.size _
        clear hr hb1 hb01 HT HW ho
        by_cases hm : m < r.e
        · rw [if_pos hm] at HT2
          go_wp2_with fail
          go_roundw
          case rel => exact ⟨k + 1, by omega, by go_num, by rw [HT2.out], HW2⟩
          case measure => simp [intOf]; omega
        · rw [if_neg hm] at HT2
          go_wp2_with fail
          go_roundw
          case rel => exact ⟨k + 1, by omega, by go_num, by rw [HT2.out], HW2⟩
          case measure => simp [intOf]; omega
    · have hkl : k = n := by omega
      have HT : Hid (topE (xs.take k) = topE xs) := by show _ = _; rw [hkl, List.take_of_length_le (by have := HL.out; omega)]
      generalize topE (xs.take k) = m at *
      go_wp2_with fail
      go_ret
      exact ⟨by rw [← HT.out]; rfl, HB.out.trans (HW.out.mono HB.out.size)⟩

end Go.Proofs.YtlkgopoicpnacaaGreatDoor

namespace Go.Proofs.YtlkgopoicpnacaaGreatDoor
open Go.RowKit
set_option linter.unusedVariables false

set_option maxRecDepth 10000 in
set_option maxHeartbeats 3200000 in
theorem specOpen_all (a : Option Addr) (n ca : Nat) (X : List ByteArray) (a' : Option Addr) (n' ca' : Nat) (Y : List ByteArray) (w : World) (h1 : Strs w a n X) (h2 : Strs w a' n' Y) (hn : n ≤ 1048576) (hn' : n' ≤ 1048576) :
    Calls Tryz.prog 51 #[.agg #[.slice a n ca, .slice a' n' ca']] w fun e w' => OpenAns w.heap.size X Y e w' ∧ Below w.heap.size w w' := by
  obtain ⟨W2, hW2⟩ : ∃ W2, (w.alloc (.cells #[.slice a n ca, .slice a' n' ca'] 26)).alloc (.cells #[.slice none 0 0, .slice none 0 0, .int .i64 0, .int .i64 0, .slice none 0 0] 29) = W2 := ⟨_, rfl⟩
  have HE : Hid ((w.alloc (.cells #[.slice a n ca, .slice a' n' ca'] 26)).alloc (.cells #[.slice none 0 0, .slice none 0 0, .int .i64 0, .int .i64 0, .slice none 0 0] 29) = W2) := hW2
  have HB2 : Hid (Below w.heap.size w W2) := by show Below _ _ _; rw [← hW2]; exact ((Below.refl _ _).alloc (Nat.le_refl _) _).alloc (by simp) _
  have q1 : BoxN W2 w.heap.size 26 [.slice a n ca, .slice a' n' ca'] := by rw [← hW2]; exact (BoxN.new _ _ _).alloc _
  have q2 : BoxN W2 (w.heap.size + 1) 29 [.slice none 0 0, .slice none 0 0, .int .i64 0, .int .i64 0, .slice none 0 0] := by
    rw [← hW2]
    have := BoxN.new (w.alloc (.cells #[.slice a n ca, .slice a' n' ca'] 26)) 29 [.slice none 0 0, .slice none 0 0, .int .i64 0, .int .i64 0, .slice none 0 0]
    rwa [World.size_alloc] at this
  have HQ : Hid (∀ W, Below W2.heap.size W2 W → BoxN W w.heap.size 26 [.slice a n ca, .slice a' n' ca'] ∧ BoxN W (w.heap.size + 1) 29 [.slice none 0 0, .slice none 0 0, .int .i64 0, .int .i64 0, .slice none 0 0]) := fun W h => ⟨q1.stays h, q2.stays h⟩
  have HX : Hid (∀ W, Below W2.heap.size W2 W → Strs W a n X ∧ Strs W a' n' Y) := fun W h => by
    have hw := HB2.out.trans (h.mono HB2.out.size)
    exact ⟨h1.below hw, h2.below hw⟩
  have HZ : Hid (okD X Y = true → ∀ x ∈ X, x.size ≤ 1048576) := fun h x hx => by have := (okD_iff.1 h).2.2.1 x hx; omega
  have hs2 : w.heap.size + 1 < W2.heap.size := q2.lt
  clear hW2 q1 q2 h1 h2
  have HA0 : Hid (Below W2.heap.size W2 W2) := Below.refl _ _
  obtain ⟨c0, c1⟩ := (show _ ∧ _ from ⟨(HQ.out _ HA0.out).1.cell 0 rfl, (HQ.out _ HA0.out).1.cell 1 rfl⟩)
  go_enter Tryz.func51, Tryz.ntmps51
  go_upto_region 1 with fail
  rw [HE.out]
  clear HE
  go_wp2_with fail
  refine (specDok_any a n ca X a' n' ca' Y W2 (HX.out _ HA0.out).1 (HX.out _ HA0.out).2 (by omega) (by omega)).mono ?_
  rintro _ y1 ⟨rfl, hb1⟩
  have HB1 : Hid (Below W2.heap.size W2 y1) := hb1
  clear hb1 c0 c1
  cases hok : okD X Y
  · try dsimp only
    have HN : Hid (openO X Y = none) := by show _ = _; rw [openO, hok]
    have HBw : Hid (Below w.heap.size w y1) := HB2.out.trans (HB1.out.mono HB2.out.size)
    obtain ⟨r0, r1, r2, r3, r4⟩ := (show _ ∧ _ ∧ _ ∧ _ ∧ _ from ⟨(HQ.out _ HB1.out).2.cell 0 rfl, (HQ.out _ HB1.out).2.cell 1 rfl, (HQ.out _ HB1.out).2.cell 2 rfl, (HQ.out _ HB1.out).2.cell 3 rfl, (HQ.out _ HB1.out).2.cell 4 rfl⟩)
    obtain ⟨f0, f1, f2, f3, f4⟩ := (show _ ∧ _ ∧ _ ∧ _ ∧ _ from ⟨(HQ.out _ HB1.out).2.frozen 0, (HQ.out _ HB1.out).2.frozen 1, (HQ.out _ HB1.out).2.frozen 2, (HQ.out _ HB1.out).2.frozen 3, (HQ.out _ HB1.out).2.frozen 4⟩)
    clear HQ HX HB1
    go_wp2_with fail
    refine bodyPost_ret (v := .tuple #[.agg #[.slice none 0 0, .slice none 0 0, .int .i64 0, .int .i64 0, .slice none 0 0], .bool false]) (by simp [results, Tryz.f51, go_sem, r0, r1, r2, r3, r4]) rfl ?_
    refine ⟨?_, ?_⟩
    · rw [OpenAns, HN.out]
      exact ⟨_, rfl, none, 0, 0, none, 0, 0, none, 0, 0, [], rfl, ⟨⟨⟨rfl, .inl ⟨rfl, rfl⟩⟩, by simp⟩, ⟨⟨rfl, .inl ⟨rfl, rfl⟩⟩, by simp⟩, by simp, ⟨⟨rfl, .inl ⟨rfl, rfl⟩⟩, by simp, by simp⟩, rfl⟩, rfl⟩
    · exact ((((HBw.out.setCell (by dsimp only; omega) _).setCell (by dsimp only; omega) _).setCell (by dsimp only; omega) _).setCell (by dsimp only; omega) _).setCell (by dsimp only; omega) _

  have HOk : Hid (okD X Y = true) := hok
  clear hok
  obtain ⟨c0, c1⟩ := (show _ ∧ _ from ⟨(HQ.out _ HB1.out).1.cell 0 rfl, (HQ.out _ HB1.out).1.cell 1 rfl⟩)
  go_wp2_with fail
  refine (specScan_any a n ca X a' n' ca' y1 (HX.out _ HB1.out).1 (by omega) (HZ.out HOk.out)).mono ?_
  rintro _ y2 ⟨⟨v2, rs, rfl, hrow, hlm⟩, hb2⟩
  have HC2 : Hid (Below W2.heap.size W2 y2) := HB1.out.trans (hb2.mono HB1.out.size)
  obtain ⟨ra, rc, rfl⟩ := hrow.shape
  obtain ⟨M, hM⟩ : ∃ M, rs.length = M := ⟨_, rfl⟩
  rw [hM] at hrow ⊢
  have HM : Hid (M = rs.length) := hM.symm
  have HLm : Hid (rs.map RE.r = scanR X) := hlm
  have HR2 : Hid (RcRow y2 y1.heap.size (.slice ra M rc) rs) := hrow
  have HSh : Hid (∀ e ∈ rs, e.n ≤ 24) := rows_short hrow hlm (scanFrom_ok X 0 0).2
  have HMl : Hid (M = (scanR X).length) := by show _ = _; rw [← hlm, List.length_map, hM]
  have hMn : M ≤ 1048576 := by
    have h1 := (scanFrom_ok X 0 0).1
    have h2 := (HX.out _ HC2.out).1.1
    have h3 := congrArg List.length hlm
    rw [List.length_map, hM] at h3
    have h4 : (scanR X).length = (scanFrom 0 0 X).length := rfl
    omega
  clear hrow hlm hM hb2 c0 c1
  go_wp2_with fail
  refine (specFold_any ra M rc y1.heap.size rs 24 y2 HR2.out HM.out (by omega) HSh.out (by omega) (by omega)).mono ?_
  rintro _ y3 ⟨⟨x3, l3, rfl, hrow3, hm3, h310⟩, hb3⟩
  rw [HLm.out] at hm3 ⊢
  have HC3 : Hid (Below W2.heap.size W2 y3) := HC2.out.trans (hb3.mono HC2.out.size)
  obtain ⟨xa, xc, rfl⟩ := hrow3.shape
  obtain ⟨K, hK⟩ : ∃ K, l3.length = K := ⟨_, rfl⟩
  rw [hK] at hrow3 ⊢
  have hy2 : W2.heap.size ≤ y2.heap.size := HC2.out.size
  have HR3 : Hid (UpRow y3 y2.heap.size (.slice xa K xc) l3 ∧ K = l3.length) := ⟨hrow3, hK.symm⟩
  clear hb3 hrow3 hK h310 HB1 HC2 HR2
  obtain ⟨c0, c1⟩ := (show _ ∧ _ from ⟨(HQ.out _ HC3.out).1.cell 0 rfl, (HQ.out _ HC3.out).1.cell 1 rfl⟩)
  have HTb : Hid (-1 ≤ topE X ∧ topE X ≤ 10000) := topE_range X
  obtain ⟨T, hT⟩ : ∃ T, topE X = T := ⟨_, rfl⟩
  have HTe : Hid (topE X = T) := hT
  have htb : -1 ≤ T ∧ T ≤ 10000 := by rw [← hT]; exact HTb.out
  clear hT
  have htb1 : -1 ≤ T := htb.1
  have htb2 : T ≤ 10000 := htb.2
  clear htb
  cases hf : foldU (scanR X) with
  | none =>
    rw [hf] at hm3
    dsimp only [Option.isSome]
    go_wp2_with fail
    refine (specTop_any a n ca X a' n' ca' y3 (HX.out _ HC3.out).1 (by omega) (HZ.out HOk.out)).mono ?_
    rintro _ y4 ⟨rfl, hb4⟩
    rw [HTe.out]
    have HC4 : Hid (Below W2.heap.size W2 y4) := HC3.out.trans (hb4.mono HC3.out.size)
    clear hb4 c0 c1 HR3 HC3
    have HN : Hid (openO X Y = none) := by show _ = _; rw [openO, HOk.out, hf]
    have HBw : Hid (Below w.heap.size w y4) := HB2.out.trans (HC4.out.mono HB2.out.size)
    obtain ⟨r0, r1, r2, r3, r4⟩ := (show _ ∧ _ ∧ _ ∧ _ ∧ _ from ⟨(HQ.out _ HC4.out).2.cell 0 rfl, (HQ.out _ HC4.out).2.cell 1 rfl, (HQ.out _ HC4.out).2.cell 2 rfl, (HQ.out _ HC4.out).2.cell 3 rfl, (HQ.out _ HC4.out).2.cell 4 rfl⟩)
    obtain ⟨f0, f1, f2, f3, f4⟩ := (show _ ∧ _ ∧ _ ∧ _ ∧ _ from ⟨(HQ.out _ HC4.out).2.frozen 0, (HQ.out _ HC4.out).2.frozen 1, (HQ.out _ HC4.out).2.frozen 2, (HQ.out _ HC4.out).2.frozen 3, (HQ.out _ HC4.out).2.frozen 4⟩)
    clear HQ HX HC4
    go_wp2_with fail
    refine bodyPost_ret (v := .tuple #[.agg #[.slice none 0 0, .slice none 0 0, .int .i64 0, .int .i64 0, .slice none 0 0], .bool false]) (by simp [results, Tryz.f51, go_sem, r0, r1, r2, r3, r4]) rfl ?_
    refine ⟨?_, ?_⟩
    · rw [OpenAns, HN.out]
      exact ⟨_, rfl, none, 0, 0, none, 0, 0, none, 0, 0, [], rfl, ⟨⟨⟨rfl, .inl ⟨rfl, rfl⟩⟩, by simp⟩, ⟨⟨rfl, .inl ⟨rfl, rfl⟩⟩, by simp⟩, by simp, ⟨⟨rfl, .inl ⟨rfl, rfl⟩⟩, by simp, by simp⟩, rfl⟩, rfl⟩
    · exact ((((HBw.out.setCell (by dsimp only; omega) _).setCell (by dsimp only; omega) _).setCell (by dsimp only; omega) _).setCell (by dsimp only; omega) _).setCell (by dsimp only; omega) _

  | some us =>
    rw [hf] at hm3
    dsimp only [Option.isSome]
    have HUs : Hid (l3.map UE.u = us) := hm3
    have HFo : Hid (foldU (scanR X) = some us) := hf
    clear hm3 hf
    go_wp2_with fail
    refine (specTop_any a n ca X a' n' ca' y3 (HX.out _ HC3.out).1 (by omega) (HZ.out HOk.out)).mono ?_
    rintro _ y4 ⟨rfl, hb4⟩
    rw [HTe.out]
    have HC4 : Hid (Below W2.heap.size W2 y4) := HC3.out.trans (hb4.mono HC3.out.size)
    have HR4 : Hid (UpRow y4 y2.heap.size (.slice xa K xc) l3 ∧ K = l3.length) := ⟨HR3.out.1.stays hb4, HR3.out.2⟩
    clear hb4 c0 c1 HR3 HC3
    by_cases hbig : 10000 < T + 1
    · clear HR4
      have HN : Hid (openO X Y = none) := by show _ = _; rw [openO, HOk.out, HFo.out, HTe.out]; simp [hbig]
      have HBw : Hid (Below w.heap.size w y4) := HB2.out.trans (HC4.out.mono HB2.out.size)
      obtain ⟨r0, r1, r2, r3, r4⟩ := (show _ ∧ _ ∧ _ ∧ _ ∧ _ from ⟨(HQ.out _ HC4.out).2.cell 0 rfl, (HQ.out _ HC4.out).2.cell 1 rfl, (HQ.out _ HC4.out).2.cell 2 rfl, (HQ.out _ HC4.out).2.cell 3 rfl, (HQ.out _ HC4.out).2.cell 4 rfl⟩)
      obtain ⟨f0, f1, f2, f3, f4⟩ := (show _ ∧ _ ∧ _ ∧ _ ∧ _ from ⟨(HQ.out _ HC4.out).2.frozen 0, (HQ.out _ HC4.out).2.frozen 1, (HQ.out _ HC4.out).2.frozen 2, (HQ.out _ HC4.out).2.frozen 3, (HQ.out _ HC4.out).2.frozen 4⟩)
      clear HQ HX HC4
      go_wp2_with fail
      refine bodyPost_ret (v := .tuple #[.agg #[.slice none 0 0, .slice none 0 0, .int .i64 0, .int .i64 0, .slice none 0 0], .bool false]) (by simp [results, Tryz.f51, go_sem, r0, r1, r2, r3, r4]) rfl ?_
      refine ⟨?_, ?_⟩
      · rw [OpenAns, HN.out]
        exact ⟨_, rfl, none, 0, 0, none, 0, 0, none, 0, 0, [], rfl, ⟨⟨⟨rfl, .inl ⟨rfl, rfl⟩⟩, by simp⟩, ⟨⟨rfl, .inl ⟨rfl, rfl⟩⟩, by simp⟩, by simp, ⟨⟨rfl, .inl ⟨rfl, rfl⟩⟩, by simp, by simp⟩, rfl⟩, rfl⟩
      · exact ((((HBw.out.setCell (by dsimp only; omega) _).setCell (by dsimp only; omega) _).setCell (by dsimp only; omega) _).setCell (by dsimp only; omega) _).setCell (by dsimp only; omega) _

    have HS : Hid (openO X Y = some (T + 1, M, us)) := by show _ = _; rw [openO, HOk.out, HFo.out, HTe.out, HMl.out]; simp [hbig]
    obtain ⟨c0, c1⟩ := (show _ ∧ _ from ⟨(HQ.out _ HC4.out).1.cell 0 rfl, (HQ.out _ HC4.out).1.cell 1 rfl⟩)
    go_wp2_with fail
    refine (specDcopy_any a n ca X a' n' ca' Y y4 (HX.out _ HC4.out).1 (HX.out _ HC4.out).2 (by omega) (by omega)).mono ?_
    rintro _ y5 ⟨⟨v5, rfl, A, C, A', C', rfl, ow, ow', hap⟩, hb5⟩
    have HBw : Hid (Below w.heap.size w y5) := by
      have h1 := HC4.out.trans (hb5.mono HC4.out.size)
      exact HB2.out.trans (h1.mono HB2.out.size)
    have hy4 : W2.heap.size ≤ y4.heap.size := HC4.out.size
    have HS5 : Hid (StoAt y5 (w.heap.size + 2) A X.length C X A' Y.length C' Y xa K xc l3) := ⟨ow.low (by omega), ow'.low (by omega), hap, (HR4.out.1.stays hb5).low (by omega), HR4.out.2⟩
    have hq5 := (HQ.out _ (HC4.out.trans (hb5.mono HC4.out.size))).2
    obtain ⟨r0, r1, r2, r3, r4⟩ := (show _ ∧ _ ∧ _ ∧ _ ∧ _ from ⟨hq5.cell 0 rfl, hq5.cell 1 rfl, hq5.cell 2 rfl, hq5.cell 3 rfl, hq5.cell 4 rfl⟩)
    obtain ⟨f0, f1, f2, f3, f4⟩ := (show _ ∧ _ ∧ _ ∧ _ ∧ _ from ⟨hq5.frozen 0, hq5.frozen 1, hq5.frozen 2, hq5.frozen 3, hq5.frozen 4⟩)
    clear ow ow' hap hb5 hq5 HQ HX HC4 HR4 c0 c1
    go_wp2_with fail
    refine bodyPost_ret (v := .tuple #[.agg #[.slice A X.length C, .slice A' Y.length C', .int .i64 (T + 1), .int .i64 (M : Int), .slice xa K xc], .bool true]) (by simp [results, Tryz.f51, go_sem, r0, r1, r2, r3, r4]) rfl ?_
    refine ⟨?_, ?_⟩
    · rw [OpenAns, HS.out]
      exact ⟨_, rfl, A, X.length, C, A', Y.length, C', xa, K, xc, l3, rfl, (((((HS5.out.setLow (by omega) _).setLow (by omega) _).setLow (by omega) _).setLow (by omega) _).setLow (by omega) _).low (by omega), HUs.out⟩
    · exact ((((HBw.out.setCell (by dsimp only; omega) _).setCell (by dsimp only; omega) _).setCell (by dsimp only; omega) _).setCell (by dsimp only; omega) _).setCell (by dsimp only; omega) _

end Go.Proofs.YtlkgopoicpnacaaGreatDoor
