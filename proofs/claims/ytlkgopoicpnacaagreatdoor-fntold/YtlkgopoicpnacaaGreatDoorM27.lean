/- What the specification's copy of a server answers. What the specification's Serve answers of a drawn server: a drawn server again. How many sectors a new disk has. No program in it. An append onto a row of the call's own, in a region that draws: where the row lies behind it. No program in it. An append onto a row of the call's own, as an operation in its place: where the row lies behind it. No program in it. What the specification's DiskNew answers. What the specification's StoreNew answers. -/
import Derived.Test.YtlkgopoicpnacaaGreatDoorM18
import Derived.Test.YtlkgopoicpnacaaGreatDoorM18
import Derived.Test.YtlkgopoicpnacaaGreatDoorM20
import Derived.Test.YtlkgopoicpnacaaGreatDoorM21
import Derived.Test.YtlkgopoicpnacaaGreatDoorM18
import Derived.Test.YtlkgopoicpnacaaGreatDoorM25
import Derived.Test.YtlkgopoicpnacaaGreatDoorM17
import Derived.Test.YtlkgopoicpnacaaGreatDoorM25
import Derived.Test.YtlkgopoicpnacaaGreatDoorM03
import Derived.Test.YtlkgopoicpnacaaGreatDoorM08
import Derived.Deep.CutBlock
import Derived.Test.YtlkgopoicpnacaaGreatDoorM05
namespace Go.Proofs.YtlkgopoicpnacaaGreatDoor
open Go.RowKit
set_option linter.unusedVariables false

set_option maxRecDepth 10000 in
set_option maxHeartbeats 3200000 in
theorem specVcopy_any (a : Option Addr) (n ca : Nat) (X : List ByteArray) (a' : Option Addr) (n' ca' : Nat) (Y : List ByteArray) (ep nx : Int) (ua : Option Addr) (un uc lo : Nat) (l : List UE) (ha : Option Addr) (hn hc : Nat) (hs : List Hd) (w : World) (h1 : Strs w a n X) (h2 : Strs w a' n' Y) (hln : n ≤ 1048576) (hln' : n' ≤ 1048576) (hu : UpRow w lo (.slice ua un uc) l) (hun : un = l.length) (hul : un ≤ 1048576) (hz : ∀ e ∈ l, e.n ≤ 1099511627776) (hh : Helds w ha hn hs) (hhl : hn ≤ 1048576) :
    Calls Tryz.prog 48 #[.agg #[.slice a n ca, .slice a' n' ca', .int .i64 ep, .int .i64 nx, .slice ua un uc, .slice ha hn hc]] w fun e w' => (∃ v, e = .returned v ∧ AnsV false w.heap.size X Y ep nx (l.map UE.u) hs v w') ∧ Below w.heap.size w w' := by
  obtain ⟨W2, hW2⟩ : ∃ W2, (w.alloc (.cells #[.slice a n ca, .slice a' n' ca', .int .i64 ep, .int .i64 nx, .slice ua un uc, .slice ha hn hc] 32)).alloc (.cells #[.slice none 0 0, .slice none 0 0, .int .i64 0, .int .i64 0, .slice none 0 0, .slice none 0 0] 32) = W2 := ⟨_, rfl⟩
  have HE : Hid ((w.alloc (.cells #[.slice a n ca, .slice a' n' ca', .int .i64 ep, .int .i64 nx, .slice ua un uc, .slice ha hn hc] 32)).alloc (.cells #[.slice none 0 0, .slice none 0 0, .int .i64 0, .int .i64 0, .slice none 0 0, .slice none 0 0] 32) = W2) := hW2
  have HB2 : Hid (Below w.heap.size w W2) := by show Below _ _ _; rw [← hW2]; exact ((Below.refl _ _).alloc (Nat.le_refl _) _).alloc (by simp) _
  have HZ2 : Hid (W2.heap.size = w.heap.size + 2) := by show _ = _; rw [← hW2]; simp
  have q1 : BoxN W2 w.heap.size 32 [.slice a n ca, .slice a' n' ca', .int .i64 ep, .int .i64 nx, .slice ua un uc, .slice ha hn hc] := by rw [← hW2]; exact (BoxN.new _ _ _).alloc _
  have q2 : BoxN W2 (w.heap.size + 1) 32 [.slice none 0 0, .slice none 0 0, .int .i64 0, .int .i64 0, .slice none 0 0, .slice none 0 0] := by
    rw [← hW2]
    have := BoxN.new (w.alloc (.cells #[.slice a n ca, .slice a' n' ca', .int .i64 ep, .int .i64 nx, .slice ua un uc, .slice ha hn hc] 32)) 32 [.slice none 0 0, .slice none 0 0, .int .i64 0, .int .i64 0, .slice none 0 0, .slice none 0 0]
    rwa [World.size_alloc] at this
  have HQ : Hid (∀ W, Below W2.heap.size W2 W → BoxN W w.heap.size 32 [.slice a n ca, .slice a' n' ca', .int .i64 ep, .int .i64 nx, .slice ua un uc, .slice ha hn hc] ∧ BoxN W (w.heap.size + 1) 32 [.slice none 0 0, .slice none 0 0, .int .i64 0, .int .i64 0, .slice none 0 0, .slice none 0 0]) := fun W h => ⟨q1.stays h, q2.stays h⟩
  have HX : Hid (∀ W, Below W2.heap.size W2 W → Strs W a n X ∧ Strs W a' n' Y ∧ UpRow W lo (.slice ua un uc) l ∧ Helds W ha hn hs) := fun W h => by
    have hw := HB2.out.trans (h.mono HB2.out.size)
    exact ⟨h1.below hw, h2.below hw, hu.stays hw, hh.below hw⟩
  have HCp : Hid (∀ W, Below W2.heap.size W2 W → Calls Tryz.prog 70 #[.agg #[.slice a n ca, .slice a' n' ca', .int .i64 ep, .int .i64 nx, .slice ua un uc]] W fun e w' => (∃ b cb b' cb' va vc l', e = .returned (.agg #[.slice b n cb, .slice b' n' cb', .int .i64 ep, .int .i64 nx, .slice va un vc]) ∧ StoAt w' W.heap.size b n cb X b' n' cb' Y va un vc l' ∧ l'.map UE.u = l.map UE.u) ∧ Below W.heap.size W w') := fun W hb => by
    refine (specScopy_any a n ca X a' n' ca' Y ep nx ua un uc lo l W (HX.out _ hb).1 (HX.out _ hb).2.1 hln hln' (HX.out _ hb).2.2.1 hun hul hz).mono ?_
    rintro e y1 ⟨⟨v1, rfl, hv1⟩, hb1⟩
    obtain ⟨b, cb, b', cb', va, vc, l', rfl, hs1, hm1⟩ := hv1.get
    rw [List.length_map, ← hun, h1.1, h2.1] at hs1 ⊢
    exact ⟨⟨b, cb, b', cb', va, vc, l', rfl, hs1, hm1⟩, hb1⟩
  have hne : w.heap.size ≠ w.heap.size + 1 := by omega
  have HL : Hid (un = l.length ∧ (∀ e ∈ l, e.n ≤ 1099511627776) ∧ hs.length = hn ∧ ∀ s ∈ hs, hd64 s) := ⟨hun, hz, hh.1, hh.2.1⟩
  have HBd : Hid (Below W2.heap.size W2 W2.drew) := (Below.refl _ _).drew
  have hs2 : w.heap.size + 1 < W2.heap.size := q2.lt
  clear hW2 q1 q2 h1 h2 hu hun hz hh
  obtain ⟨i0, hi, hz0, hz1, hz2⟩ := info_parts info_held
  have HBa : Hid (Below W2.heap.size W2 (W2.alloc (.cells #[] 54))) := (Below.refl _ _).alloc (Nat.le_refl _) _
  have HBad : Hid (Below W2.heap.size W2 (W2.alloc (.cells #[] 54)).drew) := HBa.out.drew
  have HLa : Hid ((W2.alloc (.cells #[] 54)).heap[W2.heap.size]? = some (.cells #[] 54)) := heap_alloc_new _ _
  go_enter Tryz.func48, Tryz.ntmps48
  go_upto_region 1 with fail
  rw [HE.out]
  clear HE
  obtain ⟨c0, c1, c2, c3, c4, c5⟩ := (show _ ∧ _ ∧ _ ∧ _ ∧ _ ∧ _ from ⟨BoxN.cell (HQ.out _ (Below.refl _ _)).1 0 rfl, BoxN.cell (HQ.out _ (Below.refl _ _)).1 1 rfl, BoxN.cell (HQ.out _ (Below.refl _ _)).1 2 rfl, BoxN.cell (HQ.out _ (Below.refl _ _)).1 3 rfl, BoxN.cell (HQ.out _ (Below.refl _ _)).1 4 rfl, BoxN.cell (HQ.out _ (Below.refl _ _)).1 5 rfl⟩)
  obtain ⟨d0, d1, d2, d3, d4, d5⟩ := (show _ ∧ _ ∧ _ ∧ _ ∧ _ ∧ _ from ⟨BoxN.cell (HQ.out _ HBd.out).1 0 rfl, BoxN.cell (HQ.out _ HBd.out).1 1 rfl, BoxN.cell (HQ.out _ HBd.out).1 2 rfl, BoxN.cell (HQ.out _ HBd.out).1 3 rfl, BoxN.cell (HQ.out _ HBd.out).1 4 rfl, BoxN.cell (HQ.out _ HBd.out).1 5 rfl⟩)
  obtain ⟨k0, k1, k2, k3, k4, k5⟩ := (show _ ∧ _ ∧ _ ∧ _ ∧ _ ∧ _ from ⟨BoxN.cell (HQ.out _ HBad.out).1 0 rfl, BoxN.cell (HQ.out _ HBad.out).1 1 rfl, BoxN.cell (HQ.out _ HBad.out).1 2 rfl, BoxN.cell (HQ.out _ HBad.out).1 3 rfl, BoxN.cell (HQ.out _ HBad.out).1 4 rfl, BoxN.cell (HQ.out _ HBad.out).1 5 rfl⟩)
  go_region_held3 (fun W => W.cell? ⟨w.heap.size, 0, none⟩ = some (.slice a n ca) ∧ W.cell? ⟨w.heap.size, 1, none⟩ = some (.slice a' n' ca') ∧ W.cell? ⟨w.heap.size, 2, none⟩ = some (.int .i64 ep) ∧ W.cell? ⟨w.heap.size, 3, none⟩ = some (.int .i64 nx) ∧ W.cell? ⟨w.heap.size, 4, none⟩ = some (.slice ua un uc) ∧ W.cell? ⟨w.heap.size, 5, none⟩ = some (.slice ha hn hc)) (first | with_reducible exact ⟨m0, m1, m2, m3, m4, m5⟩ | with_reducible exact ⟨cellD_kept hne (cellD_kept hne (cellD_kept hne (cellD_kept hne (cellD_kept hne (cellD_kept hne (m0)))))), cellD_kept hne (cellD_kept hne (cellD_kept hne (cellD_kept hne (cellD_kept hne (cellD_kept hne (m1)))))), cellD_kept hne (cellD_kept hne (cellD_kept hne (cellD_kept hne (cellD_kept hne (cellD_kept hne (m2)))))), cellD_kept hne (cellD_kept hne (cellD_kept hne (cellD_kept hne (cellD_kept hne (cellD_kept hne (m3)))))), cellD_kept hne (cellD_kept hne (cellD_kept hne (cellD_kept hne (cellD_kept hne (cellD_kept hne (m4)))))), cellD_kept hne (cellD_kept hne (cellD_kept hne (cellD_kept hne (cellD_kept hne (cellD_kept hne (m5))))))⟩ | with_reducible exact ⟨e0, e1, e2, e3, e4, e5⟩ | with_reducible exact ⟨x0, x1, x2, x3, x4, x5⟩ | with_reducible exact ⟨k0, k1, k2, k3, k4, k5⟩ | with_reducible exact ⟨d0, d1, d2, d3, d4, d5⟩ | exact ⟨c0, c1, c2, c3, c4, c5⟩ | fail) (first
    | (refine step_append_lit rfl (.tmp 6) (.tmp 8) 30 30 rfl W2.heap.size 54 i0 (.agg #[.int .i64 0, .int .i64 0, .int .i64 0]) 3 24 Tryz.underlying30 hi hz0 hz1 hz2 rfl (by decide) W2.heap.size rfl hl1 (Nat.le_refl _) _ hn (heCells hs) rfl (HX.out _ hB1).2.2.2.src (by unfold maxLen; omega) (by omega) (Below.size hB1) ?_; intro g2 cg2 y2 hown2 hb2 hw2
       have hB2 : Below W2.heap.size W2 y2 := Below.trans hB1 (hb2.mono (Below.size hB1))
       have m0 := BoxN.cell (HQ.out _ hB2).1 0 rfl
       have m1 := BoxN.cell (HQ.out _ hB2).1 1 rfl
       have m2 := BoxN.cell (HQ.out _ hB2).1 2 rfl
       have m3 := BoxN.cell (HQ.out _ hB2).1 3 rfl
       have m4 := BoxN.cell (HQ.out _ hB2).1 4 rfl
       have m5 := BoxN.cell (HQ.out _ hB2).1 5 rfl
       have r0 := BoxN.cell (HQ.out _ hB2).2 0 rfl
       have r1 := BoxN.cell (HQ.out _ hB2).2 1 rfl
       have r2 := BoxN.cell (HQ.out _ hB2).2 2 rfl
       have r3 := BoxN.cell (HQ.out _ hB2).2 3 rfl
       have r4 := BoxN.cell (HQ.out _ hB2).2 4 rfl
       have r5 := BoxN.cell (HQ.out _ hB2).2 5 rfl
       have f0 := BoxN.frozen (HQ.out _ hB2).2 0
       have f1 := BoxN.frozen (HQ.out _ hB2).2 1
       have f2 := BoxN.frozen (HQ.out _ hB2).2 2
       have f3 := BoxN.frozen (HQ.out _ hB2).2 3
       have f4 := BoxN.frozen (HQ.out _ hB2).2 4
       have f5 := BoxN.frozen (HQ.out _ hB2).2 5
       have hS2 : StoAt y2 W2.heap.size b n cb X b' n' cb' Y va un vc l' := hs1.stays hb2)
    | (refine step_append_lit rfl (.tmp 6) (.tmp 8) 30 30 rfl W2.heap.size 54 i0 (.agg #[.int .i64 0, .int .i64 0, .int .i64 0]) 3 24 Tryz.underlying30 hi hz0 hz1 hz2 rfl (by decide) y1.heap.size rfl (heap_alloc_new y1 _) (Below.size hB1) _ hn (heCells hs) rfl (HX.out _ hBz).2.2.2.src (by unfold maxLen; omega) (by omega) (Below.size hBz) ?_; intro g2 cg2 y2 hown2 hb2 hw2
       have hB2 : Below W2.heap.size W2 y2 := Below.trans hBz (hb2.mono (Below.size hBz))
       have m0 := BoxN.cell (HQ.out _ hB2).1 0 rfl
       have m1 := BoxN.cell (HQ.out _ hB2).1 1 rfl
       have m2 := BoxN.cell (HQ.out _ hB2).1 2 rfl
       have m3 := BoxN.cell (HQ.out _ hB2).1 3 rfl
       have m4 := BoxN.cell (HQ.out _ hB2).1 4 rfl
       have m5 := BoxN.cell (HQ.out _ hB2).1 5 rfl
       have r0 := BoxN.cell (HQ.out _ hB2).2 0 rfl
       have r1 := BoxN.cell (HQ.out _ hB2).2 1 rfl
       have r2 := BoxN.cell (HQ.out _ hB2).2 2 rfl
       have r3 := BoxN.cell (HQ.out _ hB2).2 3 rfl
       have r4 := BoxN.cell (HQ.out _ hB2).2 4 rfl
       have r5 := BoxN.cell (HQ.out _ hB2).2 5 rfl
       have f0 := BoxN.frozen (HQ.out _ hB2).2 0
       have f1 := BoxN.frozen (HQ.out _ hB2).2 1
       have f2 := BoxN.frozen (HQ.out _ hB2).2 2
       have f3 := BoxN.frozen (HQ.out _ hB2).2 3
       have f4 := BoxN.frozen (HQ.out _ hB2).2 4
       have f5 := BoxN.frozen (HQ.out _ hB2).2 5
       have hS2 : StoAt y2 W2.heap.size b n cb X b' n' cb' Y va un vc l' := (hs1.stays ((Below.refl y1.heap.size y1).alloc (Nat.le_refl _) _)).stays hb2)
    | (go_at_call 70; (with_reducible show Calls _ _ _ W2.drew _); refine (HCp.out W2.drew HBd.out).mono ?_; rintro e y1 ⟨⟨b, cb, b', cb', va, vc, l', rfl, hs1, hm1⟩, hb1⟩
       have hB1 : Below W2.heap.size W2 y1 := HBd.out.trans (hb1.mono (Nat.le_refl _))
       have hBz : Below W2.heap.size W2 (y1.alloc (.cells #[] 54)) := hB1.alloc hB1.size _
       have x0 := BoxN.cell (HQ.out _ hBz).1 0 rfl
       have x1 := BoxN.cell (HQ.out _ hBz).1 1 rfl
       have x2 := BoxN.cell (HQ.out _ hBz).1 2 rfl
       have x3 := BoxN.cell (HQ.out _ hBz).1 3 rfl
       have x4 := BoxN.cell (HQ.out _ hBz).1 4 rfl
       have x5 := BoxN.cell (HQ.out _ hBz).1 5 rfl
       have e0 := BoxN.cell (HQ.out _ hB1).1 0 rfl
       have e1 := BoxN.cell (HQ.out _ hB1).1 1 rfl
       have e2 := BoxN.cell (HQ.out _ hB1).1 2 rfl
       have e3 := BoxN.cell (HQ.out _ hB1).1 3 rfl
       have e4 := BoxN.cell (HQ.out _ hB1).1 4 rfl
       have e5 := BoxN.cell (HQ.out _ hB1).1 5 rfl)
    | (go_at_call 70; (with_reducible show Calls _ _ _ (W2.alloc _).drew _); refine (HCp.out (W2.alloc (.cells #[] 54)).drew HBad.out).mono ?_; rintro e y1 ⟨⟨b, cb, b', cb', va, vc, l', rfl, hs1, hm1⟩, hb1⟩
       have hB1 : Below W2.heap.size W2 y1 := HBad.out.trans (hb1.mono HBad.out.size)
       have hs1 := StoAt.low hs1 (Below.size HBad.out)
       have hl1 : y1.heap[W2.heap.size]? = some (.cells #[] 54) := (hb1.block _ (by show W2.heap.size < (W2.alloc (.cells #[] 54)).heap.size; simp)).trans HLa.out
       have e0 := BoxN.cell (HQ.out _ hB1).1 0 rfl
       have e1 := BoxN.cell (HQ.out _ hB1).1 1 rfl
       have e2 := BoxN.cell (HQ.out _ hB1).1 2 rfl
       have e3 := BoxN.cell (HQ.out _ hB1).1 3 rfl
       have e4 := BoxN.cell (HQ.out _ hB1).1 4 rfl
       have e5 := BoxN.cell (HQ.out _ hB1).1 5 rfl)
    | fail)
  all_goals
    have HF : Hid (StoAt y2 (w.heap.size + 2) b n cb X b' n' cb' Y va un vc l' ∧ l'.map UE.u = l.map UE.u ∧ OwnH y2 (w.heap.size + 2) (some ⟨g2, 0, none⟩) hn cg2 hs ∧ Below w.heap.size w y2 ∧ True) := by
      have hz := HZ2.out
      exact ⟨hS2.low (by show _ ≤ W2.heap.size; omega), hm1, OwnH.low ⟨hown2, HL.out.2.2.2⟩ (by show _ ≤ W2.heap.size; omega), HB2.out.trans (hB2.mono HB2.out.size), trivial⟩
    clear hs1 hm1 hS2 hown2 hb1 hb2 hw2 hB1 hB2 e0 e1 e2 e3 e4 e5 m0 m1 m2 m3 m4 m5 c0 c1 c2 c3 c4 c5 d0 d1 d2 d3 d4 d5 k0 k1 k2 k3 k4 k5 HQ HX HBd HB2 HBa HBad HLa
    go_wp2_with fail
    refine bodyPost_ret (v := .agg #[.slice b n cb, .slice b' n' cb', .int .i64 ep, .int .i64 nx, .slice va un vc, .slice (some ⟨g2, 0, none⟩) hn cg2]) (by simp [results, Tryz.f48, go_sem, r0, r1, r2, r3, r4, r5]) rfl ?_
    refine ⟨⟨_, rfl, b, n, cb, b', n', cb', va, un, vc, l', some ⟨g2, 0, none⟩, hn, cg2, rfl, ⟨?_, ?_⟩, HF.out.2.1, ?_⟩, ?_⟩
    · exact ((((((HF.out.1.setLow (by omega) _).setLow (by omega) _).setLow (by omega) _).setLow (by omega) _).setLow (by omega) _).setLow (by omega) _).low (by omega)
    · exact ((((((HF.out.2.2.1.setLow (by omega) _).setLow (by omega) _).setLow (by omega) _).setLow (by omega) _).setLow (by omega) _).setLow (by omega) _).low (by omega)
    · exact fun h => Bool.noConfusion h
    · exact (((((HF.out.2.2.2.1.setCell (by dsimp only; omega) _).setCell (by dsimp only; omega) _).setCell (by dsimp only; omega) _).setCell (by dsimp only; omega) _).setCell (by dsimp only; omega) _).setCell (by dsimp only; omega) _

end Go.Proofs.YtlkgopoicpnacaaGreatDoor

namespace Go.Proofs.YtlkgopoicpnacaaGreatDoor
open Go.RowKit
set_option linter.unusedVariables false

set_option maxRecDepth 10000 in
set_option maxHeartbeats 6400000 in
theorem specServe_ok (lo : Nat) (k : Int) (a : Option Addr) (n ca : Nat) (X : List ByteArray) (a' : Option Addr) (n' ca' : Nat) (Y : List ByteArray) (ep nx : Int) (ua : Option Addr) (un uc : Nat) (l : List UE) (ha : Option Addr) (hn hc : Nat) (hs : List Hd) (who op : Int) (id : ByteArray) (rn : Int) (da : Option Addr) (dl dc : Nat) (zs : List Int) (w : World) (hsv : SvAt w lo a n ca X a' n' ca' Y ua un uc l ha hn hc hs) (hgv : SGV k X Y ep nx (l.map UE.u) hs) (hid : id ≠ newId) (hids : id.size ≤ 1048576) (hrn : -9223372036854775808 ≤ rn ∧ rn ≤ 4294967295) (hwho : i64h who) (hsd : Seg w da dl zs) (hzb : ∀ x ∈ zs, 0 ≤ x ∧ x ≤ 255) (hdc : dl ≤ dc) (hdl : dl ≤ 1000000000) :
    Calls Tryz.prog 33 #[.agg #[.slice a n ca, .slice a' n' ca', .int .i64 ep, .int .i64 nx, .slice ua un uc, .slice ha hn hc], .int .i64 who, .agg #[.int .i64 op, .string id, .int .i64 rn], .slice da dl dc] w fun e w' => (∃ v b, e = .returned (.tuple #[v, .bool b]) ∧ DrawnV w.heap.size k v w') ∧ Below w.heap.size w w' := by
  have hmm : 1048576 < maxLen := by decide
  obtain ⟨i0, hi, hz0, hz1, hz2⟩ := info_parts info_held
  have hp := hsv.pre hgv
  have hl : ∀ e ∈ l, e.n ≤ 1099511627776 := fun e he => by have := hp.2.2.2.2.2.2.2.2.1 e he; omega
  have hp3 := hp.2.2.1
  have hp4 := hp.2.2.2.1
  have hp8 := hp.2.2.2.2.2.2.2.1
  have hp13 := hp.2.2.2.2.2.2.2.2.2.2.2.2
  have hok := hgv.ok
  have HCp : Hid (∀ W, Below w.heap.size w W → Calls Tryz.prog 48 #[.agg #[.slice a n ca, .slice a' n' ca', .int .i64 ep, .int .i64 nx, .slice ua un uc, .slice ha hn hc]] W fun e w' => (∃ d n2 cd d' n2' cd' va un2 vc l' pa hn2 pc, e = .returned (.agg #[.slice d n2 cd, .slice d' n2' cd', .int .i64 ep, .int .i64 nx, .slice va un2 vc, .slice pa hn2 pc]) ∧ SvAt w' W.heap.size d n2 cd X d' n2' cd' Y va un2 vc l' pa hn2 pc hs ∧ l'.map UE.u = l.map UE.u) ∧ Below W.heap.size W w') := fun W hb => by
    refine (specVcopy_any a n ca X a' n' ca' Y ep nx ua un uc lo l ha hn hc hs W (hp.1.below hb) (hp.2.1.below hb) (by omega) (by omega) (hp.2.2.2.2.2.1.stays hb) hp.2.2.2.2.2.2.1 (by omega) hl (hp.2.2.2.2.2.2.2.2.2.2.2.1.below hb) (by omega)).mono ?_
    rintro e w' ⟨⟨v, rfl, hv⟩, h2⟩
    obtain ⟨d, n2, cd, d', n2', cd', va, un2, vc, l', pa, hn2, pc, rfl, h3, h4, _⟩ := hv
    exact ⟨⟨d, n2, cd, d', n2', cd', va, un2, vc, l', pa, hn2, pc, rfl, h3, h4⟩, h2⟩
  have HOk : Hid (∀ W, Below w.heap.size w W → Calls Tryz.prog 49 #[.agg #[.slice a n ca, .slice a' n' ca', .int .i64 ep, .int .i64 nx, .slice ua un uc, .slice ha hn hc]] W fun e w' => e = .returned (.bool true) ∧ Below W.heap.size W w') := fun W hb => by
    refine (specSvok_any a n ca X a' n' ca' Y ep nx ua un uc lo l ha hn hc hs W (hp.1.below hb) (hp.2.1.below hb) (by omega) (by omega) hp.2.2.2.2.1 (hp.2.2.2.2.2.1.stays hb) hp.2.2.2.2.2.2.1 (by omega) (hp.2.2.2.2.2.2.2.2.2.2.2.1.below hb) (by omega)).mono ?_
    rintro e w' ⟨rfl, h2⟩
    rw [hok]
    exact ⟨rfl, h2⟩
  have HRq : Hid (∀ W, Calls Tryz.prog 58 #[.agg #[.int .i64 op, .string id, .int .i64 rn]] W fun e w' => e = .returned (.bool (reqB op id.data.toList rn)) ∧ Below W.heap.size W w') := fun W => specReqOk_any op id rn W (by omega)
  have hhl : hs.length = hn := hsv.held.len
  have HGV : Hid (SGV k X Y ep nx (l.map UE.u) hs) := hgv
  have HSd : Hid (∀ W, Below w.heap.size w W → Seg W da dl zs) := fun W hb => hsd.below hb
  have HId : Hid (id ≠ newId) := hid
  have HZb : Hid (∀ x ∈ zs, 0 ≤ x ∧ x ≤ 255) := hzb
  have HWho : Hid (i64h who) := hwho
  have HRn : Hid (-9223372036854775808 ≤ rn ∧ rn ≤ 4294967295) := hrn
  clear hp hl hp3 hp4 hp8 hok hsv hgv hsd hid hzb hwho hrn
  obtain ⟨w0, hw0⟩ : ∃ w0, ((w.alloc (.cells #[.slice a n ca, .slice a' n' ca', .int .i64 ep, .int .i64 nx, .slice ua un uc, .slice ha hn hc] 32)).alloc (.cells #[.int .i64 op, .string id, .int .i64 rn] 74)).alloc (.cells #[.slice none 0 0, .slice none 0 0, .int .i64 0, .int .i64 0, .slice none 0 0, .slice none 0 0] 32) = w0 := ⟨_, rfl⟩
  have HE : Hid (((w.alloc (.cells #[.slice a n ca, .slice a' n' ca', .int .i64 ep, .int .i64 nx, .slice ua un uc, .slice ha hn hc] 32)).alloc (.cells #[.int .i64 op, .string id, .int .i64 rn] 74)).alloc (.cells #[.slice none 0 0, .slice none 0 0, .int .i64 0, .int .i64 0, .slice none 0 0, .slice none 0 0] 32) = w0) := hw0
  have HB : Hid (Below w.heap.size w w0) := by show Below _ _ _; rw [← hw0]; exact ((((Below.refl _ _).alloc (by exact Nat.le_refl _) _).alloc (by simp only [World.size_alloc]; omega) _).alloc (by simp only [World.size_alloc]; omega) _)
  have HQ0 : Hid (BoxN w0 (w.heap.size) 32 [.slice a n ca, .slice a' n' ca', .int .i64 ep, .int .i64 nx, .slice ua un uc, .slice ha hn hc]) := by
    show BoxN _ _ _ _
    rw [← hw0]
    have := BoxN.new (w) 32 [.slice a n ca, .slice a' n' ca', .int .i64 ep, .int .i64 nx, .slice ua un uc, .slice ha hn hc]
    exact ((this.alloc _).alloc _)
  have HQ1 : Hid (BoxN w0 (w.heap.size + 1) 74 [.int .i64 op, .string id, .int .i64 rn]) := by
    show BoxN _ _ _ _
    rw [← hw0]
    have := BoxN.new (w.alloc (.cells #[.slice a n ca, .slice a' n' ca', .int .i64 ep, .int .i64 nx, .slice ua un uc, .slice ha hn hc] 32)) 74 [.int .i64 op, .string id, .int .i64 rn]
    simp only [World.size_alloc] at this
    exact (this.alloc _)
  have HQ2 : Hid (BoxN w0 (w.heap.size + 2) 32 [.slice none 0 0, .slice none 0 0, .int .i64 0, .int .i64 0, .slice none 0 0, .slice none 0 0]) := by
    show BoxN _ _ _ _
    rw [← hw0]
    have := BoxN.new ((w.alloc (.cells #[.slice a n ca, .slice a' n' ca', .int .i64 ep, .int .i64 nx, .slice ua un uc, .slice ha hn hc] 32)).alloc (.cells #[.int .i64 op, .string id, .int .i64 rn] 74)) 32 [.slice none 0 0, .slice none 0 0, .int .i64 0, .int .i64 0, .slice none 0 0, .slice none 0 0]
    simp only [World.size_alloc] at this
    exact this
  have hsz : w.heap.size + 2 < w0.heap.size := HQ2.out.lt
  clear hw0
  go_enter Tryz.func33, Tryz.ntmps33
  go_upto_region 1 with fail
  rw [HE.out]
  clear HE
  have q0_0 := HQ0.out.cell 0 rfl
  have q0_1 := HQ0.out.cell 1 rfl
  have q0_2 := HQ0.out.cell 2 rfl
  have q0_3 := HQ0.out.cell 3 rfl
  have q0_4 := HQ0.out.cell 4 rfl
  have q0_5 := HQ0.out.cell 5 rfl
  go_wp2_with fail
  refine (HCp.out w0 HB.out).mono ?_
  rintro e x1 ⟨⟨d, n2, cd, d', n2', cd', va, un2, vc, l', pa, hn2, pc, rfl, hv, hm⟩, hb1⟩
  clear q0_0 q0_1 q0_2 q0_3 q0_4 q0_5 HCp
  obtain ⟨x2, hx2⟩ : ∃ x2, (x1.alloc (.cells #[.slice d n2 cd, .slice d' n2' cd', .int .i64 ep, .int .i64 nx, .slice va un2 vc, .slice pa hn2 pc] 32)) = x2 := ⟨_, rfl⟩
  have HE2 : Hid ((x1.alloc (.cells #[.slice d n2 cd, .slice d' n2' cd', .int .i64 ep, .int .i64 nx, .slice va un2 vc, .slice pa hn2 pc] 32)) = x2) := hx2
  have hb2 : Below x1.heap.size x1 x2 := by rw [← hx2]; exact (Below.refl _ _).alloc (Nat.le_refl _) _
  have hb02 : Below w0.heap.size w0 x2 := hb1.trans (hb2.mono hb1.size)
  have HB2 : Hid (Below w.heap.size w x2) := HB.out.trans (hb02.mono (by omega))
  have HO2 : Hid (BoxN x2 x1.heap.size 32 [.slice d n2 cd, .slice d' n2' cd', .int .i64 ep, .int .i64 nx, .slice va un2 vc, .slice pa hn2 pc]) := by show BoxN _ _ _ _; rw [← hx2]; exact BoxN.new _ _ _
  rw [← hm] at HGV
  have HV2 : Hid (SvAt x2 w0.heap.size d n2 cd X d' n2' cd' Y va un2 vc l' pa hn2 pc hs) := hv.stays hb2
  have HA2 : Hid (BoxN x2 w.heap.size 32 [.slice a n ca, .slice a' n' ca', .int .i64 ep, .int .i64 nx, .slice ua un uc, .slice ha hn hc]) := HQ0.out.stays hb02
  have HR2 : Hid (BoxN x2 (w.heap.size + 1) 74 [.int .i64 op, .string id, .int .i64 rn]) := HQ1.out.stays hb02
  have HZ2 : Hid (BoxN x2 (w.heap.size + 2) 32 [.slice none 0 0, .slice none 0 0, .int .i64 0, .int .i64 0, .slice none 0 0, .slice none 0 0]) := HQ2.out.stays hb02
  have hbx : w0.heap.size ≤ x1.heap.size := hb1.size
  clear hv hm hb1 hb2 hb02 hx2 HQ0 HQ1 HQ2 HB
  go_upto_region 2 with fail
  rw [HE2.out]
  clear HE2
  generalize hLO : w0.heap.size = lo2 at *
  generalize x1.heap.size = b at *
  have hcells : hs.length ≤ 200 := HGV.out.few
  have hhn2 : hs.length = hn2 := HV2.out.held.len
  have q0_0 := HA2.out.cell 0 rfl
  have q0_1 := HA2.out.cell 1 rfl
  have q0_2 := HA2.out.cell 2 rfl
  have q0_3 := HA2.out.cell 3 rfl
  have q0_4 := HA2.out.cell 4 rfl
  have q0_5 := HA2.out.cell 5 rfl
  go_wp2_with fail
  refine (HOk.out x2 HB2.out).mono ?_
  rintro e y1 ⟨rfl, hb1⟩
  have HBy : Hid (Below x2.heap.size x2 y1) := hb1
  have r0 := (BoxN.stays HR2.out HBy.out).cell 0 rfl
  have r1 := (BoxN.stays HR2.out HBy.out).cell 1 rfl
  have r2 := (BoxN.stays HR2.out HBy.out).cell 2 rfl
  clear hb1 q0_0 q0_1 q0_2 q0_3 q0_4 q0_5 HOk
  go_wp2_with fail
  refine (HRq.out y1).mono ?_
  rintro e y2 ⟨rfl, hb2⟩
  have HBz : Hid (Below x2.heap.size x2 y2) := HBy.out.trans (hb2.mono HBy.out.size)
  clear hb2 r0 r1 r2 HRq HBy
  have a5 := (BoxN.stays HA2.out HBz.out).cell 5 rfl
  rw [← hhl, hhn2] at a5
  cases hrq : reqB op id.data.toList rn with
  | false =>
    clear a5
    obtain ⟨c0, c1, c2, c3, c4, c5⟩ := (show _ ∧ _ ∧ _ ∧ _ ∧ _ ∧ _ from ⟨BoxN.cell (BoxN.stays HO2.out HBz.out) 0 rfl, BoxN.cell (BoxN.stays HO2.out HBz.out) 1 rfl, BoxN.cell (BoxN.stays HO2.out HBz.out) 2 rfl, BoxN.cell (BoxN.stays HO2.out HBz.out) 3 rfl, BoxN.cell (BoxN.stays HO2.out HBz.out) 4 rfl, BoxN.cell (BoxN.stays HO2.out HBz.out) 5 rfl⟩)
    obtain ⟨z0, z1, z2, z3, z4, z5⟩ := (show _ ∧ _ ∧ _ ∧ _ ∧ _ ∧ _ from ⟨BoxN.cell (BoxN.stays HZ2.out HBz.out) 0 rfl, BoxN.cell (BoxN.stays HZ2.out HBz.out) 1 rfl, BoxN.cell (BoxN.stays HZ2.out HBz.out) 2 rfl, BoxN.cell (BoxN.stays HZ2.out HBz.out) 3 rfl, BoxN.cell (BoxN.stays HZ2.out HBz.out) 4 rfl, BoxN.cell (BoxN.stays HZ2.out HBz.out) 5 rfl⟩)
    obtain ⟨f0, f1, f2, f3, f4, f5⟩ := (show _ ∧ _ ∧ _ ∧ _ ∧ _ ∧ _ from ⟨BoxN.frozen (BoxN.stays HZ2.out HBz.out) 0, BoxN.frozen (BoxN.stays HZ2.out HBz.out) 1, BoxN.frozen (BoxN.stays HZ2.out HBz.out) 2, BoxN.frozen (BoxN.stays HZ2.out HBz.out) 3, BoxN.frozen (BoxN.stays HZ2.out HBz.out) 4, BoxN.frozen (BoxN.stays HZ2.out HBz.out) 5⟩)
    have HF := (show Hid _ from srvDone (SvAt.stays HV2.out HBz.out) HGV.out (BoxN.stays HZ2.out HBz.out) (HB2.out.trans (HBz.out.mono HB2.out.size)) (by omega) hsz)
    clear HO2 HA2 HR2 HZ2 HV2 HSd
    go_wp2_with fail
    refine bodyPost_ret (v := .tuple #[.agg #[.slice d n2 cd, .slice d' n2' cd', .int .i64 ep, .int .i64 nx, .slice va un2 vc, .slice pa hn2 pc], .bool false]) (by simp [results, Tryz.f33, go_sem, z0, z1, z2, z3, z4, z5]) rfl ?_
    exact ⟨⟨_, _, rfl, HF.out.1⟩, HF.out.2⟩
  | true =>
  by_cases h200 : hn2 = 200
  · subst h200
    obtain ⟨c0, c1, c2, c3, c4, c5⟩ := (show _ ∧ _ ∧ _ ∧ _ ∧ _ ∧ _ from ⟨BoxN.cell (BoxN.stays HO2.out HBz.out) 0 rfl, BoxN.cell (BoxN.stays HO2.out HBz.out) 1 rfl, BoxN.cell (BoxN.stays HO2.out HBz.out) 2 rfl, BoxN.cell (BoxN.stays HO2.out HBz.out) 3 rfl, BoxN.cell (BoxN.stays HO2.out HBz.out) 4 rfl, BoxN.cell (BoxN.stays HO2.out HBz.out) 5 rfl⟩)
    obtain ⟨z0, z1, z2, z3, z4, z5⟩ := (show _ ∧ _ ∧ _ ∧ _ ∧ _ ∧ _ from ⟨BoxN.cell (BoxN.stays HZ2.out HBz.out) 0 rfl, BoxN.cell (BoxN.stays HZ2.out HBz.out) 1 rfl, BoxN.cell (BoxN.stays HZ2.out HBz.out) 2 rfl, BoxN.cell (BoxN.stays HZ2.out HBz.out) 3 rfl, BoxN.cell (BoxN.stays HZ2.out HBz.out) 4 rfl, BoxN.cell (BoxN.stays HZ2.out HBz.out) 5 rfl⟩)
    obtain ⟨f0, f1, f2, f3, f4, f5⟩ := (show _ ∧ _ ∧ _ ∧ _ ∧ _ ∧ _ from ⟨BoxN.frozen (BoxN.stays HZ2.out HBz.out) 0, BoxN.frozen (BoxN.stays HZ2.out HBz.out) 1, BoxN.frozen (BoxN.stays HZ2.out HBz.out) 2, BoxN.frozen (BoxN.stays HZ2.out HBz.out) 3, BoxN.frozen (BoxN.stays HZ2.out HBz.out) 4, BoxN.frozen (BoxN.stays HZ2.out HBz.out) 5⟩)
    have HF := (show Hid _ from srvDone (SvAt.stays HV2.out HBz.out) HGV.out (BoxN.stays HZ2.out HBz.out) (HB2.out.trans (HBz.out.mono HB2.out.size)) (by omega) hsz)
    clear HO2 HA2 HR2 HZ2 HV2 HSd
    go_wp2_with fail
    refine bodyPost_ret (v := .tuple #[.agg #[.slice d n2 cd, .slice d' n2' cd', .int .i64 ep, .int .i64 nx, .slice va un2 vc, .slice pa 200 pc], .bool false]) (by simp [results, Tryz.f33, go_sem, z0, z1, z2, z3, z4, z5]) rfl ?_
    exact ⟨⟨_, _, rfl, HF.out.1⟩, HF.out.2⟩
  have h200b : ((hn2 : Int) == 200) = false := by rw [beq_eq_false_iff_ne]; omega
  obtain ⟨c0, c1, c2, c3, c4⟩ := (show _ ∧ _ ∧ _ ∧ _ ∧ _ from ⟨BoxN.cell (BoxN.stays HO2.out HBz.out) 0 rfl, BoxN.cell (BoxN.stays HO2.out HBz.out) 1 rfl, BoxN.cell (BoxN.stays HO2.out HBz.out) 2 rfl, BoxN.cell (BoxN.stays HO2.out HBz.out) 3 rfl, BoxN.cell (BoxN.stays HO2.out HBz.out) 4 rfl⟩)
  have r0 := (BoxN.stays HR2.out HBz.out).cell 0 rfl
  have r1 := (BoxN.stays HR2.out HBz.out).cell 1 rfl
  have r2 := (BoxN.stays HR2.out HBz.out).cell 2 rfl
  go_upto_region 4 with fail
  clear a5 hrq h200b
  go_wp2_with fail
  have hzs : lo2 ≤ y2.heap.size := by have := HBz.out.size; have := HO2.out.lt; omega
  refine (l15Does_ok lo2 k d n2 cd X d' n2' cd' Y ep nx va un2 vc l' op id rn da dl dc zs y2 (SvAt.stays HV2.out HBz.out).sto HGV.out.sg hzs HId.out (by omega) HRn.out (HSd.out y2 (HB2.out.trans (HBz.out.mono HB2.out.size))) HZb.out hdc hdl).mono ?_
  rintro e y ⟨⟨v, st, off, rfl, ⟨Z, Z', ep', mx, us', hans, hsg'⟩, hr⟩, hby⟩
  obtain ⟨g, cg, g', cg', va', vc', l9, rfl, hs2, hm2⟩ := hans.get
  rw [← hm2] at hsg'
  clear c0 c1 c2 c3 c4 r0 r1 r2
  obtain ⟨y4, hy4⟩ : ∃ y4, (y.alloc (.cells #[.slice g Z.length cg, .slice g' Z'.length cg', .int .i64 ep', .int .i64 mx, .slice va' us'.length vc'] 29)).alloc (.cells #[.int .i64 st, .int .i64 off] 52) = y4 := ⟨_, rfl⟩
  have HE4 : Hid ((y.alloc (.cells #[.slice g Z.length cg, .slice g' Z'.length cg', .int .i64 ep', .int .i64 mx, .slice va' us'.length vc'] 29)).alloc (.cells #[.int .i64 st, .int .i64 off] 52) = y4) := hy4
  have hb4 : Below y.heap.size y y4 := by rw [← hy4]; exact ((Below.refl _ _).alloc (Nat.le_refl _) _).alloc (by simp) _
  have h24 : Below x2.heap.size x2 y4 := (HBz.out.trans (hby.mono HBz.out.size)).trans (hb4.mono (Nat.le_trans HBz.out.size hby.size))
  have HS4 : Hid (BoxN y4 y.heap.size 29 [.slice g Z.length cg, .slice g' Z'.length cg', .int .i64 ep', .int .i64 mx, .slice va' us'.length vc']) := by show BoxN _ _ _ _; rw [← hy4]; exact (BoxN.new _ _ _).alloc _
  have HP4 : Hid (BoxN y4 (y.heap.size + 1) 52 [.int .i64 st, .int .i64 off]) := by
    show BoxN _ _ _ _
    rw [← hy4]
    have := BoxN.new (y.alloc (.cells #[.slice g Z.length cg, .slice g' Z'.length cg', .int .i64 ep', .int .i64 mx, .slice va' us'.length vc'] 29)) 52 [.int .i64 st, .int .i64 off]
    simp only [World.size_alloc] at this
    exact this
  have HO4 : Hid (BoxN y4 b 32 [.slice d n2 cd, .slice d' n2' cd', .int .i64 ep, .int .i64 nx, .slice va un2 vc, .slice pa hn2 pc]) := HO2.out.stays h24
  have HZ4 : Hid (BoxN y4 (w.heap.size + 2) 32 [.slice none 0 0, .slice none 0 0, .int .i64 0, .int .i64 0, .slice none 0 0, .slice none 0 0]) := HZ2.out.stays h24
  have HV4 : Hid (SvAt y4 lo2 g Z.length cg Z g' Z'.length cg' Z' va' us'.length vc' l9 pa hn2 pc hs) := (SvAt.stays HV2.out h24).sto' (hs2.stays hb4)
  have HB4 : Hid (Below w.heap.size w y4) := HB2.out.trans (h24.mono HB2.out.size)
  have HG4 : Hid (SGV k Z Z' ep' mx (l9.map UE.u) (hs ++ [(who, st, off)])) := SGV.served HGV.out (by omega) hsg' who hr
  have HH4 : Hid (hd64 (who, st, off)) := by
    have h1 := hr
    simp only [respB, Bool.and_eq_true, decide_eq_true_eq] at h1
    exact ⟨HWho.out, ⟨by dsimp only; omega, by dsimp only; omega⟩, ⟨by dsimp only; omega, by dsimp only; omega⟩⟩
  have hyb : b < y.heap.size := by have := HBz.out.size; have := HO2.out.lt; have := hby.size; omega
  clear hans hs2 hm2 hsg' hr hby hb4 hy4 h24 HO2 HZ2 HV2 HA2 HR2 HB2 HBz HGV HSd HId HZb HWho HRn hzs
  go_upto_region 5 with fail
  rw [HE4.out]
  clear HE4
  generalize Z.length = m at *
  generalize Z'.length = m' at *
  generalize us'.length = vn at *
  generalize y.heap.size = bs at *
  have s0 := HS4.out.cell 0 rfl
  have c0 := HO4.out.cell 0 rfl
  have f0 := HO4.out.frozen 0
  have s1 := HS4.out.cell 1 rfl
  have c1 := HO4.out.cell 1 rfl
  have f1 := HO4.out.frozen 1
  have s2 := HS4.out.cell 2 rfl
  have c2 := HO4.out.cell 2 rfl
  have f2 := HO4.out.frozen 2
  have s3 := HS4.out.cell 3 rfl
  have c3 := HO4.out.cell 3 rfl
  have f3 := HO4.out.frozen 3
  have s4 := HS4.out.cell 4 rfl
  have c4 := HO4.out.cell 4 rfl
  have f4 := HO4.out.frozen 4
  obtain ⟨y5, hy5⟩ : ∃ y5, (((((y4.setCell ⟨b, 0, none⟩ (.slice g m cg)).setCell ⟨b, 1, none⟩ (.slice g' m' cg')).setCell ⟨b, 2, none⟩ (.int .i64 ep')).setCell ⟨b, 3, none⟩ (.int .i64 mx)).setCell ⟨b, 4, none⟩ (.slice va' vn vc')) = y5 := ⟨_, rfl⟩
  have HE5 : Hid ((((((y4.setCell ⟨b, 0, none⟩ (.slice g m cg)).setCell ⟨b, 1, none⟩ (.slice g' m' cg')).setCell ⟨b, 2, none⟩ (.int .i64 ep')).setCell ⟨b, 3, none⟩ (.int .i64 mx)).setCell ⟨b, 4, none⟩ (.slice va' vn vc')) = y5) := hy5
  have b0 := HO4.out
  have b1 := b0.set 0 (.slice g m cg)
  have b2 := b1.set 1 (.slice g' m' cg')
  have b3 := b2.set 2 (.int .i64 ep')
  have b9 := b3.set 3 (.int .i64 mx)
  have HO5 : Hid (BoxN y5 b 32 [.slice g m cg, .slice g' m' cg', .int .i64 ep', .int .i64 mx, .slice va' vn vc', .slice pa hn2 pc]) := by show BoxN _ _ _ _; rw [← hy5]; exact b9.set 4 (.slice va' vn vc')
  have HP5 : Hid (BoxN y5 (bs + 1) 52 [.int .i64 st, .int .i64 off]) := by show BoxN _ _ _ _; rw [← hy5]; exact (((((HP4.out.other (by omega) _).other (by omega) _).other (by omega) _).other (by omega) _).other (by omega) _)
  have HZ5 : Hid (BoxN y5 (w.heap.size + 2) 32 [.slice none 0 0, .slice none 0 0, .int .i64 0, .int .i64 0, .slice none 0 0, .slice none 0 0]) := by show BoxN _ _ _ _; rw [← hy5]; exact (((((HZ4.out.other (by omega) _).other (by omega) _).other (by omega) _).other (by omega) _).other (by omega) _)
  have HV5 : Hid (SvAt y5 lo2 g m cg Z g' m' cg' Z' va' vn vc' l9 pa hn2 pc hs) := by show SvAt _ _ _ _ _ _ _ _ _ _ _ _ _ _ _ _ _ _; rw [← hy5]; exact ((((HV4.out.setBox b0 _).setBox b1 _).setBox b2 _).setBox b3 _).setBox b9 _
  have HB5 : Hid (Below w.heap.size w y5) := by show Below _ _ _; rw [← hy5]; exact (((((HB4.out.setCell (by dsimp only; omega) _).setCell (by dsimp only; omega) _).setCell (by dsimp only; omega) _).setCell (by dsimp only; omega) _).setCell (by dsimp only; omega) _)
  clear b0 b1 b2 b3 b9 hy5 HO4 HP4 HS4 HZ4 HV4 HB4
  go_upto_region 6 with fail
  rw [HE5.out]
  clear HE5 s0 c0 f0 s1 c1 f1 s2 c2 f2 s3 c3 f3 s4 c4 f4
  have c5 := HO5.out.cell 5 rfl
  have p0 := HP5.out.cell 0 rfl
  have p1 := HP5.out.cell 1 rfl
  have hbY : b < y5.heap.size := HO5.out.lt
  have HNw : Hid (∀ j u, [Value.int .i64 who, .int .i64 st, .int .i64 off][j]? = some u → (y5.alloc (.cells #[.int .i64 who, .int .i64 st, .int .i64 off] 54)).cell? ((⟨y5.heap.size, 0, none⟩ : Addr).add j) = some u) := by
    intro j u hj
    rw [Addr.add_lit, cell_of_row _ _ _ _ _ _ (heap_alloc_new y5 (.cells #[.int .i64 who, .int .i64 st, .int .i64 off] 54))]
    rw [Nat.zero_add]
    simpa using hj
  have hbA : Below y5.heap.size y5 (y5.alloc (.cells #[.int .i64 who, .int .i64 st, .int .i64 off] 54)) := (Below.refl _ _).alloc (Nat.le_refl _) _
  have HVA := (show Hid _ from SvAt.stays HV5.out hbA)
  go_wp2_with (at_builtin; refine wpList_append_own _ rfl _ _ 30 rfl lo2 54 i0 (.agg #[.int .i64 0, .int .i64 0, .int .i64 0]) 3 24 Tryz.underlying30 hi hz0 hz1 hz2 rfl (by decide) (.slice pa hn2 pc) hn2 _ rfl HVA.out.held.1 ⟨y5.heap.size, 0, none⟩ 1 1 [.int .i64 who, .int .i64 st, .int .i64 off] rfl rfl HNw.out (by simp [Value.oneCell']) (by omega) (by omega) (by simp; omega) ?_; intro v6 y6 hown6 hgrow6 _; refine Hid.out ?_)
  refine hidden ?_
  obtain ⟨ga, gc, rfl, hv6⟩ := SvAt.app HVA.out HH4.out hown6 hgrow6
  have hO6 : BoxN y6 b 32 [.slice g m cg, .slice g' m' cg', .int .i64 ep', .int .i64 mx, .slice va' vn vc', .slice pa hn2 pc] := BoxN.grown (BoxN.stays HO5.out hbA) hgrow6 (BoxN.noRow (BoxN.stays HO5.out hbA) HVA.out.held.1 (by decide))
  have hZ6 : BoxN y6 (w.heap.size + 2) 32 [.slice none 0 0, .slice none 0 0, .int .i64 0, .int .i64 0, .slice none 0 0, .slice none 0 0] := BoxN.grown (BoxN.stays HZ5.out hbA) hgrow6 (BoxN.noRow (BoxN.stays HZ5.out hbA) HVA.out.held.1 (by decide))
  have hB6 : Below w.heap.size w y6 := Below.grown (HB5.out.trans (hbA.mono HB5.out.size)) hgrow6 (Nat.le_trans HB5.out.size hbA.size) (fun q hq => by have := (HVA.out.held.lt q (by rw [← ownBlock_sU pa hn2 pc]; exact hq)).1; omega)
  have HO6 : Hid (BoxN y6 b 32 [.slice g m cg, .slice g' m' cg', .int .i64 ep', .int .i64 mx, .slice va' vn vc', .slice pa hn2 pc]) := hO6
  obtain ⟨y7, hy7⟩ : ∃ y7, y6.setCell ⟨b, 5, none⟩ (.slice ga (hn2 + 1) gc) = y7 := ⟨_, rfl⟩
  have HE7 : Hid (y6.setCell ⟨b, 5, none⟩ (.slice ga (hn2 + 1) gc) = y7) := hy7
  have HO7 : Hid (BoxN y7 b 32 [.slice g m cg, .slice g' m' cg', .int .i64 ep', .int .i64 mx, .slice va' vn vc', .slice ga (hn2 + 1) gc]) := by show BoxN _ _ _ _; rw [← hy7]; exact hO6.set 5 (.slice ga (hn2 + 1) gc)
  have HZ7 : Hid (BoxN y7 (w.heap.size + 2) 32 [.slice none 0 0, .slice none 0 0, .int .i64 0, .int .i64 0, .slice none 0 0, .slice none 0 0]) := by show BoxN _ _ _ _; rw [← hy7]; exact hZ6.other (by omega) _
  have HF := (show Hid _ from srvDone (W := y7) (b := w.heap.size + 2) (SvAt.setBox hv6 hO6 (i := 5) (.slice ga (hn2 + 1) gc) |> fun h => by rw [hy7] at h; exact h) HG4.out HZ7.out (by rw [← hy7]; exact hB6.setCell (by dsimp only; omega) _) (by omega) hsz)
  have k5 := HO6.out.cell 5 rfl
  have k6 := HO6.out.frozen 5
  clear hown6 hgrow6 hv6 hO6 hZ6 hB6 hy7 HNw hbA HVA HO5 HP5 HZ5 HV5 HB5 HG4 HH4 c5 p0 p1 HO6
  go_upto_region 7 with fail
  rw [HE7.out]
  clear HE7 k5 k6
  obtain ⟨c0, c1, c2, c3, c4, c5⟩ := (show _ ∧ _ ∧ _ ∧ _ ∧ _ ∧ _ from ⟨HO7.out.cell 0 rfl, HO7.out.cell 1 rfl, HO7.out.cell 2 rfl, HO7.out.cell 3 rfl, HO7.out.cell 4 rfl, HO7.out.cell 5 rfl⟩)
  obtain ⟨z0, z1, z2, z3, z4, z5⟩ := (show _ ∧ _ ∧ _ ∧ _ ∧ _ ∧ _ from ⟨HZ7.out.cell 0 rfl, HZ7.out.cell 1 rfl, HZ7.out.cell 2 rfl, HZ7.out.cell 3 rfl, HZ7.out.cell 4 rfl, HZ7.out.cell 5 rfl⟩)
  obtain ⟨f0, f1, f2, f3, f4, f5⟩ := (show _ ∧ _ ∧ _ ∧ _ ∧ _ ∧ _ from ⟨HZ7.out.frozen 0, HZ7.out.frozen 1, HZ7.out.frozen 2, HZ7.out.frozen 3, HZ7.out.frozen 4, HZ7.out.frozen 5⟩)
  clear HO7 HZ7
  go_wp2_with fail
  refine bodyPost_ret (v := .tuple #[.agg #[.slice g m cg, .slice g' m' cg', .int .i64 ep', .int .i64 mx, .slice va' vn vc', .slice ga (hn2 + 1) gc], .bool true]) (by simp [results, Tryz.f33, go_sem, z0, z1, z2, z3, z4, z5]) rfl ?_
  exact ⟨⟨_, _, rfl, HF.out.1⟩, HF.out.2⟩

end Go.Proofs.YtlkgopoicpnacaaGreatDoor

namespace Go.Proofs.YtlkgopoicpnacaaGreatDoor
open Go.RowKit
set_option linter.unusedVariables false

/-- How many sectors a new disk has. -/
def newN (n : Int) : Nat := if n ≤ 200 then n.toNat else 0

end Go.Proofs.YtlkgopoicpnacaaGreatDoor

namespace Go.Proofs.YtlkgopoicpnacaaGreatDoor
open Go.RowKit
set_option linter.unusedVariables false

theorem step_append_where {P : Program} {ops : Array Oper} {o : Oper} {a : Act} {w : World} {K : Act → World → Prop} {Q : Exit → Act → World → Prop} {E : Prop}
    (hg : o.guard = none) (s x : Operand) (t : TypeId) (ho : o.op = .call { callee := .builtin .append, args := #[s, x], argTypes := #[t, t] })
    (base : Nat) (e : TypeId) (i : TypeInfo) (z : Value) (size bytes : Nat) (ht : P.underlying t = some (.slice e)) (hi : P.info? e = some i) (hz : i.zero = some z)
    (hsize : i.size = size) (hby : i.bytes = bytes) (hzs : z.cells.size = size) (hsz : 0 < size)
    (v : Value) (n : Nat) (xs : List Value) (hs : a.eval s = v) (hown : w.ownsRow base e size v n xs)
    (ad : Addr) (m c : Nat) (hm : 0 < m) (news : List Value) (hx : a.eval x = .slice (some ad) m c) (hl : news.length = m * size) (hnews : ∀ j u, news[j]? = some u → w.cell? (ad.add j) = some u) (h1 : ∀ u ∈ news, u.oneCell' = true)
    (h63 : n + m ≤ maxLen) (hbytes : (n + m) * bytes ≤ 140737488355328) (hbase : base ≤ w.heap.size)
    (h : ∀ v' w', w'.ownsRow base e size v' (n + m) (xs ++ news) → w.grownBy w' v.ownBlock → (v'.ownBlock = v.ownBlock ∨ v'.ownBlock = some w.heap.size) → K (a.put o.dst v') w') :
    if Region.wanted o (yielded ops a.tmps) = true then Oper.wp P o a w K Q else E := by
  have hw : Region.wanted o (yielded ops a.tmps) = true := by simp [Region.wanted, hg]
  rw [if_pos hw]
  obtain ⟨v', w', hr, h2, h3, _⟩ := run_append_own (P := P) w base t o.type e i z size bytes ht hi hz hsize hby hzs hsz v n xs hown ad m c news hl hnews h1 h63 hbytes hbase
  have hsmall : n + m ≤ 9223372036854775807 := by simp only [maxLen] at h63; omega
  have key : v'.ownBlock = v.ownBlock ∨ v'.ownBlock = some w.heap.size := by
    subst hsize
    subst hby
    rcases hown.2 with ⟨rfl, rfl⟩ | ⟨g, cap, cur, rfl, hbg, hg2, hnc, hcm, hcs, htake⟩
    · have hr2 := run_append_nil (P := P) w t o.type e i z ht hi hz ad m c news hl hnews (by omega) (by omega) (by have hb := hbytes; simp only [Nat.zero_add] at hb; omega)
      rw [hr] at hr2
      injection hr2 with e1 _
      rw [e1]
      exact .inr rfl
    · by_cases hroom : n + m ≤ cap
      · have hfit : n * i.size + news.length ≤ cur.size := by rw [hl, hcs, ← Nat.add_mul]; exact Nat.mul_le_mul_right _ hroom
        have hr2 := run_append_room (P := P) w t o.type e i ht hi g n cap cur hg2 ad m c news hl hnews h1 hroom hfit
        rw [hr] at hr2
        injection hr2 with e1 _
        rw [e1]
        exact .inl rfl
      · have holds : ∀ j u, xs[j]? = some u → w.cell? ((⟨g, 0, none⟩ : Addr).add j) = some u := hown.cells (g := g) rfl
        have hr2 := run_append_grow (P := P) w t o.type e i z ht hi hz ⟨g, 0, none⟩ n cap xs hown.1 holds ad m c news hl hnews (by omega) (by omega) (growslice_fits (by omega) hbytes)
        rw [hr] at hr2
        injection hr2 with e1 _
        rw [e1]
        exact .inr rfl
  unfold Oper.wp execOp
  simp only [ho, resolve, invoke, builtin, Sem.run_bind, Sem.run_pure, Result.andThen_ok, List.map_toArray, List.map_cons, List.map_nil, hs, hx, hr]
  exact h v' w' h2 h3 key

end Go.Proofs.YtlkgopoicpnacaaGreatDoor

namespace Go.Proofs.YtlkgopoicpnacaaGreatDoor
open Go.RowKit
set_option linter.unusedVariables false

theorem wpList_append_where {P : Program} {w : World} {ops : Array Oper} {rest : List Oper} {o : Oper} {a : Act} {Q : Exit → Act → World → Prop} (hgd : o.guard = none) (s x : Operand) (t : TypeId)
    (ho : o.op = .call { callee := .builtin .append, args := #[s, x], argTypes := #[t, t] })
    (base : Nat) (e : TypeId) (i : TypeInfo) (z : Value) (size bytes : Nat) (ht : P.underlying t = some (.slice e)) (hi : P.info? e = some i) (hz : i.zero = some z)
    (hsize : i.size = size) (hby : i.bytes = bytes) (hzs : z.cells.size = size) (hsz : 0 < size)
    (v : Value) (n : Nat) (xs : List Value) (hs : a.eval s = v) (hown : w.ownsRow base e size v n xs)
    (ad : Addr) (m c : Nat) (hm : 0 < m) (news : List Value) (hx : a.eval x = .slice (some ad) m c) (hl : news.length = m * size) (hnews : ∀ j u, news[j]? = some u → w.cell? (ad.add j) = some u) (h1 : ∀ u ∈ news, u.oneCell' = true)
    (h63 : n + m ≤ maxLen) (hbytes : (n + m) * bytes ≤ 140737488355328) (hbase : base ≤ w.heap.size)
    (h : ∀ v' w', w'.ownsRow base e size v' (n + m) (xs ++ news) → w.grownBy w' v.ownBlock → (v'.ownBlock = v.ownBlock ∨ v'.ownBlock = some w.heap.size) → wpList P ops Q rest (a.put o.dst v') w') : wpList P ops Q (o :: rest) a w := by
  refine wpList_plain hgd fun K hK => ?_
  have := step_append_where (ops := ops) (E := True) (Q := Q) (K := K) hgd s x t ho base e i z size bytes ht hi hz hsize hby hzs hsz v n xs hs hown ad m c hm news hx hl hnews h1 h63 hbytes hbase (fun v' w' h2 h3 h4 => hK _ _ (h v' w' h2 h3 h4))
  rwa [if_pos (by simp [Region.wanted, hgd])] at this

end Go.Proofs.YtlkgopoicpnacaaGreatDoor

namespace Go.Proofs.YtlkgopoicpnacaaGreatDoor
open Go.RowKit
set_option linter.unusedVariables false

theorem blkOf_own (v : Value) : v.ownBlock = blkOf v := by
  cases v with
  | slice a n c => cases a <;> rfl
  | _ => rfl

/-- A disk that grows in a variable, beside a variable for the answer. -/
def DN (w W : World) (v0 v1 : Value) (k0 k1 : Nat) (X Y : List ByteArray) : Prop :=
  Box2R W (w.heap.size + 1) 26 v0 v1 ∧ Box2R W w.heap.size 26 (.slice none 0 0) (.slice none 0 0) ∧ OwnSt W (w.heap.size + 2) v0 k0 X ∧ OwnSt W (w.heap.size + 2) v1 k1 Y ∧ (∀ q, blkOf v0 = some q → blkOf v1 ≠ some q) ∧ Below w.heap.size w W

section
variable {w W w2 : World} {v0 v1 v2 : Value} {k0 k1 k2 : Nat} {X Y Z : List ByteArray}

theorem DN.push0 (h : DN w W v0 v1 k0 k1 X Y) (o : Obj) (ho : OwnSt w2 (w.heap.size + 2) v2 k2 Z) (hg : (W.alloc o).grownBy w2 v0.ownBlock) (hw : v2.ownBlock = v0.ownBlock ∨ v2.ownBlock = some (W.alloc o).heap.size) :
    DN w (w2.setCell ⟨w.heap.size + 1, 0, none⟩ v2) v2 v1 k2 k1 Z Y := by
  obtain ⟨h1, h2, h3, h4, h5, h6⟩ := h
  rw [blkOf_own, blkOf_own] at hw
  rw [blkOf_own] at hg
  have hlt0 : ∀ q, blkOf v0 = some q → w.heap.size + 2 ≤ q := fun q e => (h3.lt q e).1
  have hlt2 : ∀ q, blkOf v2 = some q → w.heap.size + 2 ≤ q := fun q e => (ho.lt q e).1
  have g1 := (h1.alloc o).grown hg (fun e => by have := hlt0 _ e; omega)
  have g2 := (h2.alloc o).grown hg (fun e => by have := hlt0 _ e; omega)
  have g4 := (h4.below ((Below.refl _ _).alloc (Nat.le_refl _) o)).kept hg (fun q e e2 => h5 q e e2)
  have hsz := h1.lt
  refine ⟨g1.set0 _, g2.other (by omega) _, ho.setCell (fun e => by have := hlt2 _ e; omega) _, g4.setCell (fun e => by have := (h4.lt _ e).1; omega) _, ?_, ?_⟩
  · intro q e e2
    rcases hw with hw | hw
    · exact h5 q (hw ▸ e) e2
    · rw [hw, World.size_alloc] at e
      injection e with e
      have := (h4.lt _ e2).2
      omega
  · exact ((h6.alloc h6.size o).grown hg (by have := h6.size; simp; omega) (fun q e => by have := hlt0 _ e; omega)).setCell (by dsimp only; omega) _

theorem DN.push1 (h : DN w W v0 v1 k0 k1 X Y) (o : Obj) (ho : OwnSt w2 (w.heap.size + 2) v2 k2 Z) (hg : (W.alloc o).grownBy w2 v1.ownBlock) (hw : v2.ownBlock = v1.ownBlock ∨ v2.ownBlock = some (W.alloc o).heap.size) :
    DN w (w2.setCell ⟨w.heap.size + 1, 1, none⟩ v2) v0 v2 k0 k2 X Z := by
  obtain ⟨h1, h2, h3, h4, h5, h6⟩ := h
  rw [blkOf_own, blkOf_own] at hw
  rw [blkOf_own] at hg
  have hlt0 : ∀ q, blkOf v1 = some q → w.heap.size + 2 ≤ q := fun q e => (h4.lt q e).1
  have hlt2 : ∀ q, blkOf v2 = some q → w.heap.size + 2 ≤ q := fun q e => (ho.lt q e).1
  have g1 := (h1.alloc o).grown hg (fun e => by have := hlt0 _ e; omega)
  have g2 := (h2.alloc o).grown hg (fun e => by have := hlt0 _ e; omega)
  have g3 := (h3.below ((Below.refl _ _).alloc (Nat.le_refl _) o)).kept hg (fun q e e2 => h5 q e2 e)
  have hsz := h1.lt
  refine ⟨g1.set1 _, g2.other (by omega) _, g3.setCell (fun e => by have := (h3.lt _ e).1; omega) _, ho.setCell (fun e => by have := hlt2 _ e; omega) _, ?_, ?_⟩
  · intro q e e2
    rcases hw with hw | hw
    · exact h5 q e (hw ▸ e2)
    · rw [hw, World.size_alloc] at e2
      injection e2 with e2
      have := (h3.lt _ e).2
      omega
  · exact ((h6.alloc h6.size o).grown hg (by have := h6.size; simp; omega) (fun q e => by have := hlt0 _ e; omega)).setCell (by dsimp only; omega) _
end

theorem srow_shape {w : World} {base n : Nat} {v : Value} {xs : List Value} (h : w.ownsRow base 9 1 v n xs) : ∃ a cap, v = .slice a n cap := by
  rcases h.2 with ⟨rfl, rfl⟩ | ⟨g, cap, cur, rfl, _⟩
  · exact ⟨_, _, rfl⟩
  · exact ⟨_, _, rfl⟩

theorem str_new (W : World) (x : ByteArray) : ∀ j v, [Value.string x][j]? = some v → (W.alloc (.cells #[.string x] 9)).cell? ((⟨W.heap.size, 0, none⟩ : Addr).add j) = some v := by
  intro j v hj
  obtain rfl : j = 0 := by have := (List.getElem?_eq_some_iff.1 hj).1; simpa using this
  rw [Addr.add_lit, cell_of_row _ _ _ _ _ _ (heap_alloc_new W (.cells #[.string x] 9))]
  simpa using hj

set_option maxRecDepth 10000 in
set_option maxHeartbeats 1600000 in
theorem specDnew_any (n : Int) (w : World) :
    Calls Tryz.prog 69 #[.int .i64 n] w fun e w' => (∃ v, e = .returned v ∧ AnsD w.heap.size (List.replicate (newN n) ⟨#[]⟩) (List.replicate (newN n) ⟨#[]⟩) v w') ∧ Below w.heap.size w w' := by
  obtain ⟨i0, hi, hz0, hz1, hz2⟩ := info_parts info_string
  obtain ⟨W0, hW0⟩ : ∃ W0, (w.alloc (Obj.cells #[Value.slice none 0 0, Value.slice none 0 0] 26)).alloc (Obj.cells #[Value.slice none 0 0, Value.slice none 0 0] 26) = W0 := ⟨_, rfl⟩
  have HE : Hid ((w.alloc (Obj.cells #[Value.slice none 0 0, Value.slice none 0 0] 26)).alloc (Obj.cells #[Value.slice none 0 0, Value.slice none 0 0] 26) = W0) := hW0
  have HD0 : Hid (DN w W0 (.slice none 0 0) (.slice none 0 0) 0 0 (List.replicate 0 ⟨#[]⟩) (List.replicate 0 ⟨#[]⟩)) := by
    show DN _ _ _ _ _ _ _ _
    have hr : ∀ W : World, OwnSt W (w.heap.size + 2) (.slice none 0 0) 0 (List.replicate 0 ⟨#[]⟩) := fun W => ⟨⟨rfl, .inl ⟨rfl, rfl⟩⟩, by simp⟩
    refine ⟨?_, ?_, hr _, hr _, by simp [blkOf], ?_⟩
    · have := Box2R.new (w.alloc (Obj.cells #[Value.slice none 0 0, Value.slice none 0 0] 26)) 26 (.slice none 0 0) (.slice none 0 0)
      rw [World.size_alloc, hW0] at this
      exact this
    · rw [← hW0]
      exact (Box2R.new _ _ _ _).alloc _
    · rw [← hW0]
      exact ((Below.refl _ _).alloc (Nat.le_refl _) _).alloc (by simp) _
  clear hW0
  go_enter Tryz.func69, Tryz.ntmps69
  go_wp2_with fail
  rw [HE.out]
  clear HE
  go_loopw [4] (fun i wr => ∃ k : Nat, k ≤ newN n ∧ i = .int .i64 (k : Int) ∧ Hid (∃ v0 v1, DN w wr v0 v1 k k (List.replicate k ⟨#[]⟩) (List.replicate k ⟨#[]⟩))) (fun i _ => newN n - (intOf i).toNat)
  case atStart => exact ⟨0, Nat.zero_le _, rfl, ⟨_, _, HD0.out⟩⟩
  case round =>
    clear HD0
    obtain ⟨k, hk, rfl, HD⟩ := hrel
    obtain ⟨v0, v1, hd⟩ := HD.out
    have HDN : Hid (DN w wr v0 v1 k k (List.replicate k ⟨#[]⟩) (List.replicate k ⟨#[]⟩)) := hd
    clear HD hd
    by_cases hlt : k < newN n
    · have hn2 : n ≤ 200 := by
        by_cases h : n ≤ 200
        · exact h
        · rw [newN, if_neg h] at hlt
          omega
      have hkn : (k : Int) < n := by
        rw [newN, if_pos hn2] at hlt
        omega
      have hk200 : k ≤ 200 := by omega
      have HRp : Hid (scells (List.replicate (k + 1) (⟨#[]⟩ : ByteArray)) = scells (List.replicate k ⟨#[]⟩) ++ [.string ⟨#[]⟩]) := by
        show _ = _
        rw [List.replicate_succ', scells_append]
        rfl
      have HRm : Hid (∀ x ∈ List.replicate (k + 1) (⟨#[]⟩ : ByteArray), x.size ≤ maxLen) := fun x hx => by
        rw [(List.mem_replicate.1 hx).2]
        exact Nat.zero_le _
      obtain ⟨d0, d1⟩ := HDN.out.1.cells
      have hsz : w.heap.size + 2 ≤ wr.heap.size := HDN.out.1.lt
      have HO1 : Hid ((wr.alloc (.cells #[.string ⟨#[]⟩] 9)).ownsRow (w.heap.size + 2) 9 1 v0 k (scells (List.replicate k ⟨#[]⟩))) := HDN.out.2.2.1.1.alloc _
      go_wp2_with (at_builtin; refine wpList_append_where rfl _ _ 24 rfl (w.heap.size + 2) 9 i0 (.string ⟨#[]⟩) 1 16 Tryz.underlying24 hi hz0 hz1 hz2 rfl (by decide) v0 k (scells (List.replicate k ⟨#[]⟩)) rfl HO1.out ⟨wr.heap.size, 0, none⟩ 1 1 (by decide) [.string ⟨#[]⟩] rfl rfl (str_new wr ⟨#[]⟩) (by simp [Value.oneCell']) (by unfold maxLen; omega) (by omega) (by simp; omega) ?_; intro v2 w2 hown2 hgrow2 hw2; obtain ⟨A2, C2, rfl⟩ := srow_shape hown2; refine Hid.out ?_)
      refine hidden ?_
      have HD2 : Hid (DN w (w2.setCell ⟨w.heap.size + 1, 0, none⟩ (.slice A2 (k + 1) C2)) (.slice A2 (k + 1) C2) v1 (k + 1) k (List.replicate (k + 1) ⟨#[]⟩) (List.replicate k ⟨#[]⟩)) := HDN.out.push0 _ ⟨by rw [HRp.out]; exact hown2, HRm.out⟩ hgrow2 hw2
      have hbx : Box2R w2 (w.heap.size + 1) 26 v0 v1 := (HDN.out.1.alloc _).grown hgrow2 (fun e => by rw [blkOf_own] at e; have := (HDN.out.2.2.1.lt _ e).1; omega)
      obtain ⟨e0, e1⟩ := hbx.cells
      have f0 := hbx.frozen 0
      clear hown2 hgrow2 hw2 HO1 hbx d0 d1
      go_upto_region 6 with fail
      obtain ⟨W3, hW3⟩ : ∃ W3, w2.setCell ⟨w.heap.size + 1, 0, none⟩ (.slice A2 (k + 1) C2) = W3 := ⟨_, rfl⟩
      rw [hW3] at HD2 ⊢
      clear hW3 HDN e0 e1 f0 hsz
      obtain ⟨d0, d1⟩ := HD2.out.1.cells
      have hsz : w.heap.size + 2 ≤ W3.heap.size := HD2.out.1.lt
      have HO1 : Hid ((W3.alloc (.cells #[.string ⟨#[]⟩] 9)).ownsRow (w.heap.size + 2) 9 1 v1 k (scells (List.replicate k ⟨#[]⟩))) := HD2.out.2.2.2.1.1.alloc _
      go_wp2_with (at_builtin; refine wpList_append_where rfl _ _ 24 rfl (w.heap.size + 2) 9 i0 (.string ⟨#[]⟩) 1 16 Tryz.underlying24 hi hz0 hz1 hz2 rfl (by decide) v1 k (scells (List.replicate k ⟨#[]⟩)) rfl HO1.out ⟨W3.heap.size, 0, none⟩ 1 1 (by decide) [.string ⟨#[]⟩] rfl rfl (str_new W3 ⟨#[]⟩) (by simp [Value.oneCell']) (by unfold maxLen; omega) (by omega) (by simp; omega) ?_; intro v3 w4 hown4 hgrow4 hw4; obtain ⟨A3, C3, rfl⟩ := srow_shape hown4; refine Hid.out ?_)
      refine hidden ?_
      have HD4 : Hid (DN w (w4.setCell ⟨w.heap.size + 1, 1, none⟩ (.slice A3 (k + 1) C3)) (.slice A2 (k + 1) C2) (.slice A3 (k + 1) C3) (k + 1) (k + 1) (List.replicate (k + 1) ⟨#[]⟩) (List.replicate (k + 1) ⟨#[]⟩)) := HD2.out.push1 _ ⟨by rw [HRp.out]; exact hown4, HRm.out⟩ hgrow4 hw4
      have hbx : Box2R w4 (w.heap.size + 1) 26 (.slice A2 (k + 1) C2) v1 := (HD2.out.1.alloc _).grown hgrow4 (fun e => by rw [blkOf_own] at e; have := (HD2.out.2.2.2.1.lt _ e).1; omega)
      obtain ⟨p0, p1⟩ := hbx.cells
      have f1 := hbx.frozen 1
      clear hown4 hgrow4 hw4 HO1 hbx d0 d1 HD2
      go_wp2_with fail
      go_roundw
      case rel => exact ⟨k + 1, by omega, by go_num, ⟨_, _, HD4.out⟩⟩
      case measure => simp [intOf]; omega
    · have hkN : k = newN n := by omega
      have HN : Hid (newN n = k) := hkN.symm
      have hend : ¬ ((k : Int) < n) ∨ ((k : Int) < n ∧ 200 < n) := by
        by_cases h : n ≤ 200
        · rw [newN, if_pos h] at hkN
          omega
        · omega
      clear hlt hkN hk
      obtain ⟨A0, C0, rfl⟩ := HDN.out.2.2.1.shape
      obtain ⟨A1, C1, rfl⟩ := HDN.out.2.2.2.1.shape
      obtain ⟨d0, d1⟩ := HDN.out.1.cells
      obtain ⟨r0, r1⟩ := HDN.out.2.1.cells
      have f0 := HDN.out.2.1.frozen 0
      have f1 := HDN.out.2.1.frozen 1
      have HR : Hid (AnsD w.heap.size (List.replicate (newN n) ⟨#[]⟩) (List.replicate (newN n) ⟨#[]⟩) (.agg #[.slice A0 k C0, .slice A1 k C1]) ((wr.setCell ⟨w.heap.size, 0, none⟩ (.slice A0 k C0)).setCell ⟨w.heap.size, 1, none⟩ (.slice A1 k C1)) ∧ Below w.heap.size w ((wr.setCell ⟨w.heap.size, 0, none⟩ (.slice A0 k C0)).setCell ⟨w.heap.size, 1, none⟩ (.slice A1 k C1))) := by
        obtain ⟨h1, h2, h3, h4, h5, h6⟩ := HDN.out
        have n0 : blkOf (.slice A0 k C0) ≠ some w.heap.size := fun e => by have := (h3.lt _ e).1; omega
        have n1 : blkOf (.slice A1 k C1) ≠ some w.heap.size := fun e => by have := (h4.lt _ e).1; omega
        refine ⟨AnsD.mk' (by rw [HN.out]; simp) (by rw [HN.out]; simp) ?_ ?_ ?_, (h6.setCell (Nat.le_refl _) _).setCell (Nat.le_refl _) _⟩
        · rw [HN.out]
          exact ((h3.setCell n0 _).setCell n0 _).low (by omega)
        · rw [HN.out]
          exact ((h4.setCell n1 _).setCell n1 _).low (by omega)
        · intro q e e2
          refine h5 q ?_ ?_
          · cases A0 <;> simp_all [blkOf]
          · cases A1 <;> simp_all [blkOf]
      clear HDN HN
      rcases hend with hend | ⟨hend, hbig⟩
      all_goals
        go_wp2_with fail
        refine bodyPost_ret (v := .agg #[.slice A0 k C0, .slice A1 k C1]) (by simp [results, Tryz.f69, go_sem, r0, r1]) rfl ?_
        exact ⟨⟨_, rfl, HR.out.1⟩, HR.out.2⟩

end Go.Proofs.YtlkgopoicpnacaaGreatDoor

namespace Go.Proofs.YtlkgopoicpnacaaGreatDoor
open Go.RowKit
set_option linter.unusedVariables false

set_option maxRecDepth 10000 in
set_option maxHeartbeats 1600000 in
theorem specStoreNew_any (n : Int) (w : World) :
    Calls Tryz.prog 46 #[.int .i64 n] w fun e w' => (∃ v, e = .returned v ∧ AnsS w.heap.size (List.replicate (newN n) ⟨#[]⟩) (List.replicate (newN n) ⟨#[]⟩) 0 0 [] v w') ∧ Below w.heap.size w w' := by
  obtain ⟨w0, hw0⟩ : ∃ w0, w.alloc (.cells #[.slice none 0 0, .slice none 0 0, .int .i64 0, .int .i64 0, .slice none 0 0] 29) = w0 := ⟨_, rfl⟩
  have HE : Hid (w.alloc (.cells #[.slice none 0 0, .slice none 0 0, .int .i64 0, .int .i64 0, .slice none 0 0] 29) = w0) := hw0
  have HB : Hid (Below w.heap.size w w0) := by show Below _ _ _; rw [← hw0]; exact (Below.refl _ _).alloc (Nat.le_refl _) _
  have HR : Hid (BoxN w0 w.heap.size 29 [.slice none 0 0, .slice none 0 0, .int .i64 0, .int .i64 0, .slice none 0 0]) := by show BoxN _ _ _ _; rw [← hw0]; exact BoxN.new _ _ _
  have hlt : w.heap.size < w0.heap.size := HR.out.lt
  clear hw0
  have HC : Hid (Calls Tryz.prog 69 #[.int .i64 n] w0 fun e w' => (∃ v, e = .returned v ∧ AnsD w0.heap.size (List.replicate (newN n) ⟨#[]⟩) (List.replicate (newN n) ⟨#[]⟩) v w') ∧ Below w0.heap.size w0 w') := specDnew_any n w0
  obtain ⟨RX, hRX⟩ : ∃ RX : List ByteArray, List.replicate (newN n) ⟨#[]⟩ = RX := ⟨_, rfl⟩
  rw [hRX] at HC ⊢
  obtain ⟨M, hM⟩ : ∃ M, RX.length = M := ⟨_, rfl⟩
  unfold AnsD at HC
  rw [hM] at HC
  clear hRX hM
  go_enter Tryz.func46, Tryz.ntmps46
  go_upto_region 1 with fail
  rw [HE.out]
  clear HE
  go_wp2_with fail
  refine HC.out.mono ?_
  rintro e x ⟨⟨v, rfl, A, C, A', C', rfl, o1, o2, hap⟩, hb⟩
  have HB1 : Hid (Below w.heap.size w x) := HB.out.trans (hb.mono HB.out.size)
  have HS : Hid (StoAt x w0.heap.size A M C RX A' M C' RX none 0 0 []) := ⟨o1, o2, hap, ⟨⟨rfl, .inl ⟨rfl, rfl⟩⟩, by simp, by simp⟩, rfl⟩
  have hR := HR.out.stays hb
  clear o1 o2 hap hb HC HB HR
  have a0 := hR.cell 0 rfl
  have a1 := hR.cell 1 rfl
  have a2 := hR.cell 2 rfl
  have a3 := hR.cell 3 rfl
  have a4 := hR.cell 4 rfl
  have e0 := hR.frozen 0
  have e1 := hR.frozen 1
  have e2 := hR.frozen 2
  have e3 := hR.frozen 3
  have e4 := hR.frozen 4
  go_wp2_with fail
  refine bodyPost_ret (v := .agg #[.slice A M C, .slice A' M C', .int .i64 0, .int .i64 0, .slice none 0 0]) (by simp [results, Tryz.f46, go_sem, a0, a1, a2, a3, a4]) rfl ?_
  refine ⟨⟨_, rfl, A, M, C, A', M, C', none, 0, 0, [], rfl, ?_, rfl⟩, ?_⟩
  · exact (((((HS.out.setLow (by omega) _).setLow (by omega) _).setLow (by omega) _).setLow (by omega) _).setLow (by omega) _).low (by omega)
  · exact ((((HB1.out.setCell (by dsimp only; omega) _).setCell (by dsimp only; omega) _).setCell (by dsimp only; omega) _).setCell (by dsimp only; omega) _).setCell (by dsimp only; omega) _

end Go.Proofs.YtlkgopoicpnacaaGreatDoor
