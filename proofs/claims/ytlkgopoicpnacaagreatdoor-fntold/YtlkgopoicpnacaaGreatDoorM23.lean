/- Pieces of a list of bytes. No program in it. What the specification's PutUp answers. -/
import Derived.Test.YtlkgopoicpnacaaGreatDoorM01
import Derived.Test.YtlkgopoicpnacaaGreatDoorM21
import Derived.Test.YtlkgopoicpnacaaGreatDoorM16
import Derived.Test.YtlkgopoicpnacaaGreatDoorM17
import Derived.Test.YtlkgopoicpnacaaGreatDoorM22
import Derived.Test.YtlkgopoicpnacaaGreatDoorM22
import Derived.Test.YtlkgopoicpnacaaGreatDoorM06
import Derived.Test.YtlkgopoicpnacaaGreatDoorM22
namespace Go.Proofs.YtlkgopoicpnacaaGreatDoor
open Go.RowKit
set_option linter.unusedVariables false

theorem seg_part {w : World} {b off len : Nat} {zs : List Int} (h : Seg w (some ⟨b, off, none⟩) len zs) (T n : Nat) (hT : T + n ≤ len) : Seg w (some ⟨b, off + T, none⟩) n ((zs.drop T).take n) := by
  have hl := h.1
  refine ⟨by rw [List.length_take, List.length_drop]; omega, fun x hx => h.2.1 x (List.mem_of_mem_drop (List.mem_of_mem_take hx)), ?_⟩
  rcases h.2.2 with h0 | ⟨b', off', e, hb, hc⟩
  · exact .inl (by omega)
  · simp only [Option.some.injEq, Addr.mk.injEq, and_true] at e
    obtain ⟨rfl, rfl⟩ := e
    refine .inr ⟨b, off + T, rfl, hb, fun i hi => ?_⟩
    rw [Nat.add_assoc, hc (T + i) (by omega)]
    rw [List.getD_eq_getElem?_getD, List.getD_eq_getElem?_getD, List.getElem?_take, if_pos hi, List.getElem?_drop]

theorem seg_empty {w : World} (a : Option Addr) : Seg w a 0 [] := ⟨rfl, by simp, .inl rfl⟩

theorem seg_some {w : World} {a : Option Addr} {len : Nat} {zs : List Int} (h : Seg w a len zs) (hl : 0 < len) : ∃ b off, a = some ⟨b, off, none⟩ ∧ w.cell? ⟨b, off, none⟩ = some (.int .u8 (zs.getD 0 0)) := by
  rcases h.2.2 with h0 | ⟨b, off, e, _, hc⟩
  · omega
  · exact ⟨b, off, e, by simpa using hc 0 hl⟩

/-- A piece of a list of bytes, by an address that may have stayed where it was if nothing is left. -/
theorem seg_cut {w : World} {b off len : Nat} {zs : List Int} (h : Seg w (some ⟨b, off, none⟩) len zs) (T n o : Nat) (hT : T + n ≤ len) (ho : o = off + T ∨ n = 0) : Seg w (some ⟨b, o, none⟩) n ((zs.drop T).take n) := by
  rcases ho with rfl | rfl
  · exact seg_part h T n hT
  · exact ⟨by simp, by simp, .inl rfl⟩

end Go.Proofs.YtlkgopoicpnacaaGreatDoor

namespace Go.Proofs.YtlkgopoicpnacaaGreatDoor
open Go.RowKit
set_option linter.unusedVariables false

set_option maxRecDepth 10000 in
set_option maxHeartbeats 6400000 in
theorem specPutUp_any (a : Option Addr) (n ca : Nat) (X : List ByteArray) (a' : Option Addr) (n' ca' : Nat) (Y : List ByteArray) (ep nx : Int) (ua : Option Addr) (un uc lo : Nat) (l : List UE) (id : ByteArray) (off : Int) (da : Option Addr) (dl dc : Nat) (zs : List Int) (w : World) (h1 : Strs w a n X) (h2 : Strs w a' n' Y) (hn : n ≤ 1048576) (hn' : n' ≤ 1048576) (hzx : ∀ x ∈ X, x.size ≤ 1048576) (hu : UpRow w lo (.slice ua un uc) l) (hun : un = l.length) (hul : un ≤ 1048576) (hz : ∀ e ∈ l, e.n ≤ 1099511627776) (hid : id.size ≤ maxLen) (hob : -9223372036854775808 ≤ off ∧ off ≤ 9223372036854775807) (hsd : Seg w da dl zs) (hdc : dl ≤ dc) (hdl : dl ≤ maxLen) :
    Calls Tryz.prog 84 #[.agg #[.slice a n ca, .slice a' n' ca', .int .i64 ep, .int .i64 nx, .slice ua un uc], .string id, .int .i64 off, .slice da dl dc] w fun e w' => WAns w.heap.size Y ep (putA X Y ep nx (l.map UE.u) id off zs) e w' ∧ Below w.heap.size w w' := by
  have hmm : maxLen < 9223372036854775808 := by decide
  obtain ⟨W2, hW2⟩ : ∃ W2, (w.alloc (.cells #[.slice a n ca, .slice a' n' ca', .int .i64 ep, .int .i64 nx, .slice ua un uc] 29)).alloc (.cells #[.slice none 0 0, .slice none 0 0, .int .i64 0, .int .i64 0, .slice none 0 0] 29) = W2 := ⟨_, rfl⟩
  have HE : Hid ((w.alloc (.cells #[.slice a n ca, .slice a' n' ca', .int .i64 ep, .int .i64 nx, .slice ua un uc] 29)).alloc (.cells #[.slice none 0 0, .slice none 0 0, .int .i64 0, .int .i64 0, .slice none 0 0] 29) = W2) := hW2
  have HB2 : Hid (Below w.heap.size w W2) := by show Below _ _ _; rw [← hW2]; exact ((Below.refl _ _).alloc (Nat.le_refl _) _).alloc (by simp) _
  have q1 : BoxN W2 w.heap.size 29 [.slice a n ca, .slice a' n' ca', .int .i64 ep, .int .i64 nx, .slice ua un uc] := by rw [← hW2]; exact (BoxN.new _ _ _).alloc _
  have q2 : BoxN W2 (w.heap.size + 1) 29 [.slice none 0 0, .slice none 0 0, .int .i64 0, .int .i64 0, .slice none 0 0] := by
    rw [← hW2]
    have := BoxN.new (w.alloc (.cells #[.slice a n ca, .slice a' n' ca', .int .i64 ep, .int .i64 nx, .slice ua un uc] 29)) 29 [.slice none 0 0, .slice none 0 0, .int .i64 0, .int .i64 0, .slice none 0 0]
    rwa [World.size_alloc] at this
  have HQ : Hid (∀ W, Below W2.heap.size W2 W → BoxN W w.heap.size 29 [.slice a n ca, .slice a' n' ca', .int .i64 ep, .int .i64 nx, .slice ua un uc] ∧ BoxN W (w.heap.size + 1) 29 [.slice none 0 0, .slice none 0 0, .int .i64 0, .int .i64 0, .slice none 0 0]) := fun W h => ⟨q1.stays h, q2.stays h⟩
  have HX : Hid (∀ W, Below W2.heap.size W2 W → Strs W a n X ∧ Strs W a' n' Y ∧ UpRow W lo (.slice ua un uc) l ∧ Seg W da dl zs) := fun W h => by
    have hw := HB2.out.trans (h.mono HB2.out.size)
    exact ⟨h1.below hw, h2.below hw, hu.stays hw, hsd.below hw⟩
  have HL : Hid (un = l.length ∧ (∀ e ∈ l, e.n ≤ 1099511627776) ∧ (∀ x ∈ X, x.size ≤ 1048576) ∧ X.length = n ∧ zs.length = dl) := ⟨hun, hz, hzx, h1.1, hsd.1⟩
  have hs2 : w.heap.size + 1 < W2.heap.size := q2.lt
  clear hW2 q1 q2 h1 h2 hu hun hz hzx hsd
  obtain ⟨c0, c1, c2, c3, c4⟩ := (show _ ∧ _ ∧ _ ∧ _ ∧ _ from ⟨(HQ.out _ (Below.refl _ _)).1.cell 0 rfl, (HQ.out _ (Below.refl _ _)).1.cell 1 rfl, (HQ.out _ (Below.refl _ _)).1.cell 2 rfl, (HQ.out _ (Below.refl _ _)).1.cell 3 rfl, (HQ.out _ (Below.refl _ _)).1.cell 4 rfl⟩)
  go_enter Tryz.func84, Tryz.ntmps84
  go_upto_region 1 with fail
  rw [HE.out]
  clear HE
  go_wp2_with fail
  refine (specScopy_any a n ca X a' n' ca' Y ep nx ua un uc lo l W2 (HX.out _ (Below.refl _ _)).1 (HX.out _ (Below.refl _ _)).2.1 hn hn' (HX.out _ (Below.refl _ _)).2.2.1 HL.out.1 hul HL.out.2.1).mono ?_
  rintro e y1 ⟨⟨v, rfl, hv⟩, hb1⟩
  obtain ⟨b, cb, b', cb', va, vc, l', rfl, hs1, hm1⟩ := hv.get
  rw [List.length_map, ← HL.out.1] at hs1 ⊢
  have HA1 : Hid (SAt (y1.alloc (.cells #[.slice b X.length cb, .slice b' Y.length cb', .int .i64 ep, .int .i64 nx, .slice va un vc] 29)) W2.heap.size y1.heap.size b X.length cb X b' Y.length cb' Y ep nx va un vc l') := SAt.new hs1 hb1.size
  have HC1 : Hid (Below W2.heap.size W2 (y1.alloc (.cells #[.slice b X.length cb, .slice b' Y.length cb', .int .i64 ep, .int .i64 nx, .slice va un vc] 29))) := hb1.alloc hb1.size _
  have HM : Hid (l'.map UE.u = l.map UE.u) := hm1
  have HZ' : Hid (∀ e ∈ l', e.n ≤ 1099511627776) := sizes_same hm1 hs1.ups (HX.out _ (Below.refl _ _)).2.2.1 HL.out.2.1
  clear hv hs1 hb1 hm1 c0 c1 c2 c3 c4
  obtain ⟨d0, d1, d2, d3, d4⟩ := (show _ ∧ _ ∧ _ ∧ _ ∧ _ from ⟨(HQ.out _ HC1.out).1.cell 0 rfl, (HQ.out _ HC1.out).1.cell 1 rfl, (HQ.out _ HC1.out).1.cell 2 rfl, (HQ.out _ HC1.out).1.cell 3 rfl, (HQ.out _ HC1.out).1.cell 4 rfl⟩)
  go_wp2_with fail
  obtain ⟨w1, hw1⟩ : ∃ w1, y1.alloc (.cells #[.slice b X.length cb, .slice b' Y.length cb', .int .i64 ep, .int .i64 nx, .slice va un vc] 29) = w1 := ⟨_, rfl⟩
  rw [hw1] at HA1 HC1 ⊢
  clear hw1 d0 d1 d2 d3 d4
  have hlo : W2.heap.size ≤ y1.heap.size := HA1.out.lob
  generalize y1.heap.size = bo at *
  refine (specSok_any a n ca X a' n' ca' Y ep nx ua un uc lo l w1 (HX.out _ HC1.out).1 (HX.out _ HC1.out).2.1 hn hn' HL.out.2.2.1 (HX.out _ HC1.out).2.2.1 HL.out.1 hul).mono ?_
  rintro e y2 ⟨⟨ok, rfl, hok⟩, hb2⟩
  have hdb : ok = decB (SOk X Y ep nx (l.map UE.u)) := decB_iff hok
  have HA2 : Hid (SAt y2 W2.heap.size bo b X.length cb X b' Y.length cb' Y ep nx va un vc l') := HA1.out.stays hb2
  have HC2 : Hid (Below W2.heap.size W2 y2) := HC1.out.trans (hb2.mono HC1.out.size)
  clear hb2 HA1 HC1
  cases ok with
  | false =>
    have hno : ¬ decB (SOk X Y ep nx (l.map UE.u)) = true := by rw [← hdb]; simp
    clear hok hdb
    have HRs : Hid (putA X Y ep nx (l.map UE.u) id off zs = ⟨X, nx, l.map UE.u, 1⟩) := if_neg (fun h => hno h.1)
    have HBw : Hid (Below w.heap.size w y2) := HB2.out.trans (HC2.out.mono HB2.out.size)
    obtain ⟨r0, r1, r2, r3, r4⟩ := (show _ ∧ _ ∧ _ ∧ _ ∧ _ from ⟨(HQ.out _ HC2.out).2.cell 0 rfl, (HQ.out _ HC2.out).2.cell 1 rfl, (HQ.out _ HC2.out).2.cell 2 rfl, (HQ.out _ HC2.out).2.cell 3 rfl, (HQ.out _ HC2.out).2.cell 4 rfl⟩)
    obtain ⟨f0, f1, f2, f3, f4⟩ := (show _ ∧ _ ∧ _ ∧ _ ∧ _ from ⟨(HQ.out _ HC2.out).2.frozen 0, (HQ.out _ HC2.out).2.frozen 1, (HQ.out _ HC2.out).2.frozen 2, (HQ.out _ HC2.out).2.frozen 3, (HQ.out _ HC2.out).2.frozen 4⟩)
    obtain ⟨o0, o1, o2, o3, o4⟩ := (show _ ∧ _ ∧ _ ∧ _ ∧ _ from ⟨HA2.out.box.cell 0 rfl, HA2.out.box.cell 1 rfl, HA2.out.box.cell 2 rfl, HA2.out.box.cell 3 rfl, HA2.out.box.cell 4 rfl⟩)
    have HSt : Hid (StoAt y2 W2.heap.size b X.length cb X b' Y.length cb' Y va un vc l') := HA2.out.sto
    clear HQ HX HC2 HA2
    go_wp2_with fail
    refine bodyPost_ret (v := .tuple #[.agg #[.slice b X.length cb, .slice b' Y.length cb', .int .i64 ep, .int .i64 nx, .slice va un vc], .int .i64 1]) (by simp [results, Tryz.f84, go_sem, r0, r1, r2, r3, r4]) rfl ?_
    refine ⟨?_, ?_⟩
    · rw [WAns, HRs.out]
      exact ⟨_, rfl, b, X.length, cb, b', Y.length, cb', va, un, vc, l', rfl, (((((HSt.out.setLow (by omega) _).setLow (by omega) _).setLow (by omega) _).setLow (by omega) _).setLow (by omega) _).low (by omega), HM.out⟩
    · exact ((((HBw.out.setCell (by dsimp only; omega) _).setCell (by dsimp only; omega) _).setCell (by dsimp only; omega) _).setCell (by dsimp only; omega) _).setCell (by dsimp only; omega) _
  | true =>
  have HSo : Hid (SOk X Y ep nx (l.map UE.u)) := hok.1 rfl
  have HDb : Hid (decB (SOk X Y ep nx (l.map UE.u)) = true) := hdb.symm
  clear hok hdb
  go_wp2_with fail
  refine (specId_any id y2 (by omega)).mono ?_
  rintro _ y2 ⟨rfl, rfl⟩
  cases hidB : idB id.data.toList with
  | false =>
    have hno : ¬ idB id.data.toList = true := by rw [hidB]; simp
    clear hidB
    have HRs : Hid (putA X Y ep nx (l.map UE.u) id off zs = ⟨X, nx, l.map UE.u, 1⟩) := if_neg (fun h => hno h.2.1)
    have HBw : Hid (Below w.heap.size w y2) := HB2.out.trans (HC2.out.mono HB2.out.size)
    obtain ⟨r0, r1, r2, r3, r4⟩ := (show _ ∧ _ ∧ _ ∧ _ ∧ _ from ⟨(HQ.out _ HC2.out).2.cell 0 rfl, (HQ.out _ HC2.out).2.cell 1 rfl, (HQ.out _ HC2.out).2.cell 2 rfl, (HQ.out _ HC2.out).2.cell 3 rfl, (HQ.out _ HC2.out).2.cell 4 rfl⟩)
    obtain ⟨f0, f1, f2, f3, f4⟩ := (show _ ∧ _ ∧ _ ∧ _ ∧ _ from ⟨(HQ.out _ HC2.out).2.frozen 0, (HQ.out _ HC2.out).2.frozen 1, (HQ.out _ HC2.out).2.frozen 2, (HQ.out _ HC2.out).2.frozen 3, (HQ.out _ HC2.out).2.frozen 4⟩)
    obtain ⟨o0, o1, o2, o3, o4⟩ := (show _ ∧ _ ∧ _ ∧ _ ∧ _ from ⟨HA2.out.box.cell 0 rfl, HA2.out.box.cell 1 rfl, HA2.out.box.cell 2 rfl, HA2.out.box.cell 3 rfl, HA2.out.box.cell 4 rfl⟩)
    have HSt : Hid (StoAt y2 W2.heap.size b X.length cb X b' Y.length cb' Y va un vc l') := HA2.out.sto
    clear HQ HX HC2 HA2
    go_wp2_with fail
    refine bodyPost_ret (v := .tuple #[.agg #[.slice b X.length cb, .slice b' Y.length cb', .int .i64 ep, .int .i64 nx, .slice va un vc], .int .i64 1]) (by simp [results, Tryz.f84, go_sem, r0, r1, r2, r3, r4]) rfl ?_
    refine ⟨?_, ?_⟩
    · rw [WAns, HRs.out]
      exact ⟨_, rfl, b, X.length, cb, b', Y.length, cb', va, un, vc, l', rfl, (((((HSt.out.setLow (by omega) _).setLow (by omega) _).setLow (by omega) _).setLow (by omega) _).setLow (by omega) _).low (by omega), HM.out⟩
    · exact ((((HBw.out.setCell (by dsimp only; omega) _).setCell (by dsimp only; omega) _).setCell (by dsimp only; omega) _).setCell (by dsimp only; omega) _).setCell (by dsimp only; omega) _
  | true =>
  have HId : Hid (idB id.data.toList = true) := hidB
  clear hidB
  go_wp2_with fail
  refine (l1In_any (dl : Int) 1 400 y2).mono ?_
  rintro _ y2 ⟨rfl, rfl⟩
  by_cases hlen : (1 : Int) ≤ (dl : Int) ∧ (dl : Int) ≤ 400
  case neg =>
    rw [decide_eq_false hlen]
    have HRs : Hid (putA X Y ep nx (l.map UE.u) id off zs = ⟨X, nx, l.map UE.u, 1⟩) := if_neg (fun h => hlen (by have := HL.out.2.2.2.2; have := h.2.2; omega))
    have HBw : Hid (Below w.heap.size w y2) := HB2.out.trans (HC2.out.mono HB2.out.size)
    obtain ⟨r0, r1, r2, r3, r4⟩ := (show _ ∧ _ ∧ _ ∧ _ ∧ _ from ⟨(HQ.out _ HC2.out).2.cell 0 rfl, (HQ.out _ HC2.out).2.cell 1 rfl, (HQ.out _ HC2.out).2.cell 2 rfl, (HQ.out _ HC2.out).2.cell 3 rfl, (HQ.out _ HC2.out).2.cell 4 rfl⟩)
    obtain ⟨f0, f1, f2, f3, f4⟩ := (show _ ∧ _ ∧ _ ∧ _ ∧ _ from ⟨(HQ.out _ HC2.out).2.frozen 0, (HQ.out _ HC2.out).2.frozen 1, (HQ.out _ HC2.out).2.frozen 2, (HQ.out _ HC2.out).2.frozen 3, (HQ.out _ HC2.out).2.frozen 4⟩)
    obtain ⟨o0, o1, o2, o3, o4⟩ := (show _ ∧ _ ∧ _ ∧ _ ∧ _ from ⟨HA2.out.box.cell 0 rfl, HA2.out.box.cell 1 rfl, HA2.out.box.cell 2 rfl, HA2.out.box.cell 3 rfl, HA2.out.box.cell 4 rfl⟩)
    have HSt : Hid (StoAt y2 W2.heap.size b X.length cb X b' Y.length cb' Y va un vc l') := HA2.out.sto
    clear HQ HX HC2 HA2
    go_wp2_with fail
    refine bodyPost_ret (v := .tuple #[.agg #[.slice b X.length cb, .slice b' Y.length cb', .int .i64 ep, .int .i64 nx, .slice va un vc], .int .i64 1]) (by simp [results, Tryz.f84, go_sem, r0, r1, r2, r3, r4]) rfl ?_
    refine ⟨?_, ?_⟩
    · rw [WAns, HRs.out]
      exact ⟨_, rfl, b, X.length, cb, b', Y.length, cb', va, un, vc, l', rfl, (((((HSt.out.setLow (by omega) _).setLow (by omega) _).setLow (by omega) _).setLow (by omega) _).setLow (by omega) _).low (by omega), HM.out⟩
    · exact ((((HBw.out.setCell (by dsimp only; omega) _).setCell (by dsimp only; omega) _).setCell (by dsimp only; omega) _).setCell (by dsimp only; omega) _).setCell (by dsimp only; omega) _
  rw [decide_eq_true hlen]
  have HLn : Hid (1 ≤ zs.length ∧ zs.length ≤ 400) := by show _ ∧ _; have := HL.out.2.2.2.2; omega
  obtain ⟨hen, hn0, hnX, hX200⟩ := HSo.out.nums
  have hfew : un ≤ 10 := by have := HSo.out.few; rw [List.length_map, ← HL.out.1] at this; exact this
  obtain ⟨d0, d1, d2, d3, d4⟩ := (show _ ∧ _ ∧ _ ∧ _ ∧ _ from ⟨(HQ.out _ HC2.out).1.cell 0 rfl, (HQ.out _ HC2.out).1.cell 1 rfl, (HQ.out _ HC2.out).1.cell 2 rfl, (HQ.out _ HC2.out).1.cell 3 rfl, (HQ.out _ HC2.out).1.cell 4 rfl⟩)
  go_wp2_with fail
  refine (specAtU_any ua un uc lo id l y2 (HX.out _ HC2.out).2.2.1 HL.out.1 (by omega)).mono ?_
  rintro _ y2 ⟨rfl, rfl⟩
  clear d0 d1 d2 d3 d4
  cases hat : atU (l.map UE.u) id with
  | none =>
    have hki : atI (l.map UE.u) id = -1 := by rw [atI, hat]
    rw [hki]
    have HRs : Hid (putA X Y ep nx (l.map UE.u) id off zs = ⟨X, nx, l.map UE.u, 2⟩) := by show _ = _; rw [putA, if_pos ⟨HDb.out, HId.out, HLn.out⟩, hat]
    have HBw : Hid (Below w.heap.size w y2) := HB2.out.trans (HC2.out.mono HB2.out.size)
    obtain ⟨r0, r1, r2, r3, r4⟩ := (show _ ∧ _ ∧ _ ∧ _ ∧ _ from ⟨(HQ.out _ HC2.out).2.cell 0 rfl, (HQ.out _ HC2.out).2.cell 1 rfl, (HQ.out _ HC2.out).2.cell 2 rfl, (HQ.out _ HC2.out).2.cell 3 rfl, (HQ.out _ HC2.out).2.cell 4 rfl⟩)
    obtain ⟨f0, f1, f2, f3, f4⟩ := (show _ ∧ _ ∧ _ ∧ _ ∧ _ from ⟨(HQ.out _ HC2.out).2.frozen 0, (HQ.out _ HC2.out).2.frozen 1, (HQ.out _ HC2.out).2.frozen 2, (HQ.out _ HC2.out).2.frozen 3, (HQ.out _ HC2.out).2.frozen 4⟩)
    obtain ⟨o0, o1, o2, o3, o4⟩ := (show _ ∧ _ ∧ _ ∧ _ ∧ _ from ⟨HA2.out.box.cell 0 rfl, HA2.out.box.cell 1 rfl, HA2.out.box.cell 2 rfl, HA2.out.box.cell 3 rfl, HA2.out.box.cell 4 rfl⟩)
    have HSt : Hid (StoAt y2 W2.heap.size b X.length cb X b' Y.length cb' Y va un vc l') := HA2.out.sto
    clear HQ HX HC2 HA2
    go_wp2_with fail
    refine bodyPost_ret (v := .tuple #[.agg #[.slice b X.length cb, .slice b' Y.length cb', .int .i64 ep, .int .i64 nx, .slice va un vc], .int .i64 2]) (by simp [results, Tryz.f84, go_sem, r0, r1, r2, r3, r4]) rfl ?_
    refine ⟨?_, ?_⟩
    · rw [WAns, HRs.out]
      exact ⟨_, rfl, b, X.length, cb, b', Y.length, cb', va, un, vc, l', rfl, (((((HSt.out.setLow (by omega) _).setLow (by omega) _).setLow (by omega) _).setLow (by omega) _).setLow (by omega) _).low (by omega), HM.out⟩
    · exact ((((HBw.out.setCell (by dsimp only; omega) _).setCell (by dsimp only; omega) _).setCell (by dsimp only; omega) _).setCell (by dsimp only; omega) _).setCell (by dsimp only; omega) _
  | some k =>
  have hki : atI (l.map UE.u) id = (k : Int) := by rw [atI, hat]
  have hkl : k < l.length := by simpa using (atU_is hat).1
  have hk0 : ¬ (k : Int) < 0 := by omega
  have hk1 : (0 : Int) ≤ (k : Int) := by omega
  have hku : (k : Int) < (un : Int) := by have := HL.out.1; omega
  rw [hki]
  have hguk : (l.map UE.u)[k]? = some (l[k]).u := by rw [List.getElem?_map, List.getElem?_eq_getElem hkl]; rfl
  obtain ⟨g, hg, g0, g1, g2, g3, _⟩ := (HX.out _ HC2.out).2.2.1.at HL.out.1 hkl
  have hul4 := (l[k]).u.zs.length
  have HUz : Hid ((l[k]).u.zs.length = (l[k]).n ∧ (l[k]).u.zs.length ≤ 4800) := ⟨((HX.out _ HC2.out).2.2.1.2.1 _ (List.getElem_mem hkl)).seg.1, (fold_small HSo.out.1 HSo.out.2.2.1).2 _ (List.mem_map_of_mem (List.getElem_mem hkl))⟩
  have HWt : Hid (0 ≤ (l[k]).u.want ∧ (l[k]).u.want ≤ 1000000000) := HSo.out.wants _ (List.mem_map_of_mem (List.getElem_mem hkl))
  have HPa : Hid (∀ v : WA, (if (l[k]).u.done = true ∨ off ≠ ((l[k]).u.zs.length : Int) ∨ (l[k]).u.want < off + (zs.length : Int) then (⟨X, nx, l.map UE.u, 4⟩ : WA) else if (X.length : Int) - nx < (pcs zs.length : Int) then ⟨X, nx, l.map UE.u, 5⟩ else wroteA X ep nx (l.map UE.u) (dataRs id off zs)) = v → putA X Y ep nx (l.map UE.u) id off zs = v) := fun v h => by
    rw [putA, if_pos ⟨HDb.out, HId.out, HLn.out⟩, hat]
    dsimp only
    rw [hguk]
    exact h
  have HAt : Hid (atU (l.map UE.u) id = some k ∧ (l.map UE.u)[k]? = some (l[k]).u) := ⟨hat, hguk⟩
  subst hg
  generalize l[k] = x at *
  clear hat hguk hul4
  obtain ⟨Z, hZ⟩ : ∃ Z, x.u.zs.length = Z := ⟨_, rfl⟩
  have hxn : x.n = Z := by have := HUz.out.1; omega
  have hZb : Z ≤ 4800 := by have := HUz.out.2; omega
  rw [hZ] at HPa
  have HZe : Hid (x.u.zs.length = Z) := hZ
  rw [hxn] at g2
  clear hxn hZ HUz
  obtain ⟨y3, hy3⟩ : ∃ y3, y2.alloc (.cells #[.string x.u.id, .int .i64 x.u.want, .slice x.a Z x.c, .bool x.u.done] 64) = y3 := ⟨_, rfl⟩
  have HE3 : Hid (y2.alloc (.cells #[.string x.u.id, .int .i64 x.u.want, .slice x.a Z x.c, .bool x.u.done] 64) = y3) := hy3
  have hb3 : Below y2.heap.size y2 y3 := by rw [← hy3]; exact (Below.refl _ _).alloc (Nat.le_refl _) _
  have hv3 : BoxN y3 y2.heap.size 64 [.string x.u.id, .int .i64 x.u.want, .slice x.a Z x.c, .bool x.u.done] := by rw [← hy3]; exact BoxN.new _ _ _
  have e4 := (HQ.out _ HC2.out).1
  have u1 := hv3.cell 1 rfl
  have u2 := hv3.cell 2 rfl
  have u3 := hv3.cell 3 rfl
  have HA3 : Hid (SAt y3 W2.heap.size bo b X.length cb X b' Y.length cb' Y ep nx va un vc l') := HA2.out.stays hb3
  have HC3 : Hid (Below W2.heap.size W2 y3) := HC2.out.trans (hb3.mono HC2.out.size)
  clear hb3 HA2 HC2
  have d4 := e4.cell 4 rfl
  clear e4 hy3 hv3
  go_upto_region 8 with fail
  rw [HE3.out]
  clear HE3 g0 g1 g2 g3 d4
  cases hdone : x.u.done with
  | true =>
    rw [hdone] at u3
    have HRs : Hid (putA X Y ep nx (l.map UE.u) id off zs = ⟨X, nx, l.map UE.u, 4⟩) := HPa.out _ (if_pos (.inl hdone))
    have HBw : Hid (Below w.heap.size w y3) := HB2.out.trans (HC3.out.mono HB2.out.size)
    obtain ⟨r0, r1, r2, r3, r4⟩ := (show _ ∧ _ ∧ _ ∧ _ ∧ _ from ⟨(HQ.out _ HC3.out).2.cell 0 rfl, (HQ.out _ HC3.out).2.cell 1 rfl, (HQ.out _ HC3.out).2.cell 2 rfl, (HQ.out _ HC3.out).2.cell 3 rfl, (HQ.out _ HC3.out).2.cell 4 rfl⟩)
    obtain ⟨f0, f1, f2, f3, f4⟩ := (show _ ∧ _ ∧ _ ∧ _ ∧ _ from ⟨(HQ.out _ HC3.out).2.frozen 0, (HQ.out _ HC3.out).2.frozen 1, (HQ.out _ HC3.out).2.frozen 2, (HQ.out _ HC3.out).2.frozen 3, (HQ.out _ HC3.out).2.frozen 4⟩)
    obtain ⟨o0, o1, o2, o3, o4⟩ := (show _ ∧ _ ∧ _ ∧ _ ∧ _ from ⟨HA3.out.box.cell 0 rfl, HA3.out.box.cell 1 rfl, HA3.out.box.cell 2 rfl, HA3.out.box.cell 3 rfl, HA3.out.box.cell 4 rfl⟩)
    have HSt : Hid (StoAt y3 W2.heap.size b X.length cb X b' Y.length cb' Y va un vc l') := HA3.out.sto
    clear HQ HX HC3 HA3
    go_wp2_with fail
    refine bodyPost_ret (v := .tuple #[.agg #[.slice b X.length cb, .slice b' Y.length cb', .int .i64 ep, .int .i64 nx, .slice va un vc], .int .i64 4]) (by simp [results, Tryz.f84, go_sem, r0, r1, r2, r3, r4]) rfl ?_
    refine ⟨?_, ?_⟩
    · rw [WAns, HRs.out]
      exact ⟨_, rfl, b, X.length, cb, b', Y.length, cb', va, un, vc, l', rfl, (((((HSt.out.setLow (by omega) _).setLow (by omega) _).setLow (by omega) _).setLow (by omega) _).setLow (by omega) _).low (by omega), HM.out⟩
    · exact ((((HBw.out.setCell (by dsimp only; omega) _).setCell (by dsimp only; omega) _).setCell (by dsimp only; omega) _).setCell (by dsimp only; omega) _).setCell (by dsimp only; omega) _
  | false =>
  rw [hdone] at u3
  by_cases hoff : off = (Z : Int)
  case neg =>
    have hoffb : (off != (Z : Int)) = true := by simpa using hoff
    have HRs : Hid (putA X Y ep nx (l.map UE.u) id off zs = ⟨X, nx, l.map UE.u, 4⟩) := HPa.out _ (if_pos (.inr (.inl hoff)))
    have HBw : Hid (Below w.heap.size w y3) := HB2.out.trans (HC3.out.mono HB2.out.size)
    obtain ⟨r0, r1, r2, r3, r4⟩ := (show _ ∧ _ ∧ _ ∧ _ ∧ _ from ⟨(HQ.out _ HC3.out).2.cell 0 rfl, (HQ.out _ HC3.out).2.cell 1 rfl, (HQ.out _ HC3.out).2.cell 2 rfl, (HQ.out _ HC3.out).2.cell 3 rfl, (HQ.out _ HC3.out).2.cell 4 rfl⟩)
    obtain ⟨f0, f1, f2, f3, f4⟩ := (show _ ∧ _ ∧ _ ∧ _ ∧ _ from ⟨(HQ.out _ HC3.out).2.frozen 0, (HQ.out _ HC3.out).2.frozen 1, (HQ.out _ HC3.out).2.frozen 2, (HQ.out _ HC3.out).2.frozen 3, (HQ.out _ HC3.out).2.frozen 4⟩)
    obtain ⟨o0, o1, o2, o3, o4⟩ := (show _ ∧ _ ∧ _ ∧ _ ∧ _ from ⟨HA3.out.box.cell 0 rfl, HA3.out.box.cell 1 rfl, HA3.out.box.cell 2 rfl, HA3.out.box.cell 3 rfl, HA3.out.box.cell 4 rfl⟩)
    have HSt : Hid (StoAt y3 W2.heap.size b X.length cb X b' Y.length cb' Y va un vc l') := HA3.out.sto
    clear HQ HX HC3 HA3
    go_wp2_with fail
    refine bodyPost_ret (v := .tuple #[.agg #[.slice b X.length cb, .slice b' Y.length cb', .int .i64 ep, .int .i64 nx, .slice va un vc], .int .i64 4]) (by simp [results, Tryz.f84, go_sem, r0, r1, r2, r3, r4]) rfl ?_
    refine ⟨?_, ?_⟩
    · rw [WAns, HRs.out]
      exact ⟨_, rfl, b, X.length, cb, b', Y.length, cb', va, un, vc, l', rfl, (((((HSt.out.setLow (by omega) _).setLow (by omega) _).setLow (by omega) _).setLow (by omega) _).setLow (by omega) _).low (by omega), HM.out⟩
    · exact ((((HBw.out.setCell (by dsimp only; omega) _).setCell (by dsimp only; omega) _).setCell (by dsimp only; omega) _).setCell (by dsimp only; omega) _).setCell (by dsimp only; omega) _
  subst hoff
  have hoffb : ((Z : Int) != (Z : Int)) = false := by simp
  by_cases hbig : x.u.want < (Z : Int) + (dl : Int)
  · have hbigd : decide (x.u.want < (Z : Int) + (dl : Int)) = true := by simpa using hbig
    have hbigz : x.u.want < (Z : Int) + (zs.length : Int) := by rw [HL.out.2.2.2.2]; exact hbig
    have HRs : Hid (putA X Y ep nx (l.map UE.u) id (Z : Int) zs = ⟨X, nx, l.map UE.u, 4⟩) := HPa.out _ (if_pos (.inr (.inr hbigz)))
    have HBw : Hid (Below w.heap.size w y3) := HB2.out.trans (HC3.out.mono HB2.out.size)
    obtain ⟨r0, r1, r2, r3, r4⟩ := (show _ ∧ _ ∧ _ ∧ _ ∧ _ from ⟨(HQ.out _ HC3.out).2.cell 0 rfl, (HQ.out _ HC3.out).2.cell 1 rfl, (HQ.out _ HC3.out).2.cell 2 rfl, (HQ.out _ HC3.out).2.cell 3 rfl, (HQ.out _ HC3.out).2.cell 4 rfl⟩)
    obtain ⟨f0, f1, f2, f3, f4⟩ := (show _ ∧ _ ∧ _ ∧ _ ∧ _ from ⟨(HQ.out _ HC3.out).2.frozen 0, (HQ.out _ HC3.out).2.frozen 1, (HQ.out _ HC3.out).2.frozen 2, (HQ.out _ HC3.out).2.frozen 3, (HQ.out _ HC3.out).2.frozen 4⟩)
    obtain ⟨o0, o1, o2, o3, o4⟩ := (show _ ∧ _ ∧ _ ∧ _ ∧ _ from ⟨HA3.out.box.cell 0 rfl, HA3.out.box.cell 1 rfl, HA3.out.box.cell 2 rfl, HA3.out.box.cell 3 rfl, HA3.out.box.cell 4 rfl⟩)
    have HSt : Hid (StoAt y3 W2.heap.size b X.length cb X b' Y.length cb' Y va un vc l') := HA3.out.sto
    clear HQ HX HC3 HA3
    go_wp2_with fail
    refine bodyPost_ret (v := .tuple #[.agg #[.slice b X.length cb, .slice b' Y.length cb', .int .i64 ep, .int .i64 nx, .slice va un vc], .int .i64 4]) (by simp [results, Tryz.f84, go_sem, r0, r1, r2, r3, r4]) rfl ?_
    refine ⟨?_, ?_⟩
    · rw [WAns, HRs.out]
      exact ⟨_, rfl, b, X.length, cb, b', Y.length, cb', va, un, vc, l', rfl, (((((HSt.out.setLow (by omega) _).setLow (by omega) _).setLow (by omega) _).setLow (by omega) _).setLow (by omega) _).low (by omega), HM.out⟩
    · exact ((((HBw.out.setCell (by dsimp only; omega) _).setCell (by dsimp only; omega) _).setCell (by dsimp only; omega) _).setCell (by dsimp only; omega) _).setCell (by dsimp only; omega) _
  have hbigd : decide (x.u.want < (Z : Int) + (dl : Int)) = false := by simpa using hbig
  have HBg : Hid ((Z : Int) + (zs.length : Int) ≤ x.u.want) := by show _ ≤ _; rw [HL.out.2.2.2.2]; omega
  have HPb : Hid (∀ v : WA, (if (X.length : Int) - nx < (pcs zs.length : Int) then ⟨X, nx, l.map UE.u, 5⟩ else wroteA X ep nx (l.map UE.u) (dataRs id (Z : Int) zs)) = v → putA X Y ep nx (l.map UE.u) id (Z : Int) zs = v) := fun v h => HPa.out v (by rw [if_neg (by rw [hdone]; have := HBg.out; simp; omega)]; exact h)
  have HDn : Hid (x.u.done = false) := hdone
  clear HPa hbig
  obtain ⟨d0, d1, d2, d3, d4⟩ := (show _ ∧ _ ∧ _ ∧ _ ∧ _ from ⟨(HQ.out _ HC3.out).1.cell 0 rfl, (HQ.out _ HC3.out).1.cell 1 rfl, (HQ.out _ HC3.out).1.cell 2 rfl, (HQ.out _ HC3.out).1.cell 3 rfl, (HQ.out _ HC3.out).1.cell 4 rfl⟩)
  go_wp2_with fail
  refine (specLeft_any a n ca a' n' ca' ep nx (some ⟨g, 0, none⟩) un uc y3 (by omega) (by omega)).mono ?_
  rintro _ y4 ⟨rfl, hb4⟩
  clear d0 d1 d2 d3 d4 u1 u2 u3
  have HA4 : Hid (SAt y4 W2.heap.size bo b X.length cb X b' Y.length cb' Y ep nx va un vc l') := HA3.out.stays hb4
  have HC4 : Hid (Below W2.heap.size W2 y4) := HC3.out.trans (hb4.mono HC3.out.size)
  clear hb4 HA3 HC3
  obtain ⟨Pn, hPn⟩ : ∃ Pn, pcs dl = Pn := ⟨_, rfl⟩
  have HPn : Hid (pcs zs.length = Pn) := by show _ = _; rw [HL.out.2.2.2.2]; exact hPn
  have hquo : ((dl : Int) + 24 - 1).tdiv 24 = (Pn : Int) := by rw [← hPn, pcs]; rw [Int.tdiv_eq_ediv_of_nonneg (by omega)]; omega
  have hquo2 : ((dl : Int) + 23).tdiv 24 = (Pn : Int) := by rw [← hPn, pcs]; rw [Int.tdiv_eq_ediv_of_nonneg (by omega)]; omega
  have hPb : Pn ≤ 17 := by rw [← hPn, pcs]; omega
  have Hw64 : Hid (wrap64 (Pn : Int) = (Pn : Int)) := by show _ = _; unfold wrap64; omega
  by_cases hroom : (n : Int) - nx < (Pn : Int)
  · have hroomw : (n : Int) - nx < wrap64 (Pn : Int) := by rw [Hw64.out]; exact hroom
    have hroomx : ¬ wrap64 (Pn : Int) ≤ (n : Int) - nx := by rw [Hw64.out]; omega
    have hrz : (X.length : Int) - nx < (pcs zs.length : Int) := by rw [HPn.out, HL.out.2.2.2.1]; exact hroom
    have HRs : Hid (putA X Y ep nx (l.map UE.u) id (Z : Int) zs = ⟨X, nx, l.map UE.u, 5⟩) := HPb.out _ (if_pos hrz)
    have HBw : Hid (Below w.heap.size w y4) := HB2.out.trans (HC4.out.mono HB2.out.size)
    obtain ⟨r0, r1, r2, r3, r4⟩ := (show _ ∧ _ ∧ _ ∧ _ ∧ _ from ⟨(HQ.out _ HC4.out).2.cell 0 rfl, (HQ.out _ HC4.out).2.cell 1 rfl, (HQ.out _ HC4.out).2.cell 2 rfl, (HQ.out _ HC4.out).2.cell 3 rfl, (HQ.out _ HC4.out).2.cell 4 rfl⟩)
    obtain ⟨f0, f1, f2, f3, f4⟩ := (show _ ∧ _ ∧ _ ∧ _ ∧ _ from ⟨(HQ.out _ HC4.out).2.frozen 0, (HQ.out _ HC4.out).2.frozen 1, (HQ.out _ HC4.out).2.frozen 2, (HQ.out _ HC4.out).2.frozen 3, (HQ.out _ HC4.out).2.frozen 4⟩)
    obtain ⟨o0, o1, o2, o3, o4⟩ := (show _ ∧ _ ∧ _ ∧ _ ∧ _ from ⟨HA4.out.box.cell 0 rfl, HA4.out.box.cell 1 rfl, HA4.out.box.cell 2 rfl, HA4.out.box.cell 3 rfl, HA4.out.box.cell 4 rfl⟩)
    have HSt : Hid (StoAt y4 W2.heap.size b X.length cb X b' Y.length cb' Y va un vc l') := HA4.out.sto
    clear HQ HX HC4 HA4
    go_wp2_with fail
    refine bodyPost_ret (v := .tuple #[.agg #[.slice b X.length cb, .slice b' Y.length cb', .int .i64 ep, .int .i64 nx, .slice va un vc], .int .i64 5]) (by simp [results, Tryz.f84, go_sem, r0, r1, r2, r3, r4]) rfl ?_
    refine ⟨?_, ?_⟩
    · rw [WAns, HRs.out]
      exact ⟨_, rfl, b, X.length, cb, b', Y.length, cb', va, un, vc, l', rfl, (((((HSt.out.setLow (by omega) _).setLow (by omega) _).setLow (by omega) _).setLow (by omega) _).setLow (by omega) _).low (by omega), HM.out⟩
    · exact ((((HBw.out.setCell (by dsimp only; omega) _).setCell (by dsimp only; omega) _).setCell (by dsimp only; omega) _).setCell (by dsimp only; omega) _).setCell (by dsimp only; omega) _
  have hroomw : ¬ (n : Int) - nx < wrap64 (Pn : Int) := by rw [Hw64.out]; exact hroom
  have hroomx : wrap64 (Pn : Int) ≤ (n : Int) - nx := by rw [Hw64.out]; omega
  go_wp2_with fail
  obtain ⟨M, hM⟩ := Int.eq_ofNat_of_zero_le hn0
  obtain ⟨E, hE⟩ := Int.eq_ofNat_of_zero_le hen.1
  subst hM hE
  have hdl1 : 1 ≤ dl ∧ dl ≤ 400 := by omega
  obtain ⟨db, do_, hda⟩ : ∃ db do_, da = some ⟨db, do_, none⟩ := by
    rcases (HX.out _ HC4.out).2.2.2.2.2 with h | ⟨db, do_, h, _⟩
    · omega
    · exact ⟨db, do_, h⟩
  subst hda
  have hPX : M + Pn ≤ X.length := by have := HL.out.2.2.2.1; omega
  have HP0 : Hid (putU (l.map UE.u) k x.u zs 0 = l.map UE.u) := putU_zero HAt.out.2
  clear hquo hquo2 hroomw hroomx
  go_loopw [13] (fun i wr => ∃ (j F : Nat) (J : Int) (v1 : Option Addr) (v2 v3 : Nat) (lj : List UE), j ≤ Pn ∧ i = .int .i64 (F : Int) ∧ F ≤ dl + 24 ∧ Hid (F = 24 * j) ∧ Hid (J = ((M + j : Nat) : Int)) ∧ Hid (BoxN wr bo 29 [.slice b X.length cb, .slice b' Y.length cb', .int .i64 (E : Int), .int .i64 J, .slice v1 v2 v3]) ∧ Hid (StoAt wr W2.heap.size b X.length cb (wroteX X (E : Int) M ((dataRs id (Z : Int) zs).take j)) b' Y.length cb' Y v1 v2 v3 lj) ∧ Hid (lj.map UE.u = putU (l.map UE.u) k x.u zs j) ∧ Hid (Below W2.heap.size W2 wr)) (fun i _ => dl + 24 - (intOf i).toNat)
  case atStart => exact ⟨0, 0, (M : Int), va, un, vc, l', Nat.zero_le _, rfl, by omega, rfl, rfl, HA4.out.box, HA4.out.sto, by show _ = _; rw [HP0.out]; exact HM.out, HC4⟩
  case round =>
    clear HA4 HC4
    obtain ⟨j, FF, J, v1, v2, v3, lj, hj, rfl, hFd, HF, HJ, HBx, HSx, HMj, HWx⟩ := hrel
    by_cases hlt : FF < dl
    case neg =>
      have hnl : ¬ (FF : Int) < (dl : Int) := by omega
      have hjP : Hid (j = Pn) := by show _ = _; have h1 := HF.out; have h2 := hPn; unfold pcs at h2; omega
      have HRs : Hid (putA X Y (E : Int) (M : Int) (l.map UE.u) id (Z : Int) zs = ⟨wroteX X (E : Int) M ((dataRs id (Z : Int) zs).take j), J, putU (l.map UE.u) k x.u zs j, 0⟩) := by
        show _ = _
        rw [HPb.out _ rfl, if_neg (by rw [HPn.out, HL.out.2.2.2.1]; omega), hjP.out, wroteA]
        have e1 : (dataRs id (Z : Int) zs).take Pn = dataRs id (Z : Int) zs := List.take_of_length_le (by rw [dataRs_len, HPn.out]; exact Nat.le_refl _)
        have e2 : (dataRs id (Z : Int) zs).foldlM oneU (l.map UE.u) = some (putU (l.map UE.u) k x.u zs Pn) := by
          have h := put_fold HAt.out.1 HAt.out.2 HDn.out (by rw [HZe.out]) HBg.out Pn (by rw [HPn.out]; exact Nat.le_refl _)
          rw [← dataRs_take _ _ _ (by rw [HPn.out]; exact Nat.le_refl _), e1] at h
          exact h
        rw [e1, e2, dataRs_len, HPn.out, HJ.out, hjP.out]
        rfl
      have HBw : Hid (Below w.heap.size w wr) := HB2.out.trans (HWx.out.mono HB2.out.size)
      obtain ⟨r0, r1, r2, r3, r4⟩ := (show _ ∧ _ ∧ _ ∧ _ ∧ _ from ⟨(HQ.out _ HWx.out).2.cell 0 rfl, (HQ.out _ HWx.out).2.cell 1 rfl, (HQ.out _ HWx.out).2.cell 2 rfl, (HQ.out _ HWx.out).2.cell 3 rfl, (HQ.out _ HWx.out).2.cell 4 rfl⟩)
      obtain ⟨f0, f1, f2, f3, f4⟩ := (show _ ∧ _ ∧ _ ∧ _ ∧ _ from ⟨(HQ.out _ HWx.out).2.frozen 0, (HQ.out _ HWx.out).2.frozen 1, (HQ.out _ HWx.out).2.frozen 2, (HQ.out _ HWx.out).2.frozen 3, (HQ.out _ HWx.out).2.frozen 4⟩)
      obtain ⟨o0, o1, o2, o3, o4⟩ := (show _ ∧ _ ∧ _ ∧ _ ∧ _ from ⟨HBx.out.cell 0 rfl, HBx.out.cell 1 rfl, HBx.out.cell 2 rfl, HBx.out.cell 3 rfl, HBx.out.cell 4 rfl⟩)
      clear HQ HX HBx HWx
      go_wp2_with fail
      refine bodyPost_ret (v := .tuple #[.agg #[.slice b X.length cb, .slice b' Y.length cb', .int .i64 (E : Int), .int .i64 J, .slice v1 v2 v3], .int .i64 0]) (by simp [results, Tryz.f84, go_sem, r0, r1, r2, r3, r4]) rfl ?_
      refine ⟨?_, ?_⟩
      · rw [WAns, HRs.out]
        exact ⟨_, rfl, b, X.length, cb, b', Y.length, cb', v1, v2, v3, lj, rfl, (((((HSx.out.setLow (by omega) _).setLow (by omega) _).setLow (by omega) _).setLow (by omega) _).setLow (by omega) _).low (by omega), HMj.out⟩
      · exact ((((HBw.out.setCell (by dsimp only; omega) _).setCell (by dsimp only; omega) _).setCell (by dsimp only; omega) _).setCell (by dsimp only; omega) _).setCell (by dsimp only; omega) _
    have hFi : (FF : Int) < (dl : Int) := by omega
    have hF0 : (0 : Int) ≤ (FF : Int) := by omega
    have hcF : ¬ dc = FF := by omega
    obtain ⟨j0, ji, jz0, jz1, jz2⟩ := info_parts Tryz.info5
    by_cases hto : (dl : Int) < (FF : Int) + 24
    · have hdci : (dl : Int) ≤ (dc : Int) := by omega
      have hmF : FF + (dl - FF) ≤ dl := by omega
      have HPz : Hid ((zs.drop FF).take (dl - FF) = (zs.drop (24 * j)).take 24) := by
        show _ = _
        rw [HF.out]
        rw [List.take_of_length_le (by rw [List.length_drop, HL.out.2.2.2.2]; omega), List.take_of_length_le (by rw [List.length_drop, HL.out.2.2.2.2]; have := HF.out; omega)]
      have hb5 := (Below.refl wr.heap.size wr).alloc (Nat.le_refl _) (.cells #[] 5)
      have HR5 : Hid ((wr.alloc (.cells #[] 5)).ownsRow wr.heap.size 5 1 (.slice (some ⟨wr.heap.size, 0, none⟩) 0 0) 0 []) := World.ownsRow_lit wr #[] 0 (Nat.le_refl _) (Nat.zero_le _) rfl
      have hsp := seg_part (HX.out _ HWx.out).2.2.2 FF (dl - FF) hmF
      have HSr : Hid (Src Tryz.prog 1 22 (.slice (some ⟨db, do_ + FF, none⟩) (dl - FF) (dc - FF)) (dl - FF) (((zs.drop FF).take (dl - FF)).map (Value.int .u8)) (wr.alloc (.cells #[] 5))) := (hsp.below hb5).src
      have HZr : Hid (∀ y ∈ (zs.drop FF).take (dl - FF), 0 ≤ y ∧ y ≤ 255) := hsp.2.1
      have HL5 : Hid (wr.heap.size ≤ (wr.alloc (.cells #[] 5)).heap.size) := hb5.size
      clear hsp
      go_upto_region 18 with fail
      go_wp2_with (at_builtin; refine wpList_append_loc rfl _ _ 22 22 rfl wr.heap.size 5 j0 (.int .u8 0) 1 1 Tryz.underlying22 ji jz0 jz1 jz2 rfl (by decide) wr.heap.size 0 0 [] rfl HR5.out (.slice (some ⟨db, do_ + FF, none⟩) (dl - FF) (dc - FF)) (dl - FF) (((zs.drop FF).take (dl - FF)).map (Value.int .u8)) rfl HSr.out (by unfold maxLen; omega) (by omega) HL5.out ?_; intro gA C x6 hown6 hg6 _; refine Hid.out ?_)
      refine hidden ?_
      obtain ⟨AA, hAe⟩ : ∃ AA : Option Addr, some ⟨gA, 0, none⟩ = AA := ⟨_, rfl⟩
      rw [hAe] at hown6 ⊢
      have hown6' : x6.ownsRow wr.heap.size 5 1 (.slice AA (dl - FF) C) (dl - FF) (((zs.drop (24 * j)).take 24).map (Value.int .u8)) := by
        have h := hown6
        rw [Nat.zero_add, HPz.out] at h
        simpa using h
      have HO6 : Hid (Owns x6 wr.heap.size AA (dl - FF) C ((zs.drop (24 * j)).take 24)) := ⟨hown6', by rw [← HPz.out]; exact HZr.out⟩
      have hb6 : Below wr.heap.size wr x6 := hb5.grown hg6 (by simp) (fun q hq => by injection hq with hq; omega)
      have HB6 : Hid (BoxN x6 bo 29 [.slice b X.length cb, .slice b' Y.length cb', .int .i64 (E : Int), .int .i64 J, .slice v1 v2 v3]) := HBx.out.stays hb6
      have HS6 : Hid (StoAt x6 W2.heap.size b X.length cb (wroteX X (E : Int) M ((dataRs id (Z : Int) zs).take j)) b' Y.length cb' Y v1 v2 v3 lj) := HSx.out.stays hb6
      have HW6 : Hid (Below W2.heap.size W2 x6) := HWx.out.trans (hb6.mono HWx.out.size)
      clear hown6 hown6' hg6 hb5 hb6 hAe HR5 HSr HZr HL5 HBx HSx HWx
      have hjP : j < Pn := by have h1 := HF.out; have h2 := hPn; unfold pcs at h2; omega
      have HXl : Hid ((wroteX X (E : Int) M ((dataRs id (Z : Int) zs).take j)).length = X.length) := wroteX_len _ _ _ _
      have HNx : Hid (wroteX X (E : Int) M ((dataRs id (Z : Int) zs).take (j + 1)) = (wroteX X (E : Int) M ((dataRs id (Z : Int) zs).take j)).set (M + j) (txU (sumB (recB E (M + j) 2 id (Z + FF) ((zs.drop (24 * j)).take 24))))) := by
        show _ = _
        rw [wroteX_next (dataRs_at id (Z : Int) zs (by rw [HPn.out]; exact hjP)), HF.out]
        rfl
      have HOne : Hid (oneU (lj.map UE.u) ⟨(E : Int), ((M + j : Nat) : Int), ((2 : Nat) : Int), id, ((Z + FF : Nat) : Int), (zs.drop (24 * j)).take 24⟩ = some (putU (l.map UE.u) k x.u zs (j + 1))) := by
        show _ = _
        rw [HMj.out, ← putU_step HAt.out.1 HAt.out.2 HDn.out (by rw [HZe.out]) HBg.out j (by rw [HPn.out]; exact hjP), HF.out]
        rfl
      have hzj : ∀ e ∈ lj, e.n ≤ 1099511627776 := fun e he => by
        have h1 := (HS6.out.ups.2.1 e he).seg.1
        have h2 : e.u ∈ putU (l.map UE.u) k x.u zs j := by rw [← HMj.out]; exact List.mem_map_of_mem he
        rcases List.mem_or_eq_of_mem_set h2 with h3 | h3
        · have := (fold_small HSo.out.1 HSo.out.2.2.1).2 _ h3
          omega
        · rw [h3] at h1
          have h4 := HZe.out
          have h5 := HL.out.2.2.2.2
          simp only [List.length_append, List.length_take] at h1
          omega
      have hv2 : v2 ≤ 10 := by
        have h1 := HS6.out.len
        have h2 := congrArg List.length HMj.out
        rw [List.length_map, putU, List.length_set] at h2
        have := HSo.out.few
        omega
      have hi8 : id.size ≤ 255 := by
        have h := HId.out
        simp only [idB, Bool.and_eq_true, decide_eq_true_eq, Array.length_toList] at h
        have h8 : id.data.size = id.size := rfl
        omega
      have HWr : Hid (Calls Tryz.prog 106 #[.pointer (some ⟨bo, 0, none⟩), .agg #[.int .i64 0, .int .i64 0, .int .i64 2, .string id, .int .i64 ((Z : Int) + (FF : Int)), .slice AA (dl - FF) C]] x6 fun e w' => e = .returned (.tuple #[]) ∧ (∃ ua' un' uc' l2, BoxN w' bo 29 [.slice b X.length cb, .slice b' Y.length cb', .int .i64 (E : Int), .int .i64 (((M + j : Nat) : Int) + 1), .slice ua' un' uc'] ∧ StoAt w' W2.heap.size b X.length cb (wroteX X (E : Int) M ((dataRs id (Z : Int) zs).take (j + 1))) b' Y.length cb' Y ua' un' uc' l2 ∧ l2.map UE.u = putU (l.map UE.u) k x.u zs (j + 1)) ∧ Below W2.heap.size x6 w') := by
        have e1 : (Z : Int) + (FF : Int) = ((Z + FF : Nat) : Int) := by omega
        have hbx : BoxN x6 bo 29 [.slice b (wroteX X (E : Int) M ((dataRs id (Z : Int) zs).take j)).length cb, .slice b' Y.length cb', .int .i64 (E : Int), .int .i64 ((M + j : Nat) : Int), .slice v1 v2 v3] := by rw [HXl.out, ← HJ.out]; exact HB6.out
        have hst : StoAt x6 W2.heap.size b (wroteX X (E : Int) M ((dataRs id (Z : Int) zs).take j)).length cb (wroteX X (E : Int) M ((dataRs id (Z : Int) zs).take j)) b' Y.length cb' Y v1 v2 v3 lj := by rw [HXl.out]; exact HS6.out
        have h := specWrite_any W2.heap.size bo b cb (wroteX X (E : Int) M ((dataRs id (Z : Int) zs).take j)) b' Y.length cb' Y E (M + j) v1 v2 v3 lj 0 0 2 id (Z + FF) AA (dl - FF) C ((zs.drop (24 * j)).take 24) (putU (l.map UE.u) k x.u zs (j + 1)) x6 hbx hst hlo wr.heap.size HO6.out (by rw [HXl.out]; omega) (by rw [HXl.out]; omega) (by omega) hzj hi8 (by omega) (by omega) (by omega) (by omega) HOne.out
        rw [HXl.out, ← HNx.out] at h
        rw [e1]
        exact h
      go_wp2_with fail
      refine HWr.out.mono ?_
      rintro _ x7 ⟨rfl, ⟨ua', un', uc', l2, hq7, hs7, hm7⟩, hb7⟩
      have HB7 : Hid (BoxN x7 bo 29 [.slice b X.length cb, .slice b' Y.length cb', .int .i64 (E : Int), .int .i64 (((M + j : Nat) : Int) + 1), .slice ua' un' uc']) := hq7
      have HS7 : Hid (StoAt x7 W2.heap.size b X.length cb (wroteX X (E : Int) M ((dataRs id (Z : Int) zs).take (j + 1))) b' Y.length cb' Y ua' un' uc' l2) := hs7
      have HM7 : Hid (l2.map UE.u = putU (l.map UE.u) k x.u zs (j + 1)) := hm7
      have HW7 : Hid (Below W2.heap.size W2 x7) := HW6.out.trans hb7
      have HJ7 : Hid (((M + j : Nat) : Int) + 1 = ((M + (j + 1) : Nat) : Int)) := by show _ = _; omega
      have HF7 : Hid (FF + 24 = 24 * (j + 1)) := by show _ = _; have := HF.out; omega
      clear hq7 hs7 hm7 hb7 HWr HB6 HS6 HW6 HO6 HOne
      go_wp2_with fail
      go_roundw
      case rel => exact ⟨j + 1, FF + 24, ((M + j : Nat) : Int) + 1, ua', un', uc', l2, by omega, by go_num, by omega, HF7, HJ7, HB7, HS7, HM7, HW7⟩
      case measure => simp [intOf]; omega
    · obtain ⟨EE, hEe⟩ : ∃ EE : Nat, EE = FF + 24 := ⟨_, rfl⟩
      have HE24 : Hid (EE - FF = 24) := by show _ = _; omega
      have HEi : Hid ((FF : Int) + 24 = (EE : Int)) := by show _ = _; omega
      have hdci : (EE : Int) ≤ (dc : Int) := by omega
      have hFE : (FF : Int) ≤ (EE : Int) := by omega
      have hE1 : EE < FF + 25 := by omega
      have hE2 : EE ≤ dl := by omega
      have hmF : FF + (EE - FF) ≤ dl := by omega
      clear hEe
      have HPz : Hid ((zs.drop FF).take (EE - FF) = (zs.drop (24 * j)).take 24) := by
        show _ = _
        rw [HE24.out, HF.out]
      have hb5 := (Below.refl wr.heap.size wr).alloc (Nat.le_refl _) (.cells #[] 5)
      have HR5 : Hid ((wr.alloc (.cells #[] 5)).ownsRow wr.heap.size 5 1 (.slice (some ⟨wr.heap.size, 0, none⟩) 0 0) 0 []) := World.ownsRow_lit wr #[] 0 (Nat.le_refl _) (Nat.zero_le _) rfl
      have hsp := seg_part (HX.out _ HWx.out).2.2.2 FF (EE - FF) hmF
      have HSr : Hid (Src Tryz.prog 1 22 (.slice (some ⟨db, do_ + FF, none⟩) (EE - FF) (dc - FF)) (EE - FF) (((zs.drop FF).take (EE - FF)).map (Value.int .u8)) (wr.alloc (.cells #[] 5))) := (hsp.below hb5).src
      have HZr : Hid (∀ y ∈ (zs.drop FF).take (EE - FF), 0 ≤ y ∧ y ≤ 255) := hsp.2.1
      have HL5 : Hid (wr.heap.size ≤ (wr.alloc (.cells #[] 5)).heap.size) := hb5.size
      clear hsp
      go_upto_region 18 with fail
      rw [HEi.out]
      go_wp2_with (at_builtin; refine wpList_append_loc rfl _ _ 22 22 rfl wr.heap.size 5 j0 (.int .u8 0) 1 1 Tryz.underlying22 ji jz0 jz1 jz2 rfl (by decide) wr.heap.size 0 0 [] rfl HR5.out (.slice (some ⟨db, do_ + FF, none⟩) (EE - FF) (dc - FF)) (EE - FF) (((zs.drop FF).take (EE - FF)).map (Value.int .u8)) rfl HSr.out (by unfold maxLen; omega) (by omega) HL5.out ?_; intro gA C x6 hown6 hg6 _; refine Hid.out ?_)
      refine hidden ?_
      obtain ⟨AA, hAe⟩ : ∃ AA : Option Addr, some ⟨gA, 0, none⟩ = AA := ⟨_, rfl⟩
      rw [hAe] at hown6 ⊢
      have hown6' : x6.ownsRow wr.heap.size 5 1 (.slice AA (EE - FF) C) (EE - FF) (((zs.drop (24 * j)).take 24).map (Value.int .u8)) := by
        have h := hown6
        rw [Nat.zero_add, HPz.out] at h
        simpa using h
      have HO6 : Hid (Owns x6 wr.heap.size AA (EE - FF) C ((zs.drop (24 * j)).take 24)) := ⟨hown6', by rw [← HPz.out]; exact HZr.out⟩
      have hb6 : Below wr.heap.size wr x6 := hb5.grown hg6 (by simp) (fun q hq => by injection hq with hq; omega)
      have HB6 : Hid (BoxN x6 bo 29 [.slice b X.length cb, .slice b' Y.length cb', .int .i64 (E : Int), .int .i64 J, .slice v1 v2 v3]) := HBx.out.stays hb6
      have HS6 : Hid (StoAt x6 W2.heap.size b X.length cb (wroteX X (E : Int) M ((dataRs id (Z : Int) zs).take j)) b' Y.length cb' Y v1 v2 v3 lj) := HSx.out.stays hb6
      have HW6 : Hid (Below W2.heap.size W2 x6) := HWx.out.trans (hb6.mono HWx.out.size)
      clear hown6 hown6' hg6 hb5 hb6 hAe HR5 HSr HZr HL5 HBx HSx HWx
      have hjP : j < Pn := by have h1 := HF.out; have h2 := hPn; unfold pcs at h2; omega
      have HXl : Hid ((wroteX X (E : Int) M ((dataRs id (Z : Int) zs).take j)).length = X.length) := wroteX_len _ _ _ _
      have HNx : Hid (wroteX X (E : Int) M ((dataRs id (Z : Int) zs).take (j + 1)) = (wroteX X (E : Int) M ((dataRs id (Z : Int) zs).take j)).set (M + j) (txU (sumB (recB E (M + j) 2 id (Z + FF) ((zs.drop (24 * j)).take 24))))) := by
        show _ = _
        rw [wroteX_next (dataRs_at id (Z : Int) zs (by rw [HPn.out]; exact hjP)), HF.out]
        rfl
      have HOne : Hid (oneU (lj.map UE.u) ⟨(E : Int), ((M + j : Nat) : Int), ((2 : Nat) : Int), id, ((Z + FF : Nat) : Int), (zs.drop (24 * j)).take 24⟩ = some (putU (l.map UE.u) k x.u zs (j + 1))) := by
        show _ = _
        rw [HMj.out, ← putU_step HAt.out.1 HAt.out.2 HDn.out (by rw [HZe.out]) HBg.out j (by rw [HPn.out]; exact hjP), HF.out]
        rfl
      have hzj : ∀ e ∈ lj, e.n ≤ 1099511627776 := fun e he => by
        have h1 := (HS6.out.ups.2.1 e he).seg.1
        have h2 : e.u ∈ putU (l.map UE.u) k x.u zs j := by rw [← HMj.out]; exact List.mem_map_of_mem he
        rcases List.mem_or_eq_of_mem_set h2 with h3 | h3
        · have := (fold_small HSo.out.1 HSo.out.2.2.1).2 _ h3
          omega
        · rw [h3] at h1
          have h4 := HZe.out
          have h5 := HL.out.2.2.2.2
          simp only [List.length_append, List.length_take] at h1
          omega
      have hv2 : v2 ≤ 10 := by
        have h1 := HS6.out.len
        have h2 := congrArg List.length HMj.out
        rw [List.length_map, putU, List.length_set] at h2
        have := HSo.out.few
        omega
      have hi8 : id.size ≤ 255 := by
        have h := HId.out
        simp only [idB, Bool.and_eq_true, decide_eq_true_eq, Array.length_toList] at h
        have h8 : id.data.size = id.size := rfl
        omega
      have HWr : Hid (Calls Tryz.prog 106 #[.pointer (some ⟨bo, 0, none⟩), .agg #[.int .i64 0, .int .i64 0, .int .i64 2, .string id, .int .i64 ((Z : Int) + (FF : Int)), .slice AA (EE - FF) C]] x6 fun e w' => e = .returned (.tuple #[]) ∧ (∃ ua' un' uc' l2, BoxN w' bo 29 [.slice b X.length cb, .slice b' Y.length cb', .int .i64 (E : Int), .int .i64 (((M + j : Nat) : Int) + 1), .slice ua' un' uc'] ∧ StoAt w' W2.heap.size b X.length cb (wroteX X (E : Int) M ((dataRs id (Z : Int) zs).take (j + 1))) b' Y.length cb' Y ua' un' uc' l2 ∧ l2.map UE.u = putU (l.map UE.u) k x.u zs (j + 1)) ∧ Below W2.heap.size x6 w') := by
        have e1 : (Z : Int) + (FF : Int) = ((Z + FF : Nat) : Int) := by omega
        have hbx : BoxN x6 bo 29 [.slice b (wroteX X (E : Int) M ((dataRs id (Z : Int) zs).take j)).length cb, .slice b' Y.length cb', .int .i64 (E : Int), .int .i64 ((M + j : Nat) : Int), .slice v1 v2 v3] := by rw [HXl.out, ← HJ.out]; exact HB6.out
        have hst : StoAt x6 W2.heap.size b (wroteX X (E : Int) M ((dataRs id (Z : Int) zs).take j)).length cb (wroteX X (E : Int) M ((dataRs id (Z : Int) zs).take j)) b' Y.length cb' Y v1 v2 v3 lj := by rw [HXl.out]; exact HS6.out
        have h := specWrite_any W2.heap.size bo b cb (wroteX X (E : Int) M ((dataRs id (Z : Int) zs).take j)) b' Y.length cb' Y E (M + j) v1 v2 v3 lj 0 0 2 id (Z + FF) AA (EE - FF) C ((zs.drop (24 * j)).take 24) (putU (l.map UE.u) k x.u zs (j + 1)) x6 hbx hst hlo wr.heap.size HO6.out (by rw [HXl.out]; omega) (by rw [HXl.out]; omega) (by omega) hzj hi8 (by omega) (by omega) (by omega) (by omega) HOne.out
        rw [HXl.out, ← HNx.out] at h
        rw [e1]
        exact h
      go_wp2_with fail
      refine HWr.out.mono ?_
      rintro _ x7 ⟨rfl, ⟨ua', un', uc', l2, hq7, hs7, hm7⟩, hb7⟩
      have HB7 : Hid (BoxN x7 bo 29 [.slice b X.length cb, .slice b' Y.length cb', .int .i64 (E : Int), .int .i64 (((M + j : Nat) : Int) + 1), .slice ua' un' uc']) := hq7
      have HS7 : Hid (StoAt x7 W2.heap.size b X.length cb (wroteX X (E : Int) M ((dataRs id (Z : Int) zs).take (j + 1))) b' Y.length cb' Y ua' un' uc' l2) := hs7
      have HM7 : Hid (l2.map UE.u = putU (l.map UE.u) k x.u zs (j + 1)) := hm7
      have HW7 : Hid (Below W2.heap.size W2 x7) := HW6.out.trans hb7
      have HJ7 : Hid (((M + j : Nat) : Int) + 1 = ((M + (j + 1) : Nat) : Int)) := by show _ = _; omega
      have HF7 : Hid (FF + 24 = 24 * (j + 1)) := by show _ = _; have := HF.out; omega
      clear hq7 hs7 hm7 hb7 HWr HB6 HS6 HW6 HO6 HOne
      go_wp2_with fail
      go_roundw
      case rel => exact ⟨j + 1, FF + 24, ((M + j : Nat) : Int) + 1, ua', un', uc', l2, by omega, by go_num, by omega, HF7, HJ7, HB7, HS7, HM7, HW7⟩
      case measure => simp [intOf]; omega

end Go.Proofs.YtlkgopoicpnacaaGreatDoor
