/- What the program's copy of a store answers. What the program's copy of a server answers. -/
import Derived.Test.YtpjldfpipchmjavGreatDoorM06
import Derived.Test.YtpjldfpipchmjavGreatDoorM26
import Derived.Test.YtpjldfpipchmjavGreatDoorM26
import Derived.Deep.CutBlock
import Derived.Shelf.Abstract
import Derived.Deep.RegionHeld3
import Derived.Test.YtpjldfpipchmjavGreatDoorM03
import Derived.Test.YtpjldfpipchmjavGreatDoorM11
import Derived.Test.YtpjldfpipchmjavGreatDoorM26
import Derived.Test.YtpjldfpipchmjavGreatDoorM08
namespace Go.Proofs.YtpjldfpipchmjavGreatDoor
open Go.RowKit
set_option linter.unusedVariables false

theorem shape_ofU {w : World} {base n : Nat} {v : Value} {xs : List Value} (h : w.ownsRow base 118 4 v n xs) : ∃ a cap, v = .slice a n cap := by
  rcases h.2 with ⟨rfl, rfl⟩ | ⟨g, cap, cur, rfl, _⟩
  · exact ⟨_, _, rfl⟩
  · exact ⟨_, _, rfl⟩

set_option maxRecDepth 10000 in
set_option maxHeartbeats 3200000 in
theorem implScopy_any (a : Option Addr) (n ca : Nat) (X : List ByteArray) (a' : Option Addr) (n' ca' : Nat) (Y : List ByteArray) (ep nx : Int) (ua : Option Addr) (un uc lo : Nat) (l : List UE) (w : World) (h1 : Strs w a n X) (h2 : Strs w a' n' Y) (hn : n ≤ 1048576) (hn' : n' ≤ 1048576) (hu : UpRow w lo (.slice ua un uc) l) (hun : un = l.length) (hul : un ≤ 1048576) (hz : ∀ e ∈ l, e.n ≤ 1099511627776) :
    Calls Tryz.prog 91 #[.agg #[.slice a n ca, .slice a' n' ca', .int .i64 ep, .int .i64 nx, .slice ua un uc]] w fun e w' => (∃ v, e = .returned v ∧ AnsS w.heap.size X Y ep nx (l.map UE.u) v w') ∧ Below w.heap.size w w' := by
  have HLn : Hid (X.length = n ∧ Y.length = n' ∧ un = l.length ∧ ∀ e ∈ l, e.n ≤ 1099511627776) := ⟨h1.1, h2.1, hun, hz⟩
  obtain ⟨W2, hW2⟩ : ∃ W2, (w.alloc (.cells #[.slice a n ca, .slice a' n' ca', .int .i64 ep, .int .i64 nx, .slice ua un uc] 36)).alloc (.cells #[.slice none 0 0, .slice none 0 0, .int .i64 0, .int .i64 0, .slice none 0 0] 36) = W2 := ⟨_, rfl⟩
  have HE : Hid ((w.alloc (.cells #[.slice a n ca, .slice a' n' ca', .int .i64 ep, .int .i64 nx, .slice ua un uc] 36)).alloc (.cells #[.slice none 0 0, .slice none 0 0, .int .i64 0, .int .i64 0, .slice none 0 0] 36) = W2) := hW2
  have HB2 : Hid (Below w.heap.size w W2) := by show Below _ _ _; rw [← hW2]; exact ((Below.refl _ _).alloc (Nat.le_refl _) _).alloc (by simp) _
  have HZ2 : Hid (W2.heap.size = w.heap.size + 2) := by show _ = _; rw [← hW2]; simp
  have q1 : BoxN W2 w.heap.size 36 [.slice a n ca, .slice a' n' ca', .int .i64 ep, .int .i64 nx, .slice ua un uc] := by rw [← hW2]; exact (BoxN.new _ _ _).alloc _
  have q2 : BoxN W2 (w.heap.size + 1) 36 [.slice none 0 0, .slice none 0 0, .int .i64 0, .int .i64 0, .slice none 0 0] := by
    rw [← hW2]
    have := BoxN.new (w.alloc (.cells #[.slice a n ca, .slice a' n' ca', .int .i64 ep, .int .i64 nx, .slice ua un uc] 36)) 36 [.slice none 0 0, .slice none 0 0, .int .i64 0, .int .i64 0, .slice none 0 0]
    rwa [World.size_alloc] at this
  have HQ : Hid (∀ W, Below W2.heap.size W2 W → BoxN W w.heap.size 36 [.slice a n ca, .slice a' n' ca', .int .i64 ep, .int .i64 nx, .slice ua un uc] ∧ BoxN W (w.heap.size + 1) 36 [.slice none 0 0, .slice none 0 0, .int .i64 0, .int .i64 0, .slice none 0 0]) := fun W h => ⟨q1.stays h, q2.stays h⟩
  have HX : Hid (∀ W, Below W2.heap.size W2 W → Strs W a n X ∧ Strs W a' n' Y ∧ UpRow W lo (.slice ua un uc) l) := fun W h => by
    have hw := HB2.out.trans (h.mono HB2.out.size)
    exact ⟨h1.below hw, h2.below hw, hu.stays hw⟩
  have HBd : Hid (Below W2.heap.size W2 W2.drew) := (Below.refl _ _).drew
  clear hW2 q1 q2 h1 h2 hu hun hz
  have hne : w.heap.size ≠ w.heap.size + 1 := by omega
  have hs2 : w.heap.size + 1 < W2.heap.size := by have := HZ2.out; omega
  go_enter Tryz.func91, Tryz.ntmps91
  go_upto_region 1 with fail
  rw [HE.out]
  clear HE
  have bq := (HQ.out _ (Below.refl _ _)).1
  have c0 := bq.cell 0 rfl
  have c1 := bq.cell 1 rfl
  have c2 := bq.cell 2 rfl
  have c3 := bq.cell 3 rfl
  have c4 := bq.cell 4 rfl
  clear bq
  have HBa : Hid (Below W2.heap.size W2 (W2.alloc (.cells #[.slice none 0 0, .slice none 0 0, .int .i64 0, .int .i64 0, .slice none 0 0] 36)).drew) := ((Below.refl _ _).alloc (Nat.le_refl _) _).drew
  have hneB : w.heap.size ≠ W2.heap.size := by omega
  have d0 := (HQ.out _ HBa.out).1.cell 0 rfl
  have d1 := (HQ.out _ HBa.out).1.cell 1 rfl
  have d2 := (HQ.out _ HBa.out).1.cell 2 rfl
  have d3 := (HQ.out _ HBa.out).1.cell 3 rfl
  have d4 := (HQ.out _ HBa.out).1.cell 4 rfl
  go_cut [3] from 4 (fun v3 W => ∃ (b : Nat) (A1 A2 : Option Addr) (C1 C2 : Nat), v3 = .pointer (some ⟨b, 0, none⟩) ∧ W2.heap.size ≤ b ∧ Hid (BoxN W b 36 [.slice A1 X.length C1, .slice A2 Y.length C2, .int .i64 ep, .int .i64 nx, .slice none 0 0]) ∧ Hid (StoAt W W2.heap.size A1 X.length C1 X A2 Y.length C2 Y none 0 0 []) ∧ Hid (Below W2.heap.size W2 W))
  case first =>
    go_region_held3 (fun W => W.cell? ⟨w.heap.size, 0, none⟩ = some (.slice a n ca) ∧ W.cell? ⟨w.heap.size, 1, none⟩ = some (.slice a' n' ca') ∧ W.cell? ⟨w.heap.size, 2, none⟩ = some (.int .i64 ep) ∧ W.cell? ⟨w.heap.size, 3, none⟩ = some (.int .i64 nx) ∧ W.cell? ⟨w.heap.size, 4, none⟩ = some (.slice ua un uc)) (first | with_reducible exact ⟨e0, e1, e2, e3, e4⟩ | with_reducible exact ⟨(HGA _).cell 0 rfl, (HGA _).cell 1 rfl, (HGA _).cell 2 rfl, (HGA _).cell 3 rfl, (HGA _).cell 4 rfl⟩ | with_reducible exact ⟨d0, d1, d2, d3, d4⟩ | with_reducible exact ⟨cellD_kept hneB (cellD_kept hneB (cellD_kept hneB (cellD_kept hneB (cellD_kept hneB e0)))), cellD_kept hneB (cellD_kept hneB (cellD_kept hneB (cellD_kept hneB (cellD_kept hneB e1)))), cellD_kept hneB (cellD_kept hneB (cellD_kept hneB (cellD_kept hneB (cellD_kept hneB e2)))), cellD_kept hneB (cellD_kept hneB (cellD_kept hneB (cellD_kept hneB (cellD_kept hneB e3)))), cellD_kept hneB (cellD_kept hneB (cellD_kept hneB (cellD_kept hneB (cellD_kept hneB e4))))⟩ | exact ⟨d0, d1, d2, d3, d4⟩ | exact ⟨c0, c1, c2, c3, c4⟩) (first
      | (go_at_call 109; (with_reducible show Calls _ _ _ W2.drew _); refine (implDcopy_any a n ca X a' n' ca' Y W2.drew (HX.out _ HBd.out).1 (HX.out _ HBd.out).2.1 (by omega) (by omega)).mono ?_; rintro e y1 ⟨⟨v1, rfl, A1, C1, A2, C2, rfl, own1, own1', hap⟩, hb1⟩
         have hB1 : Below W2.heap.size W2 y1 := HBd.out.trans (hb1.mono (Nat.le_refl _))
         have HGA : ∀ o, BoxN (y1.alloc o) w.heap.size 36 [.slice a n ca, .slice a' n' ca', .int .i64 ep, .int .i64 nx, .slice ua un uc] := fun o => (HQ.out _ (hB1.alloc hB1.size o)).1
         have e0 := (HQ.out _ hB1).1.cell 0 rfl
         have e1 := (HQ.out _ hB1).1.cell 1 rfl
         have e2 := (HQ.out _ hB1).1.cell 2 rfl
         have e3 := (HQ.out _ hB1).1.cell 3 rfl
         have e4 := (HQ.out _ hB1).1.cell 4 rfl)
      | (go_at_call 109; (with_reducible show Calls _ _ _ (W2.alloc _).drew _); refine (implDcopy_any a n ca X a' n' ca' Y (W2.alloc (.cells #[.slice none 0 0, .slice none 0 0, .int .i64 0, .int .i64 0, .slice none 0 0] 36)).drew (HX.out _ HBa.out).1 (HX.out _ HBa.out).2.1 (by omega) (by omega)).mono ?_; rintro e y1 ⟨⟨v1, rfl, A1, C1, A2, C2, rfl, own1, own1', hap⟩, hb1⟩
         have hB1 : Below W2.heap.size W2 y1 := HBa.out.trans (hb1.mono HBa.out.size)
         have qz : BoxN y1 W2.heap.size 36 [.slice none 0 0, .slice none 0 0, .int .i64 0, .int .i64 0, .slice none 0 0] := BoxN.stays (W := (W2.alloc (.cells #[.slice none 0 0, .slice none 0 0, .int .i64 0, .int .i64 0, .slice none 0 0] 36)).drew) (BoxN.new W2 _ _) hb1
         have e0 := (HQ.out _ hB1).1.cell 0 rfl
         have e1 := (HQ.out _ hB1).1.cell 1 rfl
         have e2 := (HQ.out _ hB1).1.cell 2 rfl
         have e3 := (HQ.out _ hB1).1.cell 3 rfl
         have e4 := (HQ.out _ hB1).1.cell 4 rfl
         have r0 := qz.cell 0 rfl
         have r1 := qz.cell 1 rfl
         have r2 := qz.cell 2 rfl
         have r3 := qz.cell 3 rfl
         have r4 := qz.cell 4 rfl
         have f0 := qz.frozen 0
         have f1 := qz.frozen 1
         have f2 := qz.frozen 2
         have f3 := qz.frozen 3
         have f4 := qz.frozen 4)
      | fail)

    · have hl0 := hB1.size
      have hs : StoAt y1 W2.heap.size A1 X.length C1 X A2 Y.length C2 Y none 0 0 [] := ⟨own1.low (Nat.le_refl _), own1'.low (Nat.le_refl _), hap, ⟨⟨rfl, .inl ⟨rfl, rfl⟩⟩, by simp, List.Pairwise.nil⟩, rfl⟩
      have HF1 : Hid (BoxN (y1.alloc (.cells #[.slice A1 X.length C1, .slice A2 Y.length C2, .int .i64 ep, .int .i64 nx, .slice none 0 0] 36)) y1.heap.size 36 [.slice A1 X.length C1, .slice A2 Y.length C2, .int .i64 ep, .int .i64 nx, .slice none 0 0]) := BoxN.new _ _ _
      have HF2 : Hid (StoAt (y1.alloc (.cells #[.slice A1 X.length C1, .slice A2 Y.length C2, .int .i64 ep, .int .i64 nx, .slice none 0 0] 36)) W2.heap.size A1 X.length C1 X A2 Y.length C2 Y none 0 0 []) := hs.stays ((Below.refl _ _).alloc (Nat.le_refl _) _)
      have HF3 : Hid (Below W2.heap.size W2 (y1.alloc (.cells #[.slice A1 X.length C1, .slice A2 Y.length C2, .int .i64 ep, .int .i64 nx, .slice none 0 0] 36))) := hB1.alloc hB1.size _
      clear own1 own1' hap hb1 hB1 e0 e1 e2 e3 e4 hs
      go_wp2_with fail
      go_meet
      exact ⟨y1.heap.size, A1, A2, C1, C2, rfl, hl0, HF1, HF2, HF3⟩
    · have hl0 := hB1.size
      have HS0 : Hid (StoAt y1 W2.heap.size A1 X.length C1 X A2 Y.length C2 Y none 0 0 []) := ⟨own1.low HBa.out.size, own1'.low HBa.out.size, hap, ⟨⟨rfl, .inl ⟨rfl, rfl⟩⟩, by simp, List.Pairwise.nil⟩, rfl⟩
      have HF : Hid (BoxN (((((y1.setCell ⟨W2.heap.size, 0, none⟩ (.slice A1 X.length C1)).setCell ⟨W2.heap.size, 1, none⟩ (.slice A2 Y.length C2)).setCell ⟨W2.heap.size, 2, none⟩ (.int .i64 ep)).setCell ⟨W2.heap.size, 3, none⟩ (.int .i64 nx)).setCell ⟨W2.heap.size, 4, none⟩ (.slice none 0 0)) W2.heap.size 36 [.slice A1 X.length C1, .slice A2 Y.length C2, .int .i64 ep, .int .i64 nx, .slice none 0 0] ∧ StoAt (((((y1.setCell ⟨W2.heap.size, 0, none⟩ (.slice A1 X.length C1)).setCell ⟨W2.heap.size, 1, none⟩ (.slice A2 Y.length C2)).setCell ⟨W2.heap.size, 2, none⟩ (.int .i64 ep)).setCell ⟨W2.heap.size, 3, none⟩ (.int .i64 nx)).setCell ⟨W2.heap.size, 4, none⟩ (.slice none 0 0)) W2.heap.size A1 X.length C1 X A2 Y.length C2 Y none 0 0 [] ∧ Below W2.heap.size W2 (((((y1.setCell ⟨W2.heap.size, 0, none⟩ (.slice A1 X.length C1)).setCell ⟨W2.heap.size, 1, none⟩ (.slice A2 Y.length C2)).setCell ⟨W2.heap.size, 2, none⟩ (.int .i64 ep)).setCell ⟨W2.heap.size, 3, none⟩ (.int .i64 nx)).setCell ⟨W2.heap.size, 4, none⟩ (.slice none 0 0))) := by
        refine ⟨((((qz.set 0 _).set 1 _).set 2 _).set 3 _).set 4 _, ?_, ((((hB1.setCell (Nat.le_refl _) _).setCell (Nat.le_refl _) _).setCell (Nat.le_refl _) _).setCell (Nat.le_refl _) _).setCell (Nat.le_refl _) _⟩
        have s1 := HS0.out.setBox (i := 0) qz (.slice A1 X.length C1)
        have s2 := s1.setBox (i := 1) (qz.set 0 _) (.slice A2 Y.length C2)
        have s3 := s2.setBox (i := 2) ((qz.set 0 _).set 1 _) (.int .i64 ep)
        have s4 := s3.setBox (i := 3) (((qz.set 0 _).set 1 _).set 2 _) (.int .i64 nx)
        exact s4.setBox (i := 4) ((((qz.set 0 _).set 1 _).set 2 _).set 3 _) (.slice none 0 0)
      clear own1 own1' hap hb1 hB1 e0 e1 e2 e3 e4 HS0 qz r0 r1 r2 r3 r4 f0 f1 f2 f3 f4
      go_wp2_with fail
      go_meet
      exact ⟨W2.heap.size, A1, A2, C1, C2, rfl, Nat.le_refl _, HF.out.1, HF.out.2.1, HF.out.2.2⟩
  case rest =>
  obtain ⟨x3, hx3⟩ : ∃ x3, wc = x3 := ⟨_, rfl⟩
  rw [hx3] at hcut ⊢
  obtain ⟨b, A1, A2, C1, C2, rfl, hlb, HBx, HSt, HBl⟩ := hcut
  clear hx3 HBa HBd c0 c1 c2 c3 c4 d0 d1 d2 d3 d4
  have c4 := (HQ.out _ HBl.out).1.cell 4 rfl
  go_wp2_with fail
  go_loopw [17] (fun i wr => ∃ (k : Nat) (va : Option Addr) (vc : Nat) (l' : List UE), k ≤ un ∧ l'.length = k ∧ i = .int .i64 (k : Int) ∧ Hid (BoxN wr b 36 [.slice A1 X.length C1, .slice A2 Y.length C2, .int .i64 ep, .int .i64 nx, .slice va k vc]) ∧ Hid (StoAt wr W2.heap.size A1 X.length C1 X A2 Y.length C2 Y va k vc l') ∧ Hid (l'.map UE.u = (l.map UE.u).take k) ∧ Hid (Below W2.heap.size W2 wr)) (fun i _ => un - (intOf i).toNat)
  case atStart => exact ⟨0, none, 0, [], Nat.zero_le _, rfl, rfl, HBx, HSt, rfl, HBl⟩
  case round =>
    clear HBx HSt HBl c4
    obtain ⟨k, va, vc, l', hk, hlk, rfl, HQx, HSx, HMx, HWx⟩ := hrel
    by_cases hlt : k < un
    case neg =>
      obtain rfl : k = un := by omega
      have HF : Hid (l'.map UE.u = l.map UE.u) := by show _ = _; rw [HMx.out, List.take_of_length_le (by rw [List.length_map, ← HLn.out.2.2.1]; exact Nat.le_refl _)]
      have HBw : Hid (Below w.heap.size w wr) := HB2.out.trans (HWx.out.mono HB2.out.size)
      have hqr := (HQ.out _ HWx.out).2
      obtain ⟨o0, o1, o2, o3, o4⟩ := (show _ ∧ _ ∧ _ ∧ _ ∧ _ from ⟨HQx.out.cell 0 rfl, HQx.out.cell 1 rfl, HQx.out.cell 2 rfl, HQx.out.cell 3 rfl, HQx.out.cell 4 rfl⟩)
      obtain ⟨r0, r1, r2, r3, r4⟩ := (show _ ∧ _ ∧ _ ∧ _ ∧ _ from ⟨hqr.cell 0 rfl, hqr.cell 1 rfl, hqr.cell 2 rfl, hqr.cell 3 rfl, hqr.cell 4 rfl⟩)
      obtain ⟨f0, f1, f2, f3, f4⟩ := (show _ ∧ _ ∧ _ ∧ _ ∧ _ from ⟨hqr.frozen 0, hqr.frozen 1, hqr.frozen 2, hqr.frozen 3, hqr.frozen 4⟩)
      have hS := HSx.out
      have HS' : Hid (StoAt wr W2.heap.size A1 X.length C1 X A2 Y.length C2 Y va k vc l') := hS
      clear hqr HMx HWx hS HQ HX HQx
      go_wp2_with fail
      refine bodyPost_ret (v := .agg #[.slice A1 X.length C1, .slice A2 Y.length C2, .int .i64 ep, .int .i64 nx, .slice va k vc]) (by simp [results, Tryz.f91, go_sem, r0, r1, r2, r3, r4]) rfl ?_
      refine ⟨⟨_, rfl, A1, X.length, C1, A2, Y.length, C2, va, k, vc, l', rfl, ?_, HF.out⟩, ?_⟩
      · exact (((((HS'.out.setLow (by omega) _).setLow (by omega) _).setLow (by omega) _).setLow (by omega) _).setLow (by omega) _).low (by omega)
      · exact ((((HBw.out.setCell (by dsimp only; omega) _).setCell (by dsimp only; omega) _).setCell (by dsimp only; omega) _).setCell (by dsimp only; omega) _).setCell (by dsimp only; omega) _
    have hkl : k < l.length := by rw [← HLn.out.2.2.1]; exact hlt
    have hki : (k : Int) < (un : Int) := by omega
    have hk0 : (0 : Int) ≤ (k : Int) := by omega
    obtain ⟨g, rfl, g0, g1, g2, g3, _⟩ := (HX.out _ HWx.out).2.2.at HLn.out.2.2.1 hkl
    have HSg : Hid (Seg wr (l[k]).a (l[k]).n (l[k]).u.zs) := ((HX.out _ HWx.out).2.2.2.1 (l[k]) (List.getElem_mem hkl)).seg
    have hen : (l[k]).n ≤ 1099511627776 := HLn.out.2.2.2 _ (List.getElem_mem hkl)
    have HM2 : Hid (l'.map UE.u ++ [(l[k]).u] = (l.map UE.u).take (k + 1)) := by show _ = _; rw [List.take_add_one, List.getElem?_map, List.getElem?_eq_getElem hkl, HMx.out]; rfl
    clear HMx
    generalize l[k] = e at *
    obtain ⟨x1, hx1⟩ : ∃ x1, wr.alloc (.cells #[.string e.u.id, .int .i64 e.u.want, .slice e.a e.n e.c, .bool e.u.done] 118) = x1 := ⟨_, rfl⟩
    have HE1 : Hid (wr.alloc (.cells #[.string e.u.id, .int .i64 e.u.want, .slice e.a e.n e.c, .bool e.u.done] 118) = x1) := hx1
    have hb1 : Below wr.heap.size wr x1 := by rw [← hx1]; exact (Below.refl _ _).alloc (Nat.le_refl _) _
    have hU1 : BoxN x1 wr.heap.size 118 [.string e.u.id, .int .i64 e.u.want, .slice e.a e.n e.c, .bool e.u.done] := by rw [← hx1]; exact BoxN.new _ _ _
    have HB1 : Hid (Below W2.heap.size W2 x1) := HWx.out.trans (hb1.mono HWx.out.size)
    have HQ1 : Hid (BoxN x1 b 36 [.slice A1 X.length C1, .slice A2 Y.length C2, .int .i64 ep, .int .i64 nx, .slice va k vc]) := HQx.out.stays hb1
    have HS1 : Hid (StoAt x1 W2.heap.size A1 X.length C1 X A2 Y.length C2 Y va k vc l') := HSx.out.stays hb1
    have HG1 : Hid (Seg x1 e.a e.n e.u.zs) := HSg.out.below hb1
    have hx1s : W2.heap.size ≤ x1.heap.size := HB1.out.size
    have u0 := hU1.cell 0 rfl
    have u1 := hU1.cell 1 rfl
    have u2 := hU1.cell 2 rfl
    have u3 := hU1.cell 3 rfl
    have q4 := HQ1.out.cell 4 rfl
    have HCU : Hid (Calls Tryz.prog 133 #[.agg #[.string e.u.id, .int .i64 e.u.want, .slice e.a e.n e.c, .bool e.u.done]] x1.drew fun ee y1 => ∃ A C, ee = .returned (.agg #[.string e.u.id, .int .i64 e.u.want, .slice A e.n C, .bool e.u.done]) ∧ Owns y1 x1.heap.size A e.n C e.u.zs ∧ Below x1.heap.size x1 y1) := by
      refine (implCopyUp_any e x1.drew (HG1.out.below (Below.refl _ _).drew) hen).mono ?_
      rintro _ y1 ⟨⟨A, C, rfl, ho1⟩, hb1⟩
      exact ⟨A, C, rfl, ho1, (Below.refl x1.heap.size x1).drew.trans (hb1.mono (Nat.le_refl _))⟩
    clear hx1 hb1 hU1 HSg HWx HQx HSx
    go_upto_region 5 with fail
    rw [HE1.out]
    clear HE1 g0 g1 g2 g3
    obtain ⟨i0, hi, hz0, hz1, hz2⟩ := info_parts info_up
    have HEnt : Hid (∀ args w, (callFunc 133 args).run Tryz.prog w = .ok (.enter 133 args) w) := enters_of Tryz.func133 (by kernel_rfl) rfl
    go_region_law (first
      | (refine step_append_own rfl (.tmp 22) (.tmp 25) 34 rfl W2.heap.size 118 i0 (.agg #[.string ⟨#[]⟩, .int .i64 0, .slice none 0 0, .bool false]) 4 56 Tryz.underlying34 hi hz0 hz1 hz2 rfl (by decide) (.slice va k vc) k (ueCells l') rfl (HR1.alloc _) ⟨y1.heap.size, 0, none⟩ 1 1 (UE.cells ⟨e.u, A, e.n, C⟩) rfl rfl (four_new y1 e.u A e.n C) (four_one e.u A e.n C) (by unfold maxLen; omega) (by omega) (by simp; omega) ?_; intro v2 y2 hown2 hg2
         obtain ⟨v2a, v2c, hv2⟩ := shape_ofU hown2
         subst hv2
         have hqy2 := HG2 _ _ hown2 hg2
         have q4y := hqy2.1.cell 4 rfl
         have f4y := hqy2.1.frozen 4)
      | (refine step_call_any rfl 133 (.tmp 23) 118 rfl HEnt.out _ rfl _ HCU.out ?_; rintro _ y1 ⟨A, C, rfl, ho1, hb1'⟩; refine ⟨_, rfl, ?_⟩
         have hS1 := HS1.out.stays hb1'
         have hQ1 := HQ1.out.stays hb1'
         have hy1 : x1.heap.size ≤ y1.heap.size := hb1'.size
         have q4b := hQ1.cell 4 rfl
         have q4c := (hQ1.alloc (.cells #[.string e.u.id, .int .i64 e.u.want, .slice A e.n C, .bool e.u.done] 118)).cell 4 rfl
         have HR1 : y1.ownsRow W2.heap.size 118 4 (.slice va k vc) k (ueCells l') := (by have := hS1.ups.1; rw [hlk] at this; exact this)
         have HG2 : ∀ (v2 : Value) (y2 : World), y2.ownsRow W2.heap.size 118 4 v2 (k + 1) (ueCells l' ++ UE.cells ⟨e.u, A, e.n, C⟩) → (y1.alloc (.cells #[.string e.u.id, .int .i64 e.u.want, .slice A e.n C, .bool e.u.done] 118)).grownBy y2 (Value.slice va k vc).ownBlock → BoxN y2 b 36 [.slice A1 X.length C1, .slice A2 Y.length C2, .int .i64 ep, .int .i64 nx, .slice va k vc] ∧ UpRow y2 W2.heap.size v2 (l' ++ [⟨e.u, A, e.n, C⟩]) ∧ Below W2.heap.size W2 y2 := (fun v2 y2 hown2 hg2 => ⟨(hQ1.alloc _).grown hg2 (fun q => (hQ1.noRow hS1.ups.1 (by decide)) q), hS1.ups.snoc ho1 hx1s (fun x hx q hq => (HS1.out.ups.lts.2 x hx q hq).2) (by rw [hlk]; exact hown2) hg2, ((HB1.out.trans (hb1'.mono hx1s)).alloc (by omega) _).grown hg2 (by simp; omega) (fun q hq => (hS1.ups.lts.1 q hq).1)⟩))
      | fail)
    all_goals
      have HQ2 : Hid (BoxN y2 b 36 [.slice A1 X.length C1, .slice A2 Y.length C2, .int .i64 ep, .int .i64 nx, .slice va k vc]) := hqy2.1
      have HS2 : Hid (StoAt y2 W2.heap.size A1 X.length C1 X A2 Y.length C2 Y v2a (k + 1) v2c (l' ++ [⟨e.u, A, e.n, C⟩])) := (hS1.stays ((Below.refl _ _).alloc (Nat.le_refl _) (.cells #[.string e.u.id, .int .i64 e.u.want, .slice A e.n C, .bool e.u.done] 118))).upsTo hg2 hqy2.2.1 (by simp [hlk])
      have HQ3 : Hid (BoxN (y2.setCell ⟨b, 4, none⟩ (.slice v2a (k + 1) v2c)) b 36 [.slice A1 X.length C1, .slice A2 Y.length C2, .int .i64 ep, .int .i64 nx, .slice v2a (k + 1) v2c]) := HQ2.out.set 4 _
      have HS3 : Hid (StoAt (y2.setCell ⟨b, 4, none⟩ (.slice v2a (k + 1) v2c)) W2.heap.size A1 X.length C1 X A2 Y.length C2 Y v2a (k + 1) v2c (l' ++ [⟨e.u, A, e.n, C⟩])) := HS2.out.setBox HQ2.out _
      have HB3 : Hid (Below W2.heap.size W2 (y2.setCell ⟨b, 4, none⟩ (.slice v2a (k + 1) v2c))) := hqy2.2.2.setCell hlb _
      have HM3 : Hid ((l' ++ [(⟨e.u, A, e.n, C⟩ : UE)]).map UE.u = (l.map UE.u).take (k + 1)) := by show _ = _; rw [List.map_append]; exact HM2.out
      clear HG2 HR1 hS1 hQ1 hown2 hg2 hqy2 q4b q4c hb1' ho1 HQ2 HS2 HM2 u0 u1 u2 u3 q4
      go_wp2_with fail
      go_roundw
      case rel => exact ⟨k + 1, v2a, v2c, l' ++ [⟨e.u, A, e.n, C⟩], by omega, by simp [hlk], by go_num, HQ3, HS3, HM3, HB3⟩
      case measure => simp [intOf]; omega

end Go.Proofs.YtpjldfpipchmjavGreatDoor

namespace Go.Proofs.YtpjldfpipchmjavGreatDoor
open Go.RowKit
set_option linter.unusedVariables false

set_option maxRecDepth 10000 in
set_option maxHeartbeats 3200000 in
theorem implVcopy_any (a : Option Addr) (n ca : Nat) (X : List ByteArray) (a' : Option Addr) (n' ca' : Nat) (Y : List ByteArray) (ep nx : Int) (ua : Option Addr) (un uc lo : Nat) (l : List UE) (ha : Option Addr) (hn hc : Nat) (hs : List Hd) (w : World) (h1 : Strs w a n X) (h2 : Strs w a' n' Y) (hln : n ≤ 1048576) (hln' : n' ≤ 1048576) (hu : UpRow w lo (.slice ua un uc) l) (hun : un = l.length) (hul : un ≤ 1048576) (hz : ∀ e ∈ l, e.n ≤ 1099511627776) (hh : Helds w ha hn hs) (hhl : hn ≤ 1048576) :
    Calls Tryz.prog 45 #[.agg #[.slice a n ca, .slice a' n' ca', .int .i64 ep, .int .i64 nx, .slice ua un uc, .slice ha hn hc]] w fun e w' => (∃ v, e = .returned v ∧ AnsV true w.heap.size X Y ep nx (l.map UE.u) hs v w') ∧ Below w.heap.size w w' := by
  obtain ⟨W2, hW2⟩ : ∃ W2, (w.alloc (.cells #[.slice a n ca, .slice a' n' ca', .int .i64 ep, .int .i64 nx, .slice ua un uc, .slice ha hn hc] 39)).alloc (.cells #[.slice none 0 0, .slice none 0 0, .int .i64 0, .int .i64 0, .slice none 0 0, .slice none 0 0] 39) = W2 := ⟨_, rfl⟩
  have HE : Hid ((w.alloc (.cells #[.slice a n ca, .slice a' n' ca', .int .i64 ep, .int .i64 nx, .slice ua un uc, .slice ha hn hc] 39)).alloc (.cells #[.slice none 0 0, .slice none 0 0, .int .i64 0, .int .i64 0, .slice none 0 0, .slice none 0 0] 39) = W2) := hW2
  have HB2 : Hid (Below w.heap.size w W2) := by show Below _ _ _; rw [← hW2]; exact ((Below.refl _ _).alloc (Nat.le_refl _) _).alloc (by simp) _
  have HZ2 : Hid (W2.heap.size = w.heap.size + 2) := by show _ = _; rw [← hW2]; simp
  have q1 : BoxN W2 w.heap.size 39 [.slice a n ca, .slice a' n' ca', .int .i64 ep, .int .i64 nx, .slice ua un uc, .slice ha hn hc] := by rw [← hW2]; exact (BoxN.new _ _ _).alloc _
  have q2 : BoxN W2 (w.heap.size + 1) 39 [.slice none 0 0, .slice none 0 0, .int .i64 0, .int .i64 0, .slice none 0 0, .slice none 0 0] := by
    rw [← hW2]
    have := BoxN.new (w.alloc (.cells #[.slice a n ca, .slice a' n' ca', .int .i64 ep, .int .i64 nx, .slice ua un uc, .slice ha hn hc] 39)) 39 [.slice none 0 0, .slice none 0 0, .int .i64 0, .int .i64 0, .slice none 0 0, .slice none 0 0]
    rwa [World.size_alloc] at this
  have HQ : Hid (∀ W, Below W2.heap.size W2 W → BoxN W w.heap.size 39 [.slice a n ca, .slice a' n' ca', .int .i64 ep, .int .i64 nx, .slice ua un uc, .slice ha hn hc] ∧ BoxN W (w.heap.size + 1) 39 [.slice none 0 0, .slice none 0 0, .int .i64 0, .int .i64 0, .slice none 0 0, .slice none 0 0]) := fun W h => ⟨q1.stays h, q2.stays h⟩
  have HX : Hid (∀ W, Below W2.heap.size W2 W → Strs W a n X ∧ Strs W a' n' Y ∧ UpRow W lo (.slice ua un uc) l ∧ Helds W ha hn hs) := fun W h => by
    have hw := HB2.out.trans (h.mono HB2.out.size)
    exact ⟨h1.below hw, h2.below hw, hu.stays hw, hh.below hw⟩
  have HCp : Hid (∀ W, Below W2.heap.size W2 W → Calls Tryz.prog 91 #[.agg #[.slice a n ca, .slice a' n' ca', .int .i64 ep, .int .i64 nx, .slice ua un uc]] W fun e w' => (∃ b cb b' cb' va vc l', e = .returned (.agg #[.slice b n cb, .slice b' n' cb', .int .i64 ep, .int .i64 nx, .slice va un vc]) ∧ StoAt w' W.heap.size b n cb X b' n' cb' Y va un vc l' ∧ l'.map UE.u = l.map UE.u) ∧ Below W.heap.size W w') := fun W hb => by
    refine (implScopy_any a n ca X a' n' ca' Y ep nx ua un uc lo l W (HX.out _ hb).1 (HX.out _ hb).2.1 hln hln' (HX.out _ hb).2.2.1 hun hul hz).mono ?_
    rintro e y1 ⟨⟨v1, rfl, hv1⟩, hb1⟩
    obtain ⟨b, cb, b', cb', va, vc, l', rfl, hs1, hm1⟩ := hv1.get
    rw [List.length_map, ← hun, h1.1, h2.1] at hs1 ⊢
    exact ⟨⟨b, cb, b', cb', va, vc, l', rfl, hs1, hm1⟩, hb1⟩
  have hne : w.heap.size ≠ w.heap.size + 1 := by omega
  have HL : Hid (un = l.length ∧ (∀ e ∈ l, e.n ≤ 1099511627776) ∧ hs.length = hn ∧ ∀ s ∈ hs, hd64 s) := ⟨hun, hz, hh.1, hh.2.1⟩
  have HBd : Hid (Below W2.heap.size W2 W2.drew) := (Below.refl _ _).drew
  have hs2 : w.heap.size + 1 < W2.heap.size := q2.lt
  clear hW2 q1 q2 h1 h2 hu hun hz hh
  go_enter Tryz.func45, Tryz.ntmps45
  go_upto_region 1 with fail
  rw [HE.out]
  clear HE
  obtain ⟨c0, c1, c2, c3, c4, c5⟩ := (show _ ∧ _ ∧ _ ∧ _ ∧ _ ∧ _ from ⟨BoxN.cell (HQ.out _ (Below.refl _ _)).1 0 rfl, BoxN.cell (HQ.out _ (Below.refl _ _)).1 1 rfl, BoxN.cell (HQ.out _ (Below.refl _ _)).1 2 rfl, BoxN.cell (HQ.out _ (Below.refl _ _)).1 3 rfl, BoxN.cell (HQ.out _ (Below.refl _ _)).1 4 rfl, BoxN.cell (HQ.out _ (Below.refl _ _)).1 5 rfl⟩)
  obtain ⟨d0, d1, d2, d3, d4, d5⟩ := (show _ ∧ _ ∧ _ ∧ _ ∧ _ ∧ _ from ⟨BoxN.cell (HQ.out _ HBd.out).1 0 rfl, BoxN.cell (HQ.out _ HBd.out).1 1 rfl, BoxN.cell (HQ.out _ HBd.out).1 2 rfl, BoxN.cell (HQ.out _ HBd.out).1 3 rfl, BoxN.cell (HQ.out _ HBd.out).1 4 rfl, BoxN.cell (HQ.out _ HBd.out).1 5 rfl⟩)
  go_region_held3 (fun W => W.cell? ⟨w.heap.size, 0, none⟩ = some (.slice a n ca) ∧ W.cell? ⟨w.heap.size, 1, none⟩ = some (.slice a' n' ca') ∧ W.cell? ⟨w.heap.size, 2, none⟩ = some (.int .i64 ep) ∧ W.cell? ⟨w.heap.size, 3, none⟩ = some (.int .i64 nx) ∧ W.cell? ⟨w.heap.size, 4, none⟩ = some (.slice ua un uc) ∧ W.cell? ⟨w.heap.size, 5, none⟩ = some (.slice ha hn hc)) (first | with_reducible exact ⟨m0, m1, m2, m3, m4, m5⟩ | with_reducible exact ⟨cellD_kept hne (cellD_kept hne (cellD_kept hne (cellD_kept hne (cellD_kept hne (cellD_kept hne (m0)))))), cellD_kept hne (cellD_kept hne (cellD_kept hne (cellD_kept hne (cellD_kept hne (cellD_kept hne (m1)))))), cellD_kept hne (cellD_kept hne (cellD_kept hne (cellD_kept hne (cellD_kept hne (cellD_kept hne (m2)))))), cellD_kept hne (cellD_kept hne (cellD_kept hne (cellD_kept hne (cellD_kept hne (cellD_kept hne (m3)))))), cellD_kept hne (cellD_kept hne (cellD_kept hne (cellD_kept hne (cellD_kept hne (cellD_kept hne (m4)))))), cellD_kept hne (cellD_kept hne (cellD_kept hne (cellD_kept hne (cellD_kept hne (cellD_kept hne (m5))))))⟩ | with_reducible exact ⟨e0, e1, e2, e3, e4, e5⟩ | with_reducible exact ⟨d0, d1, d2, d3, d4, d5⟩ | exact ⟨c0, c1, c2, c3, c4, c5⟩ | fail) (first
    | (go_at_call 92; refine (cloneH_any ha hn hc hs _ (HX.out _ hB1).2.2.2 hhl).mono ?_; rintro e y2 ⟨A, C, rfl, own2, hb2⟩
       have hB2 : Below W2.heap.size W2 y2 := hB1.trans (hb2.mono hB1.size)
       have m0 := BoxN.cell (HQ.out _ hB2).1 0 rfl
       have m1 := BoxN.cell (HQ.out _ hB2).1 1 rfl
       have m2 := BoxN.cell (HQ.out _ hB2).1 2 rfl
       have m3 := BoxN.cell (HQ.out _ hB2).1 3 rfl
       have m4 := BoxN.cell (HQ.out _ hB2).1 4 rfl
       have m5 := BoxN.cell (HQ.out _ hB2).1 5 rfl
       have r0 := BoxN.cell (HQ.out _ hB2).2 0 rfl
       have r1 := BoxN.cell (HQ.out _ hB2).2 1 rfl
       have r2 := BoxN.cell (HQ.out _ hB2).2 2 rfl
       have r3 := BoxN.cell (HQ.out _ hB2).2 3 rfl
       have r4 := BoxN.cell (HQ.out _ hB2).2 4 rfl
       have r5 := BoxN.cell (HQ.out _ hB2).2 5 rfl
       have f0 := BoxN.frozen (HQ.out _ hB2).2 0
       have f1 := BoxN.frozen (HQ.out _ hB2).2 1
       have f2 := BoxN.frozen (HQ.out _ hB2).2 2
       have f3 := BoxN.frozen (HQ.out _ hB2).2 3
       have f4 := BoxN.frozen (HQ.out _ hB2).2 4
       have f5 := BoxN.frozen (HQ.out _ hB2).2 5)
    | (go_at_call 91; refine (HCp.out _ HBd.out).mono ?_; rintro e y1 ⟨⟨b, cb, b', cb', va, vc, l', rfl, hs1, hm1⟩, hb1⟩
       have hB1 : Below W2.heap.size W2 y1 := HBd.out.trans (hb1.mono (Nat.le_refl _))
       have e0 := BoxN.cell (HQ.out _ hB1).1 0 rfl
       have e1 := BoxN.cell (HQ.out _ hB1).1 1 rfl
       have e2 := BoxN.cell (HQ.out _ hB1).1 2 rfl
       have e3 := BoxN.cell (HQ.out _ hB1).1 3 rfl
       have e4 := BoxN.cell (HQ.out _ hB1).1 4 rfl
       have e5 := BoxN.cell (HQ.out _ hB1).1 5 rfl)
    | fail)
  all_goals
    have HF : Hid (StoAt y2 (w.heap.size + 2) b n cb X b' n' cb' Y va un vc l' ∧ l'.map UE.u = l.map UE.u ∧ OwnH y2 y1.heap.size A hn C hs ∧ Below w.heap.size w y2 ∧ StoIn b b' va l' y1.heap.size ∧ w.heap.size + 2 ≤ y1.heap.size) := by
      have hz := HZ2.out
      have hy := hB1.size
      exact ⟨(hs1.stays hb2).low (by show _ ≤ W2.heap.size; omega), hm1, own2, HB2.out.trans (hB2.mono HB2.out.size), hs1.inn, by omega⟩
    have hy1 : w.heap.size + 2 ≤ y1.heap.size := HF.out.2.2.2.2.2
    clear hs1 hm1 own2 hb1 hb2 hB1 hB2 e0 e1 e2 e3 e4 e5 m0 m1 m2 m3 m4 m5 c0 c1 c2 c3 c4 c5 d0 d1 d2 d3 d4 d5 HQ HX HBd HB2
    go_wp2_with fail
    refine bodyPost_ret (v := .agg #[.slice b n cb, .slice b' n' cb', .int .i64 ep, .int .i64 nx, .slice va un vc, .slice A hn C]) (by simp [results, Tryz.f45, go_sem, r0, r1, r2, r3, r4, r5]) rfl ?_
    refine ⟨⟨_, rfl, b, n, cb, b', n', cb', va, un, vc, l', A, hn, C, rfl, ⟨?_, ?_⟩, HF.out.2.1, ?_⟩, ?_⟩
    · exact ((((((HF.out.1.setLow (by omega) _).setLow (by omega) _).setLow (by omega) _).setLow (by omega) _).setLow (by omega) _).setLow (by omega) _).low (by omega)
    · exact ((((((HF.out.2.2.1.setLow (by omega) _).setLow (by omega) _).setLow (by omega) _).setLow (by omega) _).setLow (by omega) _).setLow (by omega) _).low (by omega)
    · exact fun _ => ⟨y1.heap.size, by omega, HF.out.2.2.2.2.1, fun q e => (HF.out.2.2.1.lt q e).1⟩
    · exact (((((HF.out.2.2.2.1.setCell (by dsimp only; omega) _).setCell (by dsimp only; omega) _).setCell (by dsimp only; omega) _).setCell (by dsimp only; omega) _).setCell (by dsimp only; omega) _).setCell (by dsimp only; omega) _

end Go.Proofs.YtpjldfpipchmjavGreatDoor
