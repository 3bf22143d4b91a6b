/- What the specification's NewInit answers. -/
import Derived.Test.YtkicfiacnpifkadFlowSt
import Derived.Test.YtkicfiacnpifkadFlowInitN
import Derived.Test.YtkicfiacnpifkadL1In
import Derived.Deep.CutBlock
import Derived.Deep.RegionWith
import Derived.Deep.RegionHeld3
import Derived.Deep.RegionLaw
namespace Go.Proofs.Ytkicfiacnpifkad
open Go.RowKit
set_option linter.unusedVariables false

set_option maxRecDepth 10000 in
set_option maxHeartbeats 3200000 in
theorem specInit_any (c i : Int) (a : Option Addr) (len cap : Nat) (l : List Lane) (n : Int) (w : World) (hs : Lanes w a len l) (hl : len ≤ 1048576) :
    Calls Try.prog 24 #[.agg #[.int .i64 c, .int .i64 i, .slice a len cap], .int .i64 n] w fun e w' => AnsF w.heap.size (initR c i l n) e w' ∧ Below w.heap.size w w' := by
  have HSl : Hid (l.length = len) := hs.1
  have HS : Hid (Lanes w a len l) := hs
  obtain ⟨W2, hW2⟩ : ∃ W2, (w.alloc (.cells #[.int .i64 c, .int .i64 i, .slice a len cap] 36)).alloc (.cells #[.int .i64 0, .int .i64 0, .slice none 0 0] 36) = W2 := ⟨_, rfl⟩
  have HE : Hid ((w.alloc (.cells #[.int .i64 c, .int .i64 i, .slice a len cap] 36)).alloc (.cells #[.int .i64 0, .int .i64 0, .slice none 0 0] 36) = W2) := hW2
  have HB2 : Hid (Below w.heap.size w W2) := by show Below _ _ _; rw [← hW2]; exact ((Below.refl _ _).alloc (Nat.le_refl _) _).alloc (by simp) _
  have HQ1 : Hid (Box3 W2 w.heap.size 36 (.int .i64 c) (.int .i64 i) (.slice a len cap)) := by show Box3 _ _ _ _ _ _; rw [← hW2]; exact (Box3.new _ _ _ _ _).alloc _
  have HQ2 : Hid (Box3 W2 (w.heap.size + 1) 36 (.int .i64 0) (.int .i64 0) (.slice none 0 0)) := by show Box3 _ _ _ _ _ _; rw [← hW2]; exact box3_at1 _ _ _ _ _ _
  clear hW2 hs
  go_enter Try.func24, Try.ntmps24
  go_upto_region 1 with fail
  rw [HE.out]
  clear HE
  obtain ⟨c0, c1, c2⟩ := HQ1.out.cells
  go_wp2_with fail
  refine (specFcopy_any c i a len cap l _ (HS.out.below HB2.out) hl).mono ?_
  rintro e x3 ⟨A, C, rfl, ho3, hb3⟩
  have HF : Hid (FSt w (x3.alloc (.cells #[.int .i64 c, .int .i64 i, .slice A len C] 36)) c i a len cap x3.heap.size c i A len C l) := FSt.new HQ1.out HQ2.out HB2.out ho3 hb3
  clear ho3 hb3 HQ1 HQ2 HB2 c0 c1 c2
  go_upto_region 2 with fail
  obtain ⟨W3, hW3⟩ : ∃ W3, x3.alloc (.cells #[.int .i64 c, .int .i64 i, .slice A len C] 36) = W3 := ⟨_, rfl⟩
  rw [hW3] at HF ⊢
  clear hW3
  generalize x3.heap.size = o at *
  obtain ⟨d0, d1, d2⟩ := HF.out.2.2.1.cells
  have f1 := HF.out.2.2.1.frozen 1
  have HF4' := HF.out.set1 n
  obtain ⟨x4, hx4⟩ : ∃ x4, W3.setCell ⟨o, 1, none⟩ (.int .i64 n) = x4 := ⟨_, rfl⟩
  rw [hx4] at HF4'
  have HF4 := (show Hid (FSt w x4 c i a len cap o c n A len C l) from HF4')
  have HX4 : Hid (W3.setCell ⟨o, 1, none⟩ (.int .i64 n) = x4) := hx4
  clear hx4 HF4'
  go_upto_block 0 with fail
  rw [HX4.out]
  clear HX4 d0 d1 d2 f1 HF
  obtain ⟨L, hL⟩ : ∃ L, (if 0 ≤ n ∧ n ≤ 2147483647 then l.map (mvL i n) else l) = L := ⟨_, rfl⟩
  have HR' : Hid (initR c i l n = endsF c i l c n L true) := by show _ = _; rw [initR, hL]
  have HLe : Hid ((if 0 ≤ n ∧ n ≤ 2147483647 then l.map (mvL i n) else l) = L) := hL
  clear hL
  go_cut [] from 7 (fun W => Hid (FSt w W c i a len cap o c n A len C L))
  case first =>
    by_cases hn : 0 ≤ n ∧ n ≤ 2147483647
    · have HIn : Hid (∀ W : World, Calls Try.prog 39 #[.int .i64 n, .int .i64 0, .int .i64 2147483647] W fun e w' => e = .returned (.bool true) ∧ w' = W) := fun W => l1In_yes _ _ _ W hn.1 hn.2
      have HL2 : Hid (mvTo i n l l.length = L) := by show _ = _; rw [mvTo_all, ← HLe.out, if_pos hn]
      clear hn HLe
      go_wp2_with fail
      go_loopw [7] (fun v wr => ∃ k : Nat, k ≤ len ∧ v = .int .i64 k ∧ Hid (FSt w wr c i a len cap o c n A len C (mvTo i n l k))) (fun v _ => len - (intOf v).toNat)
      case atStart => exact ⟨0, Nat.zero_le _, rfl, by rw [mvTo_zero]; exact HF4⟩
      case round =>
        clear HF4
        obtain ⟨k, hk, rfl, HFk⟩ := hrel
        obtain ⟨d0, d1, d2⟩ := HFk.out.2.2.1.cells
        by_cases hlt : k < len
        · have hki : (k : Int) < (len : Int) := by omega
          have hk0 : (0 : Int) ≤ (k : Int) := by omega
          obtain ⟨g, rfl⟩ := HFk.out.2.2.2.1.addr (show 0 < len by omega)
          obtain ⟨b, off, p, q, hb, hbl, hkx, hp, hq, _, _⟩ := HFk.out.2.2.2.1.lanes.at hlt
          injection hb with hb
          injection hb with e1 e2
          subst e1 e2
          rw [Nat.zero_add] at hp hq
          have hkl : l[k]? = some (p, q) := by
            have h1 := HS.out.1
            have h2 : l[k]? = some (l[k]'(by omega)) := List.getElem?_eq_getElem (by omega)
            have h3 := mvTo_at i n (p := (l[k]'(by omega)).1) (q := (l[k]'(by omega)).2) h2
            rw [hkx] at h3
            rw [h2, ← h3]
          obtain ⟨X, hX⟩ : ∃ X, IntKind.i64.wrap (IntKind.i64.wrap (q + n) - i) = X := ⟨_, rfl⟩
          have HXb : i64b X := by rw [← hX]; exact i64b_w _
          have HF7 := (show Hid (FSt w (wr.setCell ⟨g, k * 2 + 1, none⟩ (.int .i64 X)) c i a len cap o c n (some ⟨g, 0, none⟩) len C (mvTo i n l (k + 1))) from (by have h := HFk.out.left hkx X HXb; rw [← hX, mvTo_step i n hkl, hX] at h; exact h))
          have fg : wr.frozen? ⟨g, k * 2 + 1, none⟩ = false := HFk.out.2.2.2.1.1.frozenAt _
          obtain ⟨c0, c1, c2⟩ := HFk.out.1.cells
          clear hkx hkl HXb
          go_wp2_with fail
          refine (HIn.out _).mono ?_
          rintro e x6 ⟨rfl, hx6⟩
          subst hx6
          go_upto_region 6 with fail
          go_region_with (fail)
          all_goals
            go_wp2_with fail
            go_roundw
            case rel => exact ⟨k + 1, by omega, by go_num, HF7.out.drew⟩
            case measure => simp [intOf]; omega
        · have hkl : k = l.length := by have := HSl.out; omega
          have HF5 : Hid (FSt w wr c i a len cap o c n A len C L) := by
            show FSt _ _ _ _ _ _ _ _ _ _ _ _ _ _
            rw [← HL2.out, ← hkl]
            exact HFk.out
          have hki : ¬ (k : Int) < (len : Int) := by omega
          clear HFk hkl
          go_wp2_with fail
          go_meet
          exact HF5
    · have HIn : Hid (∀ W : World, Calls Try.prog 39 #[.int .i64 n, .int .i64 0, .int .i64 2147483647] W fun e w' => e = .returned (.bool false) ∧ w' = W) := fun W => l1In_no _ _ _ W (by omega)
      have HF5 : Hid (FSt w x4 c i a len cap o c n A len C L) := by show FSt _ _ _ _ _ _ _ _ _ _ _ _ _ _; rw [← HLe.out, if_neg hn]; exact HF4.out
      clear hn HLe HF4
      go_wp2_with fail
      go_loopw [7] (fun v wr => v = .int .i64 0 ∧ wr = x4) (fun _ _ => 0)
      case atStart => exact ⟨rfl, rfl⟩
      case round =>
        obtain ⟨rfl, hwr⟩ := hrel
        subst hwr
        obtain ⟨d0, d1, d2⟩ := HF5.out.2.2.1.cells
        by_cases hlt : 0 < len
        · have hki : (0 : Int) < (len : Int) := by omega
          go_wp2_with fail
          refine (HIn.out _).mono ?_
          rintro e x6 ⟨rfl, hx6⟩
          subst hx6
          go_wp2_with fail
          go_meet
          exact HF5
        · have hki : ¬ (0 : Int) < (len : Int) := by omega
          go_wp2_with fail
          go_meet
          exact HF5
  case rest =>
  obtain ⟨x7, hx7⟩ : ∃ x7, wc = x7 := ⟨_, rfl⟩
  rw [hx7] at hcut ⊢
  have HF8 := (show Hid (FSt w x7 c i a len cap o c n A len C L) from hcut.out)
  clear hx7 hcut HF4 HLe
  obtain ⟨c0, c1, c2⟩ := HF8.out.1.cells
  obtain ⟨d0, d1, d2⟩ := HF8.out.2.2.1.cells
  go_wp2_with fail
  refine (specEnds_any c i a len cap l c n A len C L true w.heap.size _ (HF8.out.lanes HS.out) hl HF8.out.2.2.2.1 (by omega) HF8.out.2.2.2.2.1.size).mono ?_
  rintro e y1 ⟨⟨A1, C1, rfl, ho1⟩, hb1⟩
  obtain ⟨R, hR⟩ : ∃ R, endsF c i l c n L true = R := ⟨_, rfl⟩
  rw [hR] at ho1 ⊢
  have HR : Hid (endsF c i l c n L true = R) := hR
  clear hR
  obtain ⟨⟨rc, ri, rl⟩, rb⟩ := R
  dsimp only at ho1 ⊢
  obtain ⟨m, hm⟩ : ∃ m, rl.length = m := ⟨_, rfl⟩
  have HM : Hid (rl.length = m) := hm
  rw [hm] at ho1 ⊢
  clear hm
  have hx := (HF8.out.stays hb1).2.1
  obtain ⟨g0, g1, g2⟩ := hx.cells
  have f0 := hx.frozen 0
  have f1 := hx.frozen 1
  have f2 := hx.frozen 2
  have HEnd : Hid (OwnL (((y1.setCell ⟨w.heap.size + 1, 0, none⟩ (.int .i64 rc)).setCell ⟨w.heap.size + 1, 1, none⟩ (.int .i64 ri)).setCell ⟨w.heap.size + 1, 2, none⟩ (.slice A1 m C1)) w.heap.size A1 m C1 rl ∧ Below w.heap.size w (((y1.setCell ⟨w.heap.size + 1, 0, none⟩ (.int .i64 rc)).setCell ⟨w.heap.size + 1, 1, none⟩ (.int .i64 ri)).setCell ⟨w.heap.size + 1, 2, none⟩ (.slice A1 m C1))) := ⟨ownL_set3 ho1 (ho1.other (show y1.heap[w.heap.size + 1]? = _ from hx) (by decide)) _ _ _, below_set3 (HF8.out.stays hb1).2.2.2.2.1 (by omega) _ _ _⟩
  clear hx ho1 hb1 HF8
  go_wp2
  refine bodyPost_ret (v := .tuple #[.agg #[.int .i64 rc, .int .i64 ri, .slice A1 m C1], .bool rb]) (by simp [results, Try.f24, go_sem, g0, g1, g2]) rfl ?_
  have h := HM.out
  subst h
  exact ⟨by rw [HR'.out, HR.out]; exact ⟨A1, C1, rfl, HEnd.out.1⟩, HEnd.out.2⟩

end Go.Proofs.Ytkicfiacnpifkad
