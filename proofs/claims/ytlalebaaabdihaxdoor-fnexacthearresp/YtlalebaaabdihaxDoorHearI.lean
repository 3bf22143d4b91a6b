/- What the program's HearResp answers, under its table. -/
import Derived.Test.YtlalebaaabdihaxDoorClFarI
import Derived.Test.YtlalebaaabdihaxDoorClWayI
import Derived.Test.YtlalebaaabdihaxDoorClCopyI
import Derived.Test.YtlalebaaabdihaxDoorRespOkI
import Derived.Test.YtlalebaaabdihaxDoorStepI
import Derived.Deep.CutBlock
namespace Go.Proofs.YtlalebaaabdihaxDoor
open Go.RowKit
set_option linter.unusedVariables false

set_option maxRecDepth 10000 in
set_option maxHeartbeats 1600000 in
theorem implHearR_any (id : ByteArray) (a : Option Addr) (n ca : Nat) (zs : List Int) (st off : Int) (q r : Int) (w : World) (hs : Seg w a n zs) (hi : id.size ≤ maxLen) (hn : n ≤ 1048576) (ht : TurnT w) :
    Calls Tryd.prog 8 #[.agg #[.string id, .slice a n ca, .int .i64 st, .int .i64 off], .agg #[.int .i64 q, .int .i64 r]] w fun e w' => (∃ a' c', e = .returned (.agg #[.string id, .slice a' n c', .int .i64 (hearC id n st off q r).1, .int .i64 (hearC id n st off q r).2]) ∧ Owns w' w.heap.size a' n c' zs) ∧ Below w.heap.size w w' := by
  have HS : Hid (∀ W, Below w.heap.size w W → Seg W a n zs ∧ TurnT W) := fun W h => ⟨hs.below h, ht.below h⟩
  clear hs ht
  obtain ⟨W2, hW2⟩ : ∃ W2, ((w.alloc (.cells #[.string id, .slice a n ca, .int .i64 st, .int .i64 off] 28)).alloc (.cells #[.int .i64 q, .int .i64 r] 31)).alloc (.cells #[.string ⟨#[]⟩, .slice none 0 0, .int .i64 0, .int .i64 0] 28) = W2 := ⟨_, rfl⟩
  have HE : Hid (((w.alloc (.cells #[.string id, .slice a n ca, .int .i64 st, .int .i64 off] 28)).alloc (.cells #[.int .i64 q, .int .i64 r] 31)).alloc (.cells #[.string ⟨#[]⟩, .slice none 0 0, .int .i64 0, .int .i64 0] 28) = W2) := hW2
  have HP : Hid (BoxN W2 w.heap.size 28 [.string id, .slice a n ca, .int .i64 st, .int .i64 off]) := by show BoxN _ _ _ _; rw [← hW2]; exact ((BoxN.new _ _ _).alloc _).alloc _
  have HA : Hid (BoxN W2 (w.heap.size + 1) 31 [.int .i64 q, .int .i64 r]) := by
    show BoxN _ _ _ _
    rw [← hW2]
    have := (BoxN.new (w.alloc (.cells #[.string id, .slice a n ca, .int .i64 st, .int .i64 off] 28)) 31 [.int .i64 q, .int .i64 r]).alloc (.cells #[.string ⟨#[]⟩, .slice none 0 0, .int .i64 0, .int .i64 0] 28)
    rwa [World.size_alloc] at this
  have HR : Hid (BoxN W2 (w.heap.size + 1 + 1) 28 [.string ⟨#[]⟩, .slice none 0 0, .int .i64 0, .int .i64 0]) := by
    show BoxN _ _ _ _
    rw [← hW2]
    have := BoxN.new ((w.alloc (.cells #[.string id, .slice a n ca, .int .i64 st, .int .i64 off] 28)).alloc (.cells #[.int .i64 q, .int .i64 r] 31)) 28 [.string ⟨#[]⟩, .slice none 0 0, .int .i64 0, .int .i64 0]
    rwa [World.size_alloc, World.size_alloc] at this
  have HB : Hid (Below w.heap.size w W2) := by show Below _ _ _; rw [← hW2]; exact (((Below.refl _ _).alloc (Nat.le_refl _) _).alloc (by simp) _).alloc (by simp; omega) _
  have HZ : Hid (W2.heap.size = w.heap.size + 3) := by show _ = _; rw [← hW2]; simp
  clear hW2
  have c0 := HP.out.cell 0 rfl
  have c1 := HP.out.cell 1 rfl
  have c2 := HP.out.cell 2 rfl
  have c3 := HP.out.cell 3 rfl
  go_enter Tryd.func8, Tryd.ntmps8
  go_upto_region 1 with fail
  rw [HE.out]
  clear HE
  go_wp2_with fail
  refine (copyClI_any id st off a n ca zs W2 (HS.out _ HB.out).1 hn).mono ?_
  rintro e Y ⟨a4, k4, rfl, og, hb4⟩
  have HQ : Hid (∀ W, Below Y.heap.size Y W → BoxN W w.heap.size 28 [.string id, .slice a n ca, .int .i64 st, .int .i64 off] ∧ BoxN W (w.heap.size + 1) 31 [.int .i64 q, .int .i64 r] ∧ BoxN W (w.heap.size + 1 + 1) 28 [.string ⟨#[]⟩, .slice none 0 0, .int .i64 0, .int .i64 0] ∧ Owns W W2.heap.size a4 n k4 zs ∧ Below w.heap.size w W) := fun W h => by
    have h2 : Below W2.heap.size W2 W := hb4.trans (h.mono hb4.size)
    exact ⟨HP.out.stays h2, HA.out.stays h2, HR.out.stays h2, og.below h, HB.out.trans (h2.mono HB.out.size)⟩
  have HY : Hid (W2.heap.size ≤ Y.heap.size) := hb4.size
  have HNB : Hid (∀ p, a4.map (·.block) = some p → p < Y.heap.size) := fun p e => (og.lt p e).2
  clear hb4 og HP HR HB HA c0 c1 c2 c3
  obtain ⟨Y1, hY1⟩ : ∃ Y1, Y.alloc (.cells #[.string id, .slice a4 n k4, .int .i64 st, .int .i64 off] 28) = Y1 := ⟨_, rfl⟩
  have HE : Hid (Y.alloc (.cells #[.string id, .slice a4 n k4, .int .i64 st, .int .i64 off] 28) = Y1) := hY1
  have HO : Hid (BoxN Y1 Y.heap.size 28 [.string id, .slice a4 n k4, .int .i64 st, .int .i64 off]) := by show BoxN _ _ _ _; rw [← hY1]; exact BoxN.new _ _ _
  have HB1 : Hid (Below Y.heap.size Y Y1) := by show Below _ _ _; rw [← hY1]; exact (Below.refl _ _).alloc (Nat.le_refl _) _
  clear hY1
  go_upto_region 2 with fail
  rw [HE.out]
  clear HE
  have HQ1 : Hid (∀ W, Below Y1.heap.size Y1 W → (BoxN W w.heap.size 28 [.string id, .slice a n ca, .int .i64 st, .int .i64 off] ∧ BoxN W (w.heap.size + 1) 31 [.int .i64 q, .int .i64 r] ∧ BoxN W (w.heap.size + 1 + 1) 28 [.string ⟨#[]⟩, .slice none 0 0, .int .i64 0, .int .i64 0] ∧ Owns W W2.heap.size a4 n k4 zs ∧ Below w.heap.size w W) ∧ BoxN W Y.heap.size 28 [.string id, .slice a4 n k4, .int .i64 st, .int .i64 off]) := fun W h => ⟨HQ.out _ (HB1.out.trans (h.mono HB1.out.size)), HO.out.stays h⟩
  have HYb : Hid (w.heap.size + 1 + 1 < Y.heap.size) := by have h1 := HZ.out; have h2 := HY.out; show _ < _; omega
  clear HQ HB1 HO
  generalize Y.heap.size = bo at *
  have HX : Hid (Below Y1.heap.size Y1 Y1) := Below.refl _ _
  have c0 := (HQ1.out _ HX.out).1.1.cell 0 rfl
  have c1 := (HQ1.out _ HX.out).1.1.cell 1 rfl
  have c2 := (HQ1.out _ HX.out).1.1.cell 2 rfl
  have c3 := (HQ1.out _ HX.out).1.1.cell 3 rfl
  have d0 := (HQ1.out _ HX.out).1.2.1.cell 0 rfl
  have d1 := (HQ1.out _ HX.out).1.2.1.cell 1 rfl
  go_wp2_with fail
  refine (implWay_any id a n ca st off Y1 hi (by omega)).mono ?_
  rintro e Y2 ⟨rfl, hb⟩
  have HX2 : Hid (Below Y1.heap.size Y1 Y2) := HX.out.trans (hb.mono HX.out.size)
  clear hb HX c0 c1 c2 c3 d0 d1
  have c0 := (HQ1.out _ HX2.out).1.1.cell 0 rfl
  have c1 := (HQ1.out _ HX2.out).1.1.cell 1 rfl
  have c2 := (HQ1.out _ HX2.out).1.1.cell 2 rfl
  have c3 := (HQ1.out _ HX2.out).1.1.cell 3 rfl
  have d0 := (HQ1.out _ HX2.out).1.2.1.cell 0 rfl
  have d1 := (HQ1.out _ HX2.out).1.2.1.cell 1 rfl
  by_cases hok : wayC id n st off = true
  case neg =>
    have HF : Hid (hearC id n st off q r = (st, off)) := if_neg (by rintro ⟨h1, _⟩; exact hok h1)
    rw [Bool.not_eq_true] at hok
    rw [hok]
    clear hok
    obtain ⟨X, hX⟩ : ∃ X, Y2 = X := ⟨_, rfl⟩
    have HEX : Hid (Y2 = X) := hX
    have hyb := HYb.out
    have HOX : Hid (BoxN X bo 28 [.string id, .slice a4 n k4, .int .i64 st, .int .i64 off]) := by
      show BoxN _ _ _ _
      rw [← hX]
      have hx := (HQ1.out _ HX2.out).2
      exact hx
    have HRX : Hid (BoxN X (w.heap.size + 1 + 1) 28 [.string ⟨#[]⟩, .slice none 0 0, .int .i64 0, .int .i64 0]) := by
      show BoxN _ _ _ _
      rw [← hX]
      have hx := (HQ1.out _ HX2.out).1.2.2.1
      exact hx
    have HWX : Hid (Owns X W2.heap.size a4 n k4 zs) := by
      show Owns _ _ _ _ _ _
      rw [← hX]
      have hx := (HQ1.out _ HX2.out).1.2.2.2.1
      skip
      exact hx
    have HBX : Hid (Below w.heap.size w X) := by
      show Below _ _ _
      rw [← hX]
      repeat (refine Below.setCell ?_ (by dsimp only; omega) _)
      exact (HQ1.out _ HX2.out).1.2.2.2.2
    clear hX hyb
    go_upto_region 3 with fail
    rw [HEX.out]
    clear HEX c0 c1 c2 c3 d0 d1
    have c0 := HOX.out.cell 0 rfl
    have c1 := HOX.out.cell 1 rfl
    have c2 := HOX.out.cell 2 rfl
    have c3 := HOX.out.cell 3 rfl
    have g0 := HRX.out.cell 0 rfl
    have g1 := HRX.out.cell 1 rfl
    have g2 := HRX.out.cell 2 rfl
    have g3 := HRX.out.cell 3 rfl
    have f0 := HRX.out.frozen 0
    have f1 := HRX.out.frozen 1
    have f2 := HRX.out.frozen 2
    have f3 := HRX.out.frozen 3
    have hz := HZ.out
    have hn1 : a4.map (·.block) ≠ some (w.heap.size + 1 + 1) := fun e => by have h3 := (HWX.out.lt _ e).1; omega
    have HW6 : Hid (Owns ((((X.setCell ⟨w.heap.size + 1 + 1, 0, none⟩ (.string id)).setCell ⟨w.heap.size + 1 + 1, 1, none⟩ (.slice a4 n k4)).setCell ⟨w.heap.size + 1 + 1, 2, none⟩ (.int .i64 st)).setCell ⟨w.heap.size + 1 + 1, 3, none⟩ (.int .i64 off)) w.heap.size a4 n k4 zs) := (owns_set (owns_set (owns_set (owns_set HWX.out hn1) hn1) hn1) hn1).low (by omega)
    clear HOX HRX HWX hn1 hz
    go_wp2
    refine bodyPost_ret (v := .agg #[.string id, .slice a4 n k4, .int .i64 st, .int .i64 off]) (by simp [results, Tryd.f8, go_sem, g0, g1, g2, g3]) rfl ?_
    refine ⟨⟨a4, k4, ?_, HW6.out⟩, ?_⟩
    · rw [HF.out]
    · repeat (refine Below.setCell ?_ (by dsimp only; omega) _)
      exact HBX.out
  have HOK : Hid (wayC id n st off = true) := hok
  rw [hok]
  clear hok
  go_wp2_with fail
  refine (implRespOk_any q r Y2).mono ?_
  rintro e Y3 ⟨rfl, hb⟩
  have HX3 : Hid (Below Y1.heap.size Y1 Y3) := HX2.out.trans (hb.mono HX2.out.size)
  clear hb HX2 c0 c1 c2 c3 d0 d1
  have c0 := (HQ1.out _ HX3.out).1.1.cell 0 rfl
  have c1 := (HQ1.out _ HX3.out).1.1.cell 1 rfl
  have c2 := (HQ1.out _ HX3.out).1.1.cell 2 rfl
  have c3 := (HQ1.out _ HX3.out).1.1.cell 3 rfl
  have d0 := (HQ1.out _ HX3.out).1.2.1.cell 0 rfl
  have d1 := (HQ1.out _ HX3.out).1.2.1.cell 1 rfl
  by_cases hrk : respB q r = true
  case neg =>
    have HF : Hid (hearC id n st off q r = (st, off)) := if_neg (by rintro ⟨_, h1⟩; exact hrk h1)
    rw [Bool.not_eq_true] at hrk
    rw [hrk]
    clear hrk
    obtain ⟨X, hX⟩ : ∃ X, Y3 = X := ⟨_, rfl⟩
    have HEX : Hid (Y3 = X) := hX
    have hyb := HYb.out
    have HOX : Hid (BoxN X bo 28 [.string id, .slice a4 n k4, .int .i64 st, .int .i64 off]) := by
      show BoxN _ _ _ _
      rw [← hX]
      have hx := (HQ1.out _ HX3.out).2
      exact hx
    have HRX : Hid (BoxN X (w.heap.size + 1 + 1) 28 [.string ⟨#[]⟩, .slice none 0 0, .int .i64 0, .int .i64 0]) := by
      show BoxN _ _ _ _
      rw [← hX]
      have hx := (HQ1.out _ HX3.out).1.2.2.1
      exact hx
    have HWX : Hid (Owns X W2.heap.size a4 n k4 zs) := by
      show Owns _ _ _ _ _ _
      rw [← hX]
      have hx := (HQ1.out _ HX3.out).1.2.2.2.1
      skip
      exact hx
    have HBX : Hid (Below w.heap.size w X) := by
      show Below _ _ _
      rw [← hX]
      repeat (refine Below.setCell ?_ (by dsimp only; omega) _)
      exact (HQ1.out _ HX3.out).1.2.2.2.2
    clear hX hyb
    go_upto_region 3 with fail
    rw [HEX.out]
    clear HEX c0 c1 c2 c3 d0 d1
    have c0 := HOX.out.cell 0 rfl
    have c1 := HOX.out.cell 1 rfl
    have c2 := HOX.out.cell 2 rfl
    have c3 := HOX.out.cell 3 rfl
    have g0 := HRX.out.cell 0 rfl
    have g1 := HRX.out.cell 1 rfl
    have g2 := HRX.out.cell 2 rfl
    have g3 := HRX.out.cell 3 rfl
    have f0 := HRX.out.frozen 0
    have f1 := HRX.out.frozen 1
    have f2 := HRX.out.frozen 2
    have f3 := HRX.out.frozen 3
    have hz := HZ.out
    have hn1 : a4.map (·.block) ≠ some (w.heap.size + 1 + 1) := fun e => by have h3 := (HWX.out.lt _ e).1; omega
    have HW6 : Hid (Owns ((((X.setCell ⟨w.heap.size + 1 + 1, 0, none⟩ (.string id)).setCell ⟨w.heap.size + 1 + 1, 1, none⟩ (.slice a4 n k4)).setCell ⟨w.heap.size + 1 + 1, 2, none⟩ (.int .i64 st)).setCell ⟨w.heap.size + 1 + 1, 3, none⟩ (.int .i64 off)) w.heap.size a4 n k4 zs) := (owns_set (owns_set (owns_set (owns_set HWX.out hn1) hn1) hn1) hn1).low (by omega)
    clear HOX HRX HWX hn1 hz
    go_wp2
    refine bodyPost_ret (v := .agg #[.string id, .slice a4 n k4, .int .i64 st, .int .i64 off]) (by simp [results, Tryd.f8, go_sem, g0, g1, g2, g3]) rfl ?_
    refine ⟨⟨a4, k4, ?_, HW6.out⟩, ?_⟩
    · rw [HF.out]
    · repeat (refine Below.setCell ?_ (by dsimp only; omega) _)
      exact HBX.out
  have HF : Hid (hearC id n st off q r = heardC n st off q r) := if_pos ⟨HOK.out, hrk⟩
  have HRr : Hid (-1 ≤ r) := by
    show _ ≤ _
    have h := hrk
    simp only [respB, Bool.and_eq_true, decide_eq_true_eq] at h
    omega
  have HNb : Hid (a4.map (·.block) ≠ some bo) := fun e => by
    have h3 := (HQ1.out _ (Below.refl _ _)).1.2.2.2.1
    have h4 := HNB.out _ e
    omega
  rw [hrk]
  clear hrk HOK
  have g0 := (HQ1.out _ HX3.out).2.cell 0 rfl
  have g1 := (HQ1.out _ HX3.out).2.cell 1 rfl
  have g2 := (HQ1.out _ HX3.out).2.cell 2 rfl
  have g3 := (HQ1.out _ HX3.out).2.cell 3 rfl
  have f0 := (HQ1.out _ HX3.out).2.frozen 0
  have f1 := (HQ1.out _ HX3.out).2.frozen 1
  have f2 := (HQ1.out _ HX3.out).2.frozen 2
  have f3 := (HQ1.out _ HX3.out).2.frozen 3
  go_upto_region 4 with fail
  go_wp2_with fail
  refine (implStepB_any st q Y3 (HS.out _ (HQ1.out _ HX3.out).1.2.2.2.2).2).mono ?_
  rintro e w' ⟨rfl, hw'⟩
  have hw' := hw'.symm
  subst hw'
  obtain ⟨k, hk⟩ : ∃ k, nextC st q = k := ⟨_, rfl⟩
  have HK : Hid (heardC n st off q r = if k = 0 then farC n off r else (k, off)) := by show _ = _; rw [heardC, hk]
  rw [hk]
  clear hk
  by_cases h0 : k = 0
  case neg =>
    have HF2 : Hid (hearC id n st off q r = (k, off)) := by show _ = _; rw [HF.out, HK.out, if_neg h0]
    have e0 : (k == 0) = false := by simpa using h0
    clear h0 HF HK
    obtain ⟨X, hX⟩ : ∃ X, (World.setCell Y3 ⟨bo, 2, none⟩ (.int .i64 k)) = X := ⟨_, rfl⟩
    have HEX : Hid ((World.setCell Y3 ⟨bo, 2, none⟩ (.int .i64 k)) = X) := hX
    have hyb := HYb.out
    have HOX : Hid (BoxN X bo 28 [.string id, .slice a4 n k4, .int .i64 k, .int .i64 off]) := by
      show BoxN _ _ _ _
      rw [← hX]
      have hx := (HQ1.out _ HX3.out).2
      exact hx.set 2 _
    have HRX : Hid (BoxN X (w.heap.size + 1 + 1) 28 [.string ⟨#[]⟩, .slice none 0 0, .int .i64 0, .int .i64 0]) := by
      show BoxN _ _ _ _
      rw [← hX]
      have hx := (HQ1.out _ HX3.out).1.2.2.1
      exact hx.other (by omega) _
    have HWX : Hid (Owns X W2.heap.size a4 n k4 zs) := by
      show Owns _ _ _ _ _ _
      rw [← hX]
      have hx := (HQ1.out _ HX3.out).1.2.2.2.1
      have hne : a4.map (·.block) ≠ some bo := HNb.out
      exact owns_set hx hne
    have HBX : Hid (Below w.heap.size w X) := by
      show Below _ _ _
      rw [← hX]
      repeat (refine Below.setCell ?_ (by dsimp only; omega) _)
      exact (HQ1.out _ HX3.out).1.2.2.2.2
    clear hX hyb
    go_upto_region 7 with fail
    rw [HEX.out]
    clear HEX c0 c1 c2 c3 d0 d1 f0 f1 f2 f3 g0 g1 g2 g3
    have c0 := HOX.out.cell 0 rfl
    have c1 := HOX.out.cell 1 rfl
    have c2 := HOX.out.cell 2 rfl
    have c3 := HOX.out.cell 3 rfl
    have g0 := HRX.out.cell 0 rfl
    have g1 := HRX.out.cell 1 rfl
    have g2 := HRX.out.cell 2 rfl
    have g3 := HRX.out.cell 3 rfl
    have f0 := HRX.out.frozen 0
    have f1 := HRX.out.frozen 1
    have f2 := HRX.out.frozen 2
    have f3 := HRX.out.frozen 3
    have hz := HZ.out
    have hn1 : a4.map (·.block) ≠ some (w.heap.size + 1 + 1) := fun e => by have h3 := (HWX.out.lt _ e).1; omega
    have HW6 : Hid (Owns ((((X.setCell ⟨w.heap.size + 1 + 1, 0, none⟩ (.string id)).setCell ⟨w.heap.size + 1 + 1, 1, none⟩ (.slice a4 n k4)).setCell ⟨w.heap.size + 1 + 1, 2, none⟩ (.int .i64 k)).setCell ⟨w.heap.size + 1 + 1, 3, none⟩ (.int .i64 off)) w.heap.size a4 n k4 zs) := (owns_set (owns_set (owns_set (owns_set HWX.out hn1) hn1) hn1) hn1).low (by omega)
    clear HOX HRX HWX hn1 hz
    go_wp2
    refine bodyPost_ret (v := .agg #[.string id, .slice a4 n k4, .int .i64 k, .int .i64 off]) (by simp [results, Tryd.f8, go_sem, g0, g1, g2, g3]) rfl ?_
    refine ⟨⟨a4, k4, ?_, HW6.out⟩, ?_⟩
    · rw [HF2.out]
    · repeat (refine Below.setCell ?_ (by dsimp only; omega) _)
      exact HBX.out
  subst h0
  have HF2 : Hid (hearC id n st off q r = farC n off r) := by show _ = _; rw [HF.out, HK.out, if_pos rfl]
  clear HF HK
  obtain ⟨X, hX⟩ : ∃ X, World.setCell Y3 ⟨bo, 2, none⟩ (.int .i64 0) = X := ⟨_, rfl⟩
  have HEX : Hid (World.setCell Y3 ⟨bo, 2, none⟩ (.int .i64 0) = X) := hX
  have hyb := HYb.out
  have HOX : Hid (BoxN X bo 28 [.string id, .slice a4 n k4, .int .i64 0, .int .i64 off]) := by show BoxN _ _ _ _; rw [← hX]; exact (HQ1.out _ HX3.out).2.set 2 _
  have HRX : Hid (BoxN X (w.heap.size + 1 + 1) 28 [.string ⟨#[]⟩, .slice none 0 0, .int .i64 0, .int .i64 0]) := by show BoxN _ _ _ _; rw [← hX]; exact (HQ1.out _ HX3.out).1.2.2.1.other (by omega) _
  have HAX : Hid (BoxN X (w.heap.size + 1) 31 [.int .i64 q, .int .i64 r]) := by show BoxN _ _ _ _; rw [← hX]; exact (HQ1.out _ HX3.out).1.2.1.other (by omega) _
  have HWX : Hid (Owns X W2.heap.size a4 n k4 zs) := by show Owns _ _ _ _ _ _; rw [← hX]; exact owns_set (HQ1.out _ HX3.out).1.2.2.2.1 HNb.out
  have HBX : Hid (Below w.heap.size w X) := by
    show Below _ _ _
    rw [← hX]
    refine Below.setCell ?_ (by dsimp only; omega) _
    exact (HQ1.out _ HX3.out).1.2.2.2.2
  clear hX hyb
  go_upto_region 5 with fail
  rw [HEX.out]
  clear HEX c0 c1 c2 c3 d0 d1 f0 f1 f2 f3 g0 g1 g2 g3
  have c0 := HOX.out.cell 0 rfl
  have c1 := HOX.out.cell 1 rfl
  have c2 := HOX.out.cell 2 rfl
  have c3 := HOX.out.cell 3 rfl
  have d0 := HAX.out.cell 0 rfl
  have d1 := HAX.out.cell 1 rfl
  go_upto_region 6 with fail
  go_wp2_with fail
  refine (implFar_any id a4 n k4 0 off r X (by omega) HRr.out).mono ?_
  rintro e X2 ⟨rfl, hb⟩
  have HRX2 : Hid (BoxN X2 (w.heap.size + 1 + 1) 28 [.string ⟨#[]⟩, .slice none 0 0, .int .i64 0, .int .i64 0]) := HRX.out.stays hb
  have HWX2 : Hid (Owns X2 W2.heap.size a4 n k4 zs) := HWX.out.below hb
  have HBX2 : Hid (Below w.heap.size w X2) := HBX.out.trans (hb.mono HBX.out.size)
  clear hb HRX HWX HBX HOX HAX c0 c1 c2 c3 d0 d1
  obtain ⟨s1, hs1⟩ : ∃ s1, (farC n off r).1 = s1 := ⟨_, rfl⟩
  obtain ⟨o1, ho1⟩ : ∃ o1, (farC n off r).2 = o1 := ⟨_, rfl⟩
  have HF3 : Hid ((hearC id n st off q r).1 = s1 ∧ (hearC id n st off q r).2 = o1) := by show _ ∧ _; rw [HF2.out, hs1, ho1]; exact ⟨rfl, rfl⟩
  rw [hs1, ho1]
  clear hs1 ho1
  have g0 := HRX2.out.cell 0 rfl
  have g1 := HRX2.out.cell 1 rfl
  have g2 := HRX2.out.cell 2 rfl
  have g3 := HRX2.out.cell 3 rfl
  have f0 := HRX2.out.frozen 0
  have f1 := HRX2.out.frozen 1
  have f2 := HRX2.out.frozen 2
  have f3 := HRX2.out.frozen 3
  have hz := HZ.out
  have hn1 : a4.map (·.block) ≠ some (w.heap.size + 1 + 1) := fun e => by have h3 := (HWX2.out.lt _ e).1; omega
  have HW6 : Hid (Owns ((((X2.setCell ⟨w.heap.size + 1 + 1, 0, none⟩ (.string id)).setCell ⟨w.heap.size + 1 + 1, 1, none⟩ (.slice a4 n k4)).setCell ⟨w.heap.size + 1 + 1, 2, none⟩ (.int .i64 s1)).setCell ⟨w.heap.size + 1 + 1, 3, none⟩ (.int .i64 o1)) w.heap.size a4 n k4 zs) := (owns_set (owns_set (owns_set (owns_set HWX2.out hn1) hn1) hn1) hn1).low (by omega)
  clear HRX2 HWX2 hn1 hz
  go_wp2
  refine bodyPost_ret (v := .agg #[.string id, .slice a4 n k4, .int .i64 s1, .int .i64 o1]) (by simp [results, Tryd.f8, go_sem, g0, g1, g2, g3]) rfl ?_
  refine ⟨⟨a4, k4, ?_, HW6.out⟩, ?_⟩
  · rw [HF3.out.1, HF3.out.2]
  · repeat (refine Below.setCell ?_ (by dsimp only; omega) _)
    exact HBX2.out

end Go.Proofs.YtlalebaaabdihaxDoor
