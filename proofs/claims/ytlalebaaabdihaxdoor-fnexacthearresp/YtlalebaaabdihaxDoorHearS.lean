/- What the specification's HearResp answers. -/
import Derived.Test.YtlalebaaabdihaxDoorClFarS
import Derived.Test.YtlalebaaabdihaxDoorClOverS
import Derived.Test.YtlalebaaabdihaxDoorClOkS
import Derived.Test.YtlalebaaabdihaxDoorClCopyS
import Derived.Test.YtlalebaaabdihaxDoorRespOkS
import Derived.Deep.CutBlock
namespace Go.Proofs.YtlalebaaabdihaxDoor
open Go.RowKit
set_option linter.unusedVariables false

set_option maxRecDepth 10000 in
set_option maxHeartbeats 1600000 in
theorem specHearR_any (id : ByteArray) (a : Option Addr) (n ca : Nat) (zs : List Int) (st off : Int) (q r : Int) (w : World) (hs : Seg w a n zs) (hi : id.size ≤ maxLen) (hn : n ≤ 1048576) :
    Calls Tryd.prog 5 #[.agg #[.string id, .slice a n ca, .int .i64 st, .int .i64 off], .agg #[.int .i64 q, .int .i64 r]] w fun e w' => (∃ a' c', e = .returned (.agg #[.string id, .slice a' n c', .int .i64 (hearC id n st off q r).1, .int .i64 (hearC id n st off q r).2]) ∧ Owns w' w.heap.size a' n c' zs) ∧ Below w.heap.size w w' := by
  have HS : Hid (∀ W, Below w.heap.size w W → Seg W a n zs) := fun W h => hs.below h
  clear hs
  obtain ⟨W2, hW2⟩ : ∃ W2, ((w.alloc (.cells #[.string id, .slice a n ca, .int .i64 st, .int .i64 off] 28)).alloc (.cells #[.int .i64 q, .int .i64 r] 31)).alloc (.cells #[.string ⟨#[]⟩, .slice none 0 0, .int .i64 0, .int .i64 0] 28) = W2 := ⟨_, rfl⟩
  have HE : Hid (((w.alloc (.cells #[.string id, .slice a n ca, .int .i64 st, .int .i64 off] 28)).alloc (.cells #[.int .i64 q, .int .i64 r] 31)).alloc (.cells #[.string ⟨#[]⟩, .slice none 0 0, .int .i64 0, .int .i64 0] 28) = W2) := hW2
  have HP : Hid (BoxN W2 w.heap.size 28 [.string id, .slice a n ca, .int .i64 st, .int .i64 off]) := by show BoxN _ _ _ _; rw [← hW2]; exact ((BoxN.new _ _ _).alloc _).alloc _
  have HA : Hid (BoxN W2 (w.heap.size + 1) 31 [.int .i64 q, .int .i64 r]) := by
    show BoxN _ _ _ _
    rw [← hW2]
    have := (BoxN.new (w.alloc (.cells #[.string id, .slice a n ca, .int .i64 st, .int .i64 off] 28)) 31 [.int .i64 q, .int .i64 r]).alloc (.cells #[.string ⟨#[]⟩, .slice none 0 0, .int .i64 0, .int .i64 0] 28)
    rwa [World.size_alloc] at this
  have HR : Hid (BoxN W2 (w.heap.size + 1 + 1) 28 [.string ⟨#[]⟩, .slice none 0 0, .int .i64 0, .int .i64 0]) := by
    show BoxN _ _ _ _
    rw [← hW2]
    have := BoxN.new ((w.alloc (.cells #[.string id, .slice a n ca, .int .i64 st, .int .i64 off] 28)).alloc (.cells #[.int .i64 q, .int .i64 r] 31)) 28 [.string ⟨#[]⟩, .slice none 0 0, .int .i64 0, .int .i64 0]
    rwa [World.size_alloc, World.size_alloc] at this
  have HB : Hid (Below w.heap.size w W2) := by show Below _ _ _; rw [← hW2]; exact (((Below.refl _ _).alloc (Nat.le_refl _) _).alloc (by simp) _).alloc (by simp; omega) _
  have HZ : Hid (W2.heap.size = w.heap.size + 3) := by show _ = _; rw [← hW2]; simp
  clear hW2
  have c0 := HP.out.cell 0 rfl
  have c1 := HP.out.cell 1 rfl
  have c2 := HP.out.cell 2 rfl
  have c3 := HP.out.cell 3 rfl
  go_enter Tryd.func5, Tryd.ntmps5
  go_upto_region 1 with fail
  rw [HE.out]
  clear HE
  go_wp2_with fail
  refine (copyClS_any id st off a n ca zs W2 (HS.out _ HB.out) hn).mono ?_
  rintro e Y ⟨a4, k4, rfl, og, hb4⟩
  have HQ : Hid (∀ W, Below Y.heap.size Y W → BoxN W w.heap.size 28 [.string id, .slice a n ca, .int .i64 st, .int .i64 off] ∧ BoxN W (w.heap.size + 1) 31 [.int .i64 q, .int .i64 r] ∧ BoxN W (w.heap.size + 1 + 1) 28 [.string ⟨#[]⟩, .slice none 0 0, .int .i64 0, .int .i64 0] ∧ Owns W W2.heap.size a4 n k4 zs ∧ Below w.heap.size w W) := fun W h => by
    have h2 : Below W2.heap.size W2 W := hb4.trans (h.mono hb4.size)
    exact ⟨HP.out.stays h2, HA.out.stays h2, HR.out.stays h2, og.below h, HB.out.trans (h2.mono HB.out.size)⟩
  have HY : Hid (W2.heap.size ≤ Y.heap.size) := hb4.size
  have HNB : Hid (∀ p, a4.map (·.block) = some p → p < Y.heap.size) := fun p e => (og.lt p e).2
  clear hb4 og HP HR HB HA c0 c1 c2 c3
  obtain ⟨Y1, hY1⟩ : ∃ Y1, Y.alloc (.cells #[.string id, .slice a4 n k4, .int .i64 st, .int .i64 off] 28) = Y1 := ⟨_, rfl⟩
  have HE : Hid (Y.alloc (.cells #[.string id, .slice a4 n k4, .int .i64 st, .int .i64 off] 28) = Y1) := hY1
  have HO : Hid (BoxN Y1 Y.heap.size 28 [.string id, .slice a4 n k4, .int .i64 st, .int .i64 off]) := by show BoxN _ _ _ _; rw [← hY1]; exact BoxN.new _ _ _
  have HB1 : Hid (Below Y.heap.size Y Y1) := by show Below _ _ _; rw [← hY1]; exact (Below.refl _ _).alloc (Nat.le_refl _) _
  clear hY1
  go_upto_region 2 with fail
  rw [HE.out]
  clear HE
  have HQ1 : Hid (∀ W, Below Y1.heap.size Y1 W → (BoxN W w.heap.size 28 [.string id, .slice a n ca, .int .i64 st, .int .i64 off] ∧ BoxN W (w.heap.size + 1) 31 [.int .i64 q, .int .i64 r] ∧ BoxN W (w.heap.size + 1 + 1) 28 [.string ⟨#[]⟩, .slice none 0 0, .int .i64 0, .int .i64 0] ∧ Owns W W2.heap.size a4 n k4 zs ∧ Below w.heap.size w W) ∧ BoxN W Y.heap.size 28 [.string id, .slice a4 n k4, .int .i64 st, .int .i64 off]) := fun W h => ⟨HQ.out _ (HB1.out.trans (h.mono HB1.out.size)), HO.out.stays h⟩
  have HYb : Hid (w.heap.size + 1 + 1 < Y.heap.size) := by have h1 := HZ.out; have h2 := HY.out; show _ < _; omega
  clear HQ HB1 HO
  generalize Y.heap.size = bo at *
  have HX : Hid (Below Y1.heap.size Y1 Y1) := Below.refl _ _
  have c0 := (HQ1.out _ HX.out).1.1.cell 0 rfl
  have c1 := (HQ1.out _ HX.out).1.1.cell 1 rfl
  have c2 := (HQ1.out _ HX.out).1.1.cell 2 rfl
  have c3 := (HQ1.out _ HX.out).1.1.cell 3 rfl
  have d0 := (HQ1.out _ HX.out).1.2.1.cell 0 rfl
  have d1 := (HQ1.out _ HX.out).1.2.1.cell 1 rfl
  go_wp2_with fail
  refine (specClOk_any id a n ca st off Y1 hi (by omega)).mono ?_
  rintro e Y2 ⟨rfl, hb⟩
  have HX2 : Hid (Below Y1.heap.size Y1 Y2) := HX.out.trans (hb.mono HX.out.size)
  clear hb HX c0 c1 c2 c3 d0 d1
  have c0 := (HQ1.out _ HX2.out).1.1.cell 0 rfl
  have c1 := (HQ1.out _ HX2.out).1.1.cell 1 rfl
  have c2 := (HQ1.out _ HX2.out).1.1.cell 2 rfl
  have c3 := (HQ1.out _ HX2.out).1.1.cell 3 rfl
  have d0 := (HQ1.out _ HX2.out).1.2.1.cell 0 rfl
  have d1 := (HQ1.out _ HX2.out).1.2.1.cell 1 rfl
  by_cases hok : okC id n st off = true
  case neg =>
    have HF : Hid (hearC id n st off q r = (st, off)) := if_neg (by rintro ⟨h1, _⟩; exact hok (wayC_iff.1 h1).1)
    rw [Bool.not_eq_true] at hok
    rw [hok]
    clear hok
    obtain ⟨X, hX⟩ : ∃ X, Y2 = X := ⟨_, rfl⟩
    have HEX : Hid (Y2 = X) := hX
    have hyb := HYb.out
    have HOX : Hid (BoxN X bo 28 [.string id, .slice a4 n k4, .int .i64 st, .int .i64 off]) := by
      show BoxN _ _ _ _
      rw [← hX]
      have hx := (HQ1.out _ HX2.out).2
      exact hx
    have HRX : Hid (BoxN X (w.heap.size + 1 + 1) 28 [.string ⟨#[]⟩, .slice none 0 0, .int .i64 0, .int .i64 0]) := by
      show BoxN _ _ _ _
      rw [← hX]
      have hx := (HQ1.out _ HX2.out).1.2.2.1
      exact hx
    have HWX : Hid (Owns X W2.heap.size a4 n k4 zs) := by
      show Owns _ _ _ _ _ _
      rw [← hX]
      have hx := (HQ1.out _ HX2.out).1.2.2.2.1
      skip
      exact hx
    have HBX : Hid (Below w.heap.size w X) := by
      show Below _ _ _
      rw [← hX]
      repeat (refine Below.setCell ?_ (by dsimp only; omega) _)
      exact (HQ1.out _ HX2.out).1.2.2.2.2
    clear hX hyb
    go_upto_region 3 with fail
    rw [HEX.out]
    clear HEX c0 c1 c2 c3 d0 d1
    have c0 := HOX.out.cell 0 rfl
    have c1 := HOX.out.cell 1 rfl
    have c2 := HOX.out.cell 2 rfl
    have c3 := HOX.out.cell 3 rfl
    have g0 := HRX.out.cell 0 rfl
    have g1 := HRX.out.cell 1 rfl
    have g2 := HRX.out.cell 2 rfl
    have g3 := HRX.out.cell 3 rfl
    have f0 := HRX.out.frozen 0
    have f1 := HRX.out.frozen 1
    have f2 := HRX.out.frozen 2
    have f3 := HRX.out.frozen 3
    have hz := HZ.out
    have hn1 : a4.map (·.block) ≠ some (w.heap.size + 1 + 1) := fun e => by have h3 := (HWX.out.lt _ e).1; omega
    have HW6 : Hid (Owns ((((X.setCell ⟨w.heap.size + 1 + 1, 0, none⟩ (.string id)).setCell ⟨w.heap.size + 1 + 1, 1, none⟩ (.slice a4 n k4)).setCell ⟨w.heap.size + 1 + 1, 2, none⟩ (.int .i64 st)).setCell ⟨w.heap.size + 1 + 1, 3, none⟩ (.int .i64 off)) w.heap.size a4 n k4 zs) := (owns_set (owns_set (owns_set (owns_set HWX.out hn1) hn1) hn1) hn1).low (by omega)
    clear HOX HRX HWX hn1 hz
    go_wp2
    refine bodyPost_ret (v := .agg #[.string id, .slice a4 n k4, .int .i64 st, .int .i64 off]) (by simp [results, Tryd.f5, go_sem, g0, g1, g2, g3]) rfl ?_
    refine ⟨⟨a4, k4, ?_, HW6.out⟩, ?_⟩
    · rw [HF.out]
    · repeat (refine Below.setCell ?_ (by dsimp only; omega) _)
      exact HBX.out
  have HOK : Hid (okC id n st off = true) := hok
  rw [hok]
  clear hok
  go_wp2_with fail
  refine (specRespOk_any q r Y2).mono ?_
  rintro e Y3 ⟨rfl, hb⟩
  have HX3 : Hid (Below Y1.heap.size Y1 Y3) := HX2.out.trans (hb.mono HX2.out.size)
  clear hb HX2 c0 c1 c2 c3 d0 d1
  have c0 := (HQ1.out _ HX3.out).1.1.cell 0 rfl
  have c1 := (HQ1.out _ HX3.out).1.1.cell 1 rfl
  have c2 := (HQ1.out _ HX3.out).1.1.cell 2 rfl
  have c3 := (HQ1.out _ HX3.out).1.1.cell 3 rfl
  have d0 := (HQ1.out _ HX3.out).1.2.1.cell 0 rfl
  have d1 := (HQ1.out _ HX3.out).1.2.1.cell 1 rfl
  by_cases hrk : respB q r = true
  case neg =>
    have HF : Hid (hearC id n st off q r = (st, off)) := if_neg (by rintro ⟨_, h1⟩; exact hrk h1)
    rw [Bool.not_eq_true] at hrk
    rw [hrk]
    clear hrk
    obtain ⟨X, hX⟩ : ∃ X, Y3 = X := ⟨_, rfl⟩
    have HEX : Hid (Y3 = X) := hX
    have hyb := HYb.out
    have HOX : Hid (BoxN X bo 28 [.string id, .slice a4 n k4, .int .i64 st, .int .i64 off]) := by
      show BoxN _ _ _ _
      rw [← hX]
      have hx := (HQ1.out _ HX3.out).2
      exact hx
    have HRX : Hid (BoxN X (w.heap.size + 1 + 1) 28 [.string ⟨#[]⟩, .slice none 0 0, .int .i64 0, .int .i64 0]) := by
      show BoxN _ _ _ _
      rw [← hX]
      have hx := (HQ1.out _ HX3.out).1.2.2.1
      exact hx
    have HWX : Hid (Owns X W2.heap.size a4 n k4 zs) := by
      show Owns _ _ _ _ _ _
      rw [← hX]
      have hx := (HQ1.out _ HX3.out).1.2.2.2.1
      skip
      exact hx
    have HBX : Hid (Below w.heap.size w X) := by
      show Below _ _ _
      rw [← hX]
      repeat (refine Below.setCell ?_ (by dsimp only; omega) _)
      exact (HQ1.out _ HX3.out).1.2.2.2.2
    clear hX hyb
    go_upto_region 3 with fail
    rw [HEX.out]
    clear HEX c0 c1 c2 c3 d0 d1
    have c0 := HOX.out.cell 0 rfl
    have c1 := HOX.out.cell 1 rfl
    have c2 := HOX.out.cell 2 rfl
    have c3 := HOX.out.cell 3 rfl
    have g0 := HRX.out.cell 0 rfl
    have g1 := HRX.out.cell 1 rfl
    have g2 := HRX.out.cell 2 rfl
    have g3 := HRX.out.cell 3 rfl
    have f0 := HRX.out.frozen 0
    have f1 := HRX.out.frozen 1
    have f2 := HRX.out.frozen 2
    have f3 := HRX.out.frozen 3
    have hz := HZ.out
    have hn1 : a4.map (·.block) ≠ some (w.heap.size + 1 + 1) := fun e => by have h3 := (HWX.out.lt _ e).1; omega
    have HW6 : Hid (Owns ((((X.setCell ⟨w.heap.size + 1 + 1, 0, none⟩ (.string id)).setCell ⟨w.heap.size + 1 + 1, 1, none⟩ (.slice a4 n k4)).setCell ⟨w.heap.size + 1 + 1, 2, none⟩ (.int .i64 st)).setCell ⟨w.heap.size + 1 + 1, 3, none⟩ (.int .i64 off)) w.heap.size a4 n k4 zs) := (owns_set (owns_set (owns_set (owns_set HWX.out hn1) hn1) hn1) hn1).low (by omega)
    clear HOX HRX HWX hn1 hz
    go_wp2
    refine bodyPost_ret (v := .agg #[.string id, .slice a4 n k4, .int .i64 st, .int .i64 off]) (by simp [results, Tryd.f5, go_sem, g0, g1, g2, g3]) rfl ?_
    refine ⟨⟨a4, k4, ?_, HW6.out⟩, ?_⟩
    · rw [HF.out]
    · repeat (refine Below.setCell ?_ (by dsimp only; omega) _)
      exact HBX.out
  have HRK : Hid (respB q r = true) := hrk
  rw [hrk]
  clear hrk
  go_wp2_with fail
  refine (specOver_any id a n ca st off Y3).mono ?_
  rintro e Y4 ⟨rfl, hb⟩
  have HX4 : Hid (Below Y1.heap.size Y1 Y4) := HX3.out.trans (hb.mono HX3.out.size)
  clear hb HX3 c0 c1 c2 c3 d0 d1
  have c0 := (HQ1.out _ HX4.out).1.1.cell 0 rfl
  have c1 := (HQ1.out _ HX4.out).1.1.cell 1 rfl
  have c2 := (HQ1.out _ HX4.out).1.1.cell 2 rfl
  have c3 := (HQ1.out _ HX4.out).1.1.cell 3 rfl
  have d0 := (HQ1.out _ HX4.out).1.2.1.cell 0 rfl
  have d1 := (HQ1.out _ HX4.out).1.2.1.cell 1 rfl
  by_cases hov : st = 5 ∨ st = 6
  case pos =>
    have HF : Hid (hearC id n st off q r = (st, off)) := if_neg (by rintro ⟨h1, _⟩; have h2 := wayC_iff.1 h1; omega)
    rw [decide_eq_true hov]
    clear hov
    obtain ⟨X, hX⟩ : ∃ X, Y4 = X := ⟨_, rfl⟩
    have HEX : Hid (Y4 = X) := hX
    have hyb := HYb.out
    have HOX : Hid (BoxN X bo 28 [.string id, .slice a4 n k4, .int .i64 st, .int .i64 off]) := by
      show BoxN _ _ _ _
      rw [← hX]
      have hx := (HQ1.out _ HX4.out).2
      exact hx
    have HRX : Hid (BoxN X (w.heap.size + 1 + 1) 28 [.string ⟨#[]⟩, .slice none 0 0, .int .i64 0, .int .i64 0]) := by
      show BoxN _ _ _ _
      rw [← hX]
      have hx := (HQ1.out _ HX4.out).1.2.2.1
      exact hx
    have HWX : Hid (Owns X W2.heap.size a4 n k4 zs) := by
      show Owns _ _ _ _ _ _
      rw [← hX]
      have hx := (HQ1.out _ HX4.out).1.2.2.2.1
      skip
      exact hx
    have HBX : Hid (Below w.heap.size w X) := by
      show Below _ _ _
      rw [← hX]
      repeat (refine Below.setCell ?_ (by dsimp only; omega) _)
      exact (HQ1.out _ HX4.out).1.2.2.2.2
    clear hX hyb
    go_upto_region 3 with fail
    rw [HEX.out]
    clear HEX c0 c1 c2 c3 d0 d1
    have c0 := HOX.out.cell 0 rfl
    have c1 := HOX.out.cell 1 rfl
    have c2 := HOX.out.cell 2 rfl
    have c3 := HOX.out.cell 3 rfl
    have g0 := HRX.out.cell 0 rfl
    have g1 := HRX.out.cell 1 rfl
    have g2 := HRX.out.cell 2 rfl
    have g3 := HRX.out.cell 3 rfl
    have f0 := HRX.out.frozen 0
    have f1 := HRX.out.frozen 1
    have f2 := HRX.out.frozen 2
    have f3 := HRX.out.frozen 3
    have hz := HZ.out
    have hn1 : a4.map (·.block) ≠ some (w.heap.size + 1 + 1) := fun e => by have h3 := (HWX.out.lt _ e).1; omega
    have HW6 : Hid (Owns ((((X.setCell ⟨w.heap.size + 1 + 1, 0, none⟩ (.string id)).setCell ⟨w.heap.size + 1 + 1, 1, none⟩ (.slice a4 n k4)).setCell ⟨w.heap.size + 1 + 1, 2, none⟩ (.int .i64 st)).setCell ⟨w.heap.size + 1 + 1, 3, none⟩ (.int .i64 off)) w.heap.size a4 n k4 zs) := (owns_set (owns_set (owns_set (owns_set HWX.out hn1) hn1) hn1) hn1).low (by omega)
    clear HOX HRX HWX hn1 hz
    go_wp2
    refine bodyPost_ret (v := .agg #[.string id, .slice a4 n k4, .int .i64 st, .int .i64 off]) (by simp [results, Tryd.f5, go_sem, g0, g1, g2, g3]) rfl ?_
    refine ⟨⟨a4, k4, ?_, HW6.out⟩, ?_⟩
    · rw [HF.out]
    · repeat (refine Below.setCell ?_ (by dsimp only; omega) _)
      exact HBX.out
  have hw : wayC id n st off = true := wayC_iff.2 ⟨HOK.out, by omega, by omega⟩
  have HF : Hid (hearC id n st off q r = heardC n st off q r) := if_pos ⟨hw, HRK.out⟩
  have HST : Hid (st = 1 ∨ st = 2 ∨ st = 3 ∨ st = 4) := wayC_step hw
  rw [decide_eq_false hov]
  clear hov hw
  have g0 := (HQ1.out _ HX4.out).2.cell 0 rfl
  have g1 := (HQ1.out _ HX4.out).2.cell 1 rfl
  have g2 := (HQ1.out _ HX4.out).2.cell 2 rfl
  have g3 := (HQ1.out _ HX4.out).2.cell 3 rfl
  go_wp2_with fail
  refine (specHear_any id a4 n k4 st off q r Y4 (by omega) HST.out).mono ?_
  rintro e X ⟨rfl, hb⟩
  have HB5 : Hid (Below Y1.heap.size Y1 X) := HX4.out.trans (hb.mono HX4.out.size)
  have HRX : Hid (BoxN X (w.heap.size + 1 + 1) 28 [.string ⟨#[]⟩, .slice none 0 0, .int .i64 0, .int .i64 0]) := (HQ1.out _ HB5.out).1.2.2.1
  have HWX : Hid (Owns X W2.heap.size a4 n k4 zs) := (HQ1.out _ HB5.out).1.2.2.2.1
  have HBX : Hid (Below w.heap.size w X) := (HQ1.out _ HB5.out).1.2.2.2.2
  clear hb HB5 HX4 c0 c1 c2 c3 d0 d1 g0 g1 g2 g3
  obtain ⟨s1, hs1⟩ : ∃ s1, (heardC n st off q r).1 = s1 := ⟨_, rfl⟩
  obtain ⟨o1, ho1⟩ : ∃ o1, (heardC n st off q r).2 = o1 := ⟨_, rfl⟩
  have HF3 : Hid ((hearC id n st off q r).1 = s1 ∧ (hearC id n st off q r).2 = o1) := by show _ ∧ _; rw [HF.out, hs1, ho1]; exact ⟨rfl, rfl⟩
  rw [hs1, ho1]
  clear hs1 ho1
  have g0 := HRX.out.cell 0 rfl
  have g1 := HRX.out.cell 1 rfl
  have g2 := HRX.out.cell 2 rfl
  have g3 := HRX.out.cell 3 rfl
  have f0 := HRX.out.frozen 0
  have f1 := HRX.out.frozen 1
  have f2 := HRX.out.frozen 2
  have f3 := HRX.out.frozen 3
  have hz := HZ.out
  have hn1 : a4.map (·.block) ≠ some (w.heap.size + 1 + 1) := fun e => by have h3 := (HWX.out.lt _ e).1; omega
  have HW6 : Hid (Owns ((((X.setCell ⟨w.heap.size + 1 + 1, 0, none⟩ (.string id)).setCell ⟨w.heap.size + 1 + 1, 1, none⟩ (.slice a4 n k4)).setCell ⟨w.heap.size + 1 + 1, 2, none⟩ (.int .i64 s1)).setCell ⟨w.heap.size + 1 + 1, 3, none⟩ (.int .i64 o1)) w.heap.size a4 n k4 zs) := (owns_set (owns_set (owns_set (owns_set HWX.out hn1) hn1) hn1) hn1).low (by omega)
  clear HRX HWX hn1 hz
  go_wp2
  refine bodyPost_ret (v := .agg #[.string id, .slice a4 n k4, .int .i64 s1, .int .i64 o1]) (by simp [results, Tryd.f5, go_sem, g0, g1, g2, g3]) rfl ?_
  refine ⟨⟨a4, k4, ?_, HW6.out⟩, ?_⟩
  · rw [HF3.out.1, HF3.out.2]
  · repeat (refine Below.setCell ?_ (by dsimp only; omega) _)
    exact HBX.out

end Go.Proofs.YtlalebaaabdihaxDoor
