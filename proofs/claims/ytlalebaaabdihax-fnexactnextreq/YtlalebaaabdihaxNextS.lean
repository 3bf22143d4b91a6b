/- What the specification's NextReq answers. -/
import Derived.Test.YtlalebaaabdihaxNextN
import Derived.Test.YtlalebaaabdihaxBoxN
import Derived.Test.YtlalebaaabdihaxClOkS
import Derived.Test.YtlalebaaabdihaxCrcS
import Derived.Test.YtlalebaaabdihaxSegCut
import Derived.Test.YtlalebaaabdihaxTabStep
import Derived.Test.YtlalebaaabdihaxSegSrc
import Derived.Deep.CutBlock
namespace Go.Proofs.Ytlalebaaabdihax
open Go.RowKit
set_option linter.unusedVariables false

set_option maxRecDepth 10000 in
set_option maxHeartbeats 3200000 in
theorem specNext_any (id : ByteArray) (a : Option Addr) (n ca : Nat) (zs : List Int) (st off : Int) (w : World) (hs : Seg w a n zs) (hi : id.size ≤ maxLen) (hn : n ≤ 1048576) (ha : wayC id n st off = true → st = 3 → ∃ b o, a = some ⟨b, o, none⟩ ∧ n ≤ ca) :
    Calls Try.prog 7 #[.agg #[.string id, .slice a n ca, .int .i64 st, .int .i64 off]] w fun e w' => (∃ a' c', e = .returned (.tuple #[.agg #[.int .i64 (askOp id n st off), .string (askI id n st off), .int .i64 (askN id n zs st off)], .slice a' (askK id n st off) c', .bool (wayC id n st off)]) ∧ Owns w' w.heap.size a' (askK id n st off) c' (askZ id n zs st off)) ∧ Below w.heap.size w w' := by
  obtain ⟨i0, hi0, hy0, hy1, hy2⟩ := info_parts Try.info5
  have HS : Hid (Seg w a n zs) := hs
  have HAd : Hid (wayC id n st off = true → st = 3 → ∃ b o, a = some ⟨b, o, none⟩ ∧ n ≤ ca) := ha
  clear hs ha
  obtain ⟨w0, hw0⟩ : ∃ w0, (w.alloc (.cells #[.string id, .slice a n ca, .int .i64 st, .int .i64 off] 30)).alloc (.cells #[.int .i64 0, .string ⟨#[]⟩, .int .i64 0] 27) = w0 := ⟨_, rfl⟩
  have HE : Hid ((w.alloc (.cells #[.string id, .slice a n ca, .int .i64 st, .int .i64 off] 30)).alloc (.cells #[.int .i64 0, .string ⟨#[]⟩, .int .i64 0] 27) = w0) := hw0
  have hB : Below w.heap.size w w0 := by rw [← hw0]; exact ((Below.refl _ _).alloc (Nat.le_refl _) _).alloc (by simp) _
  have hC : BoxN w0 w.heap.size 30 [.string id, .slice a n ca, .int .i64 st, .int .i64 off] := by rw [← hw0]; exact (BoxN.new _ _ _).alloc _
  have hR : BoxN w0 (w.heap.size + 1) 27 [.int .i64 0, .string ⟨#[]⟩, .int .i64 0] := by
    rw [← hw0]
    have := BoxN.new (w.alloc (.cells #[.string id, .slice a n ca, .int .i64 st, .int .i64 off] 30)) 27 [.int .i64 0, .string ⟨#[]⟩, .int .i64 0]
    rwa [World.size_alloc] at this
  have HQ : Hid (∀ W, Below w0.heap.size w0 W → BoxN W w.heap.size 30 [.string id, .slice a n ca, .int .i64 st, .int .i64 off] ∧ BoxN W (w.heap.size + 1) 27 [.int .i64 0, .string ⟨#[]⟩, .int .i64 0] ∧ Seg W a n zs ∧ Below w.heap.size w W) := fun W hb => ⟨hC.stays hb, hR.stays hb, HS.out.below (hB.trans (hb.mono hB.size)), hB.trans (hb.mono hB.size)⟩
  have hz0 : w.heap.size + 1 < w0.heap.size := hR.lt
  have HA0 : Hid (Below w0.heap.size w0 w0) := Below.refl _ _
  clear hw0 hB hC hR
  have c0 := (HQ.out _ HA0.out).1.cell 0 rfl
  have c1 := (HQ.out _ HA0.out).1.cell 1 rfl
  have c2 := (HQ.out _ HA0.out).1.cell 2 rfl
  have c3 := (HQ.out _ HA0.out).1.cell 3 rfl
  go_enter Try.func7, Try.ntmps7
  go_upto_region 1 with fail
  rw [HE.out]
  clear HE
  obtain ⟨W2, hW2⟩ : ∃ W2, (w0.alloc (.cells #[.int .i64 0, .string id, .int .i64 0] 27)).alloc (.cells #[] 5) = W2 := ⟨_, rfl⟩
  obtain ⟨br, hbrr⟩ : ∃ br, w0.heap.size = br := ⟨_, rfl⟩
  have hbr : BoxN W2 br 27 [.int .i64 0, .string id, .int .i64 0] := by
    rw [← hW2, ← hbrr]
    exact (BoxN.new _ _ _).alloc _
  have hor : Owns W2 (br + 1) (some ⟨br + 1, 0, none⟩) 0 0 [] := by
    rw [← hW2, ← hbrr]
    have h1 : Owns ((w0.alloc (.cells #[.int .i64 0, .string id, .int .i64 0] 27)).alloc (.cells #[] 5)) (w0.alloc (.cells #[.int .i64 0, .string id, .int .i64 0] 27)).heap.size (some ⟨(w0.alloc (.cells #[.int .i64 0, .string id, .int .i64 0] 27)).heap.size, 0, none⟩) 0 0 [] := ⟨World.ownsRow_lit _ #[] 0 (Nat.le_refl _) (Nat.zero_le _) rfl, by simp⟩
    rw [World.size_alloc] at h1
    exact h1
  have HB2 : Hid (Below w0.heap.size w0 W2) := by show Below _ _ _; rw [← hW2]; exact ((Below.refl _ _).alloc (Nat.le_refl _) _).alloc (by simp) _
  have HBR : Hid (BoxN W2 br 27 [.int .i64 0, .string id, .int .i64 0]) := hbr
  have HOR : Hid (Owns W2 (br + 1) (some ⟨br + 1, 0, none⟩) 0 0 []) := hor
  have hlt : w.heap.size + 1 < br := by omega
  have hlg : w0.heap.size ≤ br := by omega
  have HE2 : Hid (_ = W2) := hW2
  have HEg : Hid (_ = br) := hbrr
  clear hW2 hbr hor hbrr
  go_upto_region 3 with fail
  rw [HE2.out, HEg.out]
  clear HE2 HEg c0 c1 c2 c3
  have c0 := (HQ.out _ HB2.out).1.cell 0 rfl
  have c1 := (HQ.out _ HB2.out).1.cell 1 rfl
  have c2 := (HQ.out _ HB2.out).1.cell 2 rfl
  have c3 := (HQ.out _ HB2.out).1.cell 3 rfl
  go_wp2_with fail
  refine (specClOk_any id a n ca st off W2 hi (by omega)).mono ?_
  rintro e W3 ⟨rfl, hb3⟩
  have HB3 : Hid (Below w0.heap.size w0 W3) := HB2.out.trans (hb3.mono HB2.out.size)
  have HBR3 : Hid (BoxN W3 br 27 [.int .i64 0, .string id, .int .i64 0]) := HBR.out.stays hb3
  have HOR3 : Hid (Owns W3 (br + 1) (some ⟨br + 1, 0, none⟩) 0 0 []) := HOR.out.below hb3
  clear hb3 c0 c1 c2 c3 HB2 HBR HOR
  by_cases hok : okC id n st off = true
  case neg =>
    have hno : ¬ wayC id n st off = true := fun h => hok (wayC_iff.1 h).1
    have HF : Hid (askOp id n st off = 0 ∧ askI id n st off = ⟨#[]⟩ ∧ askN id n zs st off = 0 ∧ askK id n st off = 0 ∧ askZ id n zs st off = [] ∧ wayC id n st off = false) := ⟨if_neg hno, if_neg hno, if_neg hno, if_neg (fun h1 => hno h1.1), if_neg (fun h1 => hno h1.1), by simpa using hno⟩
    rw [Bool.not_eq_true] at hok
    rw [hok]
    clear hok hno
    have hrb := (HQ.out _ HB3.out).2.1
    have x0 := hrb.cell 0 rfl
    have x1 := hrb.cell 1 rfl
    have x2 := hrb.cell 2 rfl
    have f0 := hrb.frozen 0
    have f1 := hrb.frozen 1
    have f2 := hrb.frozen 2
    have HO : Hid (Owns (((W3.setCell ⟨w.heap.size + 1, 0, none⟩ (.int .i64 0)).setCell ⟨w.heap.size + 1, 1, none⟩ (.string ⟨#[]⟩)).setCell ⟨w.heap.size + 1, 2, none⟩ (.int .i64 0)) w.heap.size (some ⟨br + 1, 0, none⟩) 0 0 [] ∧ Below w.heap.size w (((W3.setCell ⟨w.heap.size + 1, 0, none⟩ (.int .i64 0)).setCell ⟨w.heap.size + 1, 1, none⟩ (.string ⟨#[]⟩)).setCell ⟨w.heap.size + 1, 2, none⟩ (.int .i64 0))) := by
      have hne : ((some ⟨br + 1, 0, none⟩) : Option Addr).map (·.block) ≠ some (w.heap.size + 1) := by simp; omega
      refine ⟨(owns_set (owns_set (owns_set HOR3.out hne) hne) hne).low (by omega), ?_⟩
      repeat (refine Below.setCell ?_ (by dsimp only; omega) _)
      exact (HQ.out _ HB3.out).2.2.2
    clear hrb
    go_wp2_with fail
    refine bodyPost_ret (v := .tuple #[.agg #[.int .i64 0, .string ⟨#[]⟩, .int .i64 0], .slice (some ⟨br + 1, 0, none⟩) 0 0, .bool false]) (by simp [results, Try.f7, go_sem, x0, x1, x2]) rfl ?_
    obtain ⟨e1, e2, e3, e4, e5, e6⟩ := HF.out
    rw [e1, e2, e3, e4, e5, e6]
    exact ⟨⟨_, _, rfl, HO.out.1⟩, HO.out.2⟩
  have HOC : Hid (okC id n st off = true) := hok
  have HOKF : Hid (n ≤ 400 ∧ 0 ≤ off ∧ off ≤ (n : Int)) := by have h := okC_iff.1 hok; exact ⟨h.2.1, h.2.2.2⟩
  have h16 := (okC_iff.1 hok).2.2.1
  rw [hok]
  clear hok
  have c0 := (HQ.out _ HB3.out).1.cell 0 rfl
  have c1 := (HQ.out _ HB3.out).1.cell 1 rfl
  have c2 := (HQ.out _ HB3.out).1.cell 2 rfl
  have c3 := (HQ.out _ HB3.out).1.cell 3 rfl
  have d0 := HBR3.out.cell 0 rfl
  have d1 := HBR3.out.cell 1 rfl
  have d2 := HBR3.out.cell 2 rfl
  have e0 := HBR3.out.frozen 0
  have e1 := HBR3.out.frozen 1
  have e2 := HBR3.out.frozen 2
  by_cases hfin : st = 5 ∨ st = 6
  case pos =>
    have hno : ¬ wayC id n st off = true := fun h => by have := wayC_iff.1 h; omega
    have HF : Hid (askOp id n st off = 0 ∧ askI id n st off = ⟨#[]⟩ ∧ askN id n zs st off = 0 ∧ askK id n st off = 0 ∧ askZ id n zs st off = [] ∧ wayC id n st off = false) := ⟨if_neg hno, if_neg hno, if_neg hno, if_neg (fun h1 => hno h1.1), if_neg (fun h1 => hno h1.1), by simpa using hno⟩
    have n1 : (st == 1) = false := by simp; omega
    have n2 : (st == 2) = false := by simp; omega
    have n3 : (st == 3) = false := by simp; omega
    have n4 : (st == 4) = false := by simp; omega
    clear hfin hno h16
    have hrb := (HQ.out _ HB3.out).2.1
    have x0 := hrb.cell 0 rfl
    have x1 := hrb.cell 1 rfl
    have x2 := hrb.cell 2 rfl
    have f0 := hrb.frozen 0
    have f1 := hrb.frozen 1
    have f2 := hrb.frozen 2
    have HO : Hid (Owns (((W3.setCell ⟨w.heap.size + 1, 0, none⟩ (.int .i64 0)).setCell ⟨w.heap.size + 1, 1, none⟩ (.string ⟨#[]⟩)).setCell ⟨w.heap.size + 1, 2, none⟩ (.int .i64 0)) w.heap.size (some ⟨br + 1, 0, none⟩) 0 0 [] ∧ Below w.heap.size w (((W3.setCell ⟨w.heap.size + 1, 0, none⟩ (.int .i64 0)).setCell ⟨w.heap.size + 1, 1, none⟩ (.string ⟨#[]⟩)).setCell ⟨w.heap.size + 1, 2, none⟩ (.int .i64 0))) := by
      have hne : ((some ⟨br + 1, 0, none⟩) : Option Addr).map (·.block) ≠ some (w.heap.size + 1) := by simp; omega
      refine ⟨(owns_set (owns_set (owns_set HOR3.out hne) hne) hne).low (by omega), ?_⟩
      repeat (refine Below.setCell ?_ (by dsimp only; omega) _)
      exact (HQ.out _ HB3.out).2.2.2
    clear hrb
    go_wp2_with fail
    refine bodyPost_ret (v := .tuple #[.agg #[.int .i64 0, .string ⟨#[]⟩, .int .i64 0], .slice (some ⟨br + 1, 0, none⟩) 0 0, .bool false]) (by simp [results, Try.f7, go_sem, x0, x1, x2]) rfl ?_
    obtain ⟨e1, e2, e3, e4, e5, e6⟩ := HF.out
    rw [e1, e2, e3, e4, e5, e6]
    exact ⟨⟨_, _, rfl, HO.out.1⟩, HO.out.2⟩
  have HOK : Hid (wayC id n st off = true) := wayC_iff.2 ⟨HOC.out, by omega, by omega⟩
  have HST : Hid (st = 1 ∨ st = 2 ∨ st = 3 ∨ st = 4) := wayC_step HOK.out
  clear hfin h16 HOC
  rcases HST.out with rfl | rfl | rfl | rfl
  · have HF : Hid (askOp id n 1 off = 1 ∧ askI id n 1 off = id ∧ askN id n zs 1 off = (n : Int) ∧ askK id n 1 off = 0 ∧ askZ id n zs 1 off = [] ∧ wayC id n 1 off = true) := ⟨if_pos HOK.out, if_pos HOK.out, by rw [askN, if_pos HOK.out]; rfl, if_neg (by simp), if_neg (by simp), HOK.out⟩
    have HNE : Hid (((some ⟨br + 1, 0, none⟩) : Option Addr).map (·.block) ≠ some (w.heap.size + 1)) := by show _ ≠ _; simp; omega
    have HNG : Hid (((some ⟨br + 1, 0, none⟩) : Option Addr).map (·.block) ≠ some br) := by show _ ≠ _; simp
    have HBS := HBR3.out
    have HQS := (HQ.out _ HB3.out).2.1
    obtain ⟨X, hX⟩ : ∃ X, (W3.setCell ⟨br, 0, none⟩ (.int .i64 1)).setCell ⟨br, 2, none⟩ (.int .i64 (n : Int)) = X := ⟨_, rfl⟩
    have hXr : BoxN X br 27 [.int .i64 1, .string id, .int .i64 (n : Int)] := by
      rw [← hX]
      exact (HBS.set 0 _).set 2 _
    have hXo : Owns X w.heap.size (some ⟨br + 1, 0, none⟩) 0 0 [] := by
      rw [← hX]
      exact (owns_set (owns_set HOR3.out HNG.out) HNG.out).low (by omega)
    have hXb : Below w.heap.size w X := by
      rw [← hX]
      repeat (refine Below.setCell ?_ (by dsimp only; omega) _)
      exact (HQ.out _ HB3.out).2.2.2
    have hXq : BoxN X (w.heap.size + 1) 27 [.int .i64 0, .string ⟨#[]⟩, .int .i64 0] := by
      rw [← hX]
      exact (HQS.other (by omega) _).other (by omega) _
    have HXX : Hid (_ = X) := hX
    have HX4 : Hid (BoxN X br 27 [.int .i64 1, .string id, .int .i64 (n : Int)] ∧ Owns X w.heap.size (some ⟨br + 1, 0, none⟩) 0 0 [] ∧ Below w.heap.size w X ∧ BoxN X (w.heap.size + 1) 27 [.int .i64 0, .string ⟨#[]⟩, .int .i64 0]) := ⟨hXr, hXo, hXb, hXq⟩
    clear hX hXr hXo hXb hXq HBS HQS
    go_upto_region 22 with fail
    rw [HXX.out]
    clear HXX
    first
      | clear c0 c1 c2 c3 d0 d1 d2 e0 e1 e2
      | skip
    have d0 := HX4.out.1.cell 0 rfl
    have d1 := HX4.out.1.cell 1 rfl
    have d2 := HX4.out.1.cell 2 rfl
    have x0 := HX4.out.2.2.2.cell 0 rfl
    have x1 := HX4.out.2.2.2.cell 1 rfl
    have x2 := HX4.out.2.2.2.cell 2 rfl
    have f0 := HX4.out.2.2.2.frozen 0
    have f1 := HX4.out.2.2.2.frozen 1
    have f2 := HX4.out.2.2.2.frozen 2
    have hne : ((some ⟨br + 1, 0, none⟩) : Option Addr).map (·.block) ≠ some (w.heap.size + 1) := HNE.out
    have HO : Hid (Owns (((X.setCell ⟨w.heap.size + 1, 0, none⟩ (.int .i64 1)).setCell ⟨w.heap.size + 1, 1, none⟩ (.string id)).setCell ⟨w.heap.size + 1, 2, none⟩ (.int .i64 (n : Int))) w.heap.size (some ⟨br + 1, 0, none⟩) 0 0 [] ∧ Below w.heap.size w (((X.setCell ⟨w.heap.size + 1, 0, none⟩ (.int .i64 1)).setCell ⟨w.heap.size + 1, 1, none⟩ (.string id)).setCell ⟨w.heap.size + 1, 2, none⟩ (.int .i64 (n : Int)))) := by
      refine ⟨owns_set (owns_set (owns_set HX4.out.2.1 hne) hne) hne, ?_⟩
      repeat (refine Below.setCell ?_ (by dsimp only; omega) _)
      exact HX4.out.2.2.1
    clear HX4 hne HNE
    go_wp2_with fail
    refine bodyPost_ret (v := .tuple #[.agg #[.int .i64 1, .string id, .int .i64 (n : Int)], .slice (some ⟨br + 1, 0, none⟩) 0 0, .bool true]) (by simp [results, Try.f7, go_sem, x0, x1, x2]) rfl ?_
    obtain ⟨e1, e2, e3, e4, e5, e6⟩ := HF.out
    rw [e1, e2, e3, e4, e5, e6]
    exact ⟨⟨_, _, rfl, HO.out.1⟩, HO.out.2⟩
  · have HF : Hid (askOp id n 2 off = 2 ∧ askI id n 2 off = id ∧ askN id n zs 2 off = 0 ∧ askK id n 2 off = 0 ∧ askZ id n zs 2 off = [] ∧ wayC id n 2 off = true) := ⟨if_pos HOK.out, if_pos HOK.out, by rw [askN, if_pos HOK.out]; rfl, if_neg (by simp), if_neg (by simp), HOK.out⟩
    have HNE : Hid (((some ⟨br + 1, 0, none⟩) : Option Addr).map (·.block) ≠ some (w.heap.size + 1)) := by show _ ≠ _; simp; omega
    have HNG : Hid (((some ⟨br + 1, 0, none⟩) : Option Addr).map (·.block) ≠ some br) := by show _ ≠ _; simp
    have HBS := HBR3.out
    have HQS := (HQ.out _ HB3.out).2.1
    obtain ⟨X, hX⟩ : ∃ X, W3.setCell ⟨br, 0, none⟩ (.int .i64 2) = X := ⟨_, rfl⟩
    have hXr : BoxN X br 27 [.int .i64 2, .string id, .int .i64 0] := by
      rw [← hX]
      exact HBS.set 0 _
    have hXo : Owns X w.heap.size (some ⟨br + 1, 0, none⟩) 0 0 [] := by
      rw [← hX]
      exact (owns_set HOR3.out HNG.out).low (by omega)
    have hXb : Below w.heap.size w X := by
      rw [← hX]
      repeat (refine Below.setCell ?_ (by dsimp only; omega) _)
      exact (HQ.out _ HB3.out).2.2.2
    have hXq : BoxN X (w.heap.size + 1) 27 [.int .i64 0, .string ⟨#[]⟩, .int .i64 0] := by
      rw [← hX]
      exact HQS.other (by omega) _
    have HXX : Hid (_ = X) := hX
    have HX4 : Hid (BoxN X br 27 [.int .i64 2, .string id, .int .i64 0] ∧ Owns X w.heap.size (some ⟨br + 1, 0, none⟩) 0 0 [] ∧ Below w.heap.size w X ∧ BoxN X (w.heap.size + 1) 27 [.int .i64 0, .string ⟨#[]⟩, .int .i64 0]) := ⟨hXr, hXo, hXb, hXq⟩
    clear hX hXr hXo hXb hXq HBS HQS
    go_upto_region 22 with fail
    rw [HXX.out]
    clear HXX
    first
      | clear c0 c1 c2 c3 d0 d1 d2 e0 e1 e2
      | skip
    have d0 := HX4.out.1.cell 0 rfl
    have d1 := HX4.out.1.cell 1 rfl
    have d2 := HX4.out.1.cell 2 rfl
    have x0 := HX4.out.2.2.2.cell 0 rfl
    have x1 := HX4.out.2.2.2.cell 1 rfl
    have x2 := HX4.out.2.2.2.cell 2 rfl
    have f0 := HX4.out.2.2.2.frozen 0
    have f1 := HX4.out.2.2.2.frozen 1
    have f2 := HX4.out.2.2.2.frozen 2
    have hne : ((some ⟨br + 1, 0, none⟩) : Option Addr).map (·.block) ≠ some (w.heap.size + 1) := HNE.out
    have HO : Hid (Owns (((X.setCell ⟨w.heap.size + 1, 0, none⟩ (.int .i64 2)).setCell ⟨w.heap.size + 1, 1, none⟩ (.string id)).setCell ⟨w.heap.size + 1, 2, none⟩ (.int .i64 0)) w.heap.size (some ⟨br + 1, 0, none⟩) 0 0 [] ∧ Below w.heap.size w (((X.setCell ⟨w.heap.size + 1, 0, none⟩ (.int .i64 2)).setCell ⟨w.heap.size + 1, 1, none⟩ (.string id)).setCell ⟨w.heap.size + 1, 2, none⟩ (.int .i64 0))) := by
      refine ⟨owns_set (owns_set (owns_set HX4.out.2.1 hne) hne) hne, ?_⟩
      repeat (refine Below.setCell ?_ (by dsimp only; omega) _)
      exact HX4.out.2.2.1
    clear HX4 hne HNE
    go_wp2_with fail
    refine bodyPost_ret (v := .tuple #[.agg #[.int .i64 2, .string id, .int .i64 0], .slice (some ⟨br + 1, 0, none⟩) 0 0, .bool true]) (by simp [results, Try.f7, go_sem, x0, x1, x2]) rfl ?_
    obtain ⟨e1, e2, e3, e4, e5, e6⟩ := HF.out
    rw [e1, e2, e3, e4, e5, e6]
    exact ⟨⟨_, _, rfl, HO.out.1⟩, HO.out.2⟩
  · obtain ⟨h4, h5, h6⟩ := HOKF.out
    obtain ⟨f, rfl⟩ : ∃ f : Nat, off = (f : Int) := ⟨off.toNat, by omega⟩
    obtain ⟨b, o, rfl, hca⟩ := HAd.out HOK.out rfl
    have hfn : f ≤ n := by omega
    have HF : Hid (askOp id n 3 (f : Int) = 3 ∧ askI id n 3 (f : Int) = id ∧ askN id n zs 3 (f : Int) = (f : Int) ∧ askK id n 3 (f : Int) = (pieceK n f) ∧ askZ id n zs 3 (f : Int) = (pieceC zs f) ∧ wayC id n 3 (f : Int) = true) := ⟨if_pos HOK.out, if_pos HOK.out, by rw [askN, if_pos HOK.out]; rfl, if_pos ⟨HOK.out, rfl⟩, if_pos ⟨HOK.out, rfl⟩, HOK.out⟩
    have HNE : Hid (((some ⟨br + 1, 0, none⟩) : Option Addr).map (·.block) ≠ some (w.heap.size + 1)) := by show _ ≠ _; simp; omega
    have HNG : Hid (((some ⟨br + 1, 0, none⟩) : Option Addr).map (·.block) ≠ some br) := by show _ ≠ _; simp
    have HBS := HBR3.out
    have HQS := (HQ.out _ HB3.out).2.1
    obtain ⟨Y, hY⟩ : ∃ Y, (W3.setCell ⟨br, 0, none⟩ (.int .i64 3)).setCell ⟨br, 2, none⟩ (.int .i64 (f : Int)) = Y := ⟨_, rfl⟩
    have hYr : BoxN Y br 27 [.int .i64 3, .string id, .int .i64 (f : Int)] := by
      rw [← hY]
      exact (HBS.set 0 _).set 2 _
    have hYo : Owns Y (br + 1) (some ⟨br + 1, 0, none⟩) 0 0 [] := by
      rw [← hY]
      exact owns_set (owns_set HOR3.out HNG.out) HNG.out
    have hYb : Below w0.heap.size w0 Y := by
      rw [← hY]
      repeat (refine Below.setCell ?_ (by dsimp only; omega) _)
      exact HB3.out
    have HYY : Hid (_ = Y) := hY
    have HYr : Hid (BoxN Y br 27 [.int .i64 3, .string id, .int .i64 (f : Int)]) := hYr
    have HYb : Hid (Below w0.heap.size w0 Y) := hYb
    have HYo : Hid (Owns Y (br + 1) (some ⟨br + 1, 0, none⟩) 0 0 []) := hYo
    obtain ⟨t, ht⟩ : ∃ t, f + pieceK n f = t := ⟨_, rfl⟩
    have hk : pieceK n f = min 24 (n - f) := rfl
    have t1 : f ≤ t := by omega
    have t2 : t ≤ n := by omega
    have t3 : t ≤ ca := by omega
    have hpc : (zs.drop f).take (t - f) = pieceC zs f := by
      show _ = (zs.drop (f : Int).toNat).take 24
      rw [Int.toNat_natCast]
      by_cases h5 : 24 ≤ n - f
      · rw [show t - f = 24 by omega]
      · have hl : (zs.drop f).length = n - f := by rw [List.length_drop, HS.out.1]
        rw [List.take_of_length_le (by omega), List.take_of_length_le (by omega)]
    have HC : Hid (∀ W o', Below w.heap.size w W → (o' = o + f ∨ t - f = 0) → Seg W (some ⟨b, o', none⟩) (t - f) (pieceC zs f)) := fun W o' hb ho => by
      have h := seg_cut (HS.out.below hb) f (t - f) o' (by omega) ho
      rw [hpc] at h
      exact h
    have HT : Hid (t - f = pieceK n f) := by show _ = _; omega
    clear hY hYr hYb hYo HBS HQS hpc hk ht
    go_upto_region 15 with fail
    rw [HYY.out]
    clear HYY c0 c1 c2 c3 d0 d1 d2 e0 e1 e2
    have c0 := (HQ.out _ HYb.out).1.cell 0 rfl
    have c1 := (HQ.out _ HYb.out).1.cell 1 rfl
    have c2 := (HQ.out _ HYb.out).1.cell 2 rfl
    have c3 := (HQ.out _ HYb.out).1.cell 3 rfl
    have hbound : br + 1 ≤ Y.heap.size := by have h8 : br + 1 < Y.heap.size := (HYo.out.lt _ rfl).2; omega
    have HN : Hid ((pieceC zs f).length = t - f) := by show _ = _; rw [pieceC_len HS.out.1, HT.out]
    by_cases hbig : f + 24 ≤ n
    · have e24 : (f : Int) + 24 = (t : Int) := by have := HT.out; have h8 : pieceK n f = min 24 (n - f) := rfl; omega
      have hb1 : ¬ (t : Int) > (n : Int) := by omega
      clear hbig
      go_wp2_with (first | (refine wpList_plain rfl fun K hK => ?_; refine wp_append_src (.tmp 48) (.tmp 54) 22 rfl (br + 1) 5 i0 (.int .u8 0) 1 1 Try.underlying22 hi0 hy0 hy1 hy2 rfl (by decide) (br + 1) 0 0 [] rfl HYo.out.1 (some ⟨b, o + f, none⟩) (t - f) (ca - f) ((pieceC zs f).map (Value.int .u8)) rfl (by intro h; cases h) (by simp [HN.out]) (seg_src (HC.out Y _ (HQ.out _ HYb.out).2.2.2 (by first | exact .inl rfl | exact .inr (by omega)))) (ints_one _) (by unfold maxLen; omega) (by omega) hbound ?_; intro v4 W4 hown4 hgrow4; obtain ⟨a4, k4, rfl⟩ := shape_of_owns hown4; refine Hid.out ?_) | (refine wpList_plain rfl fun K hK => ?_; refine wp_append_src (.tmp 48) (.tmp 54) 22 rfl (br + 1) 5 i0 (.int .u8 0) 1 1 Try.underlying22 hi0 hy0 hy1 hy2 rfl (by decide) (br + 1) 0 0 [] rfl HYo.out.1 (some ⟨b, o, none⟩) (t - f) (ca - f) ((pieceC zs f).map (Value.int .u8)) rfl (by intro h; cases h) (by simp [HN.out]) (seg_src (HC.out Y _ (HQ.out _ HYb.out).2.2.2 (by first | exact .inl rfl | exact .inr (by omega)))) (ints_one _) (by unfold maxLen; omega) (by omega) hbound ?_; intro v4 W4 hown4 hgrow4; obtain ⟨a4, k4, rfl⟩ := shape_of_owns hown4; refine Hid.out ?_) | fail)
      all_goals
        refine hidden ?_
        have HX4 : Hid (BoxN W4 br 27 [.int .i64 3, .string id, .int .i64 (f : Int)] ∧ Owns W4 w.heap.size a4 (t - f) k4 (pieceC zs f) ∧ Below w.heap.size w W4 ∧ BoxN W4 (w.heap.size + 1) 27 [.int .i64 0, .string ⟨#[]⟩, .int .i64 0]) := by
          have hq := HQ.out _ HYb.out
          refine ⟨HYr.out.grown hgrow4 (by simp), ?_, hq.2.2.2.grown hgrow4 hq.2.2.2.size (fun q e => by injection e with e; omega), hq.2.1.grown hgrow4 (by simp; omega)⟩
          have h9 : Owns W4 (br + 1) a4 (t - f) k4 (pieceC zs f) := ⟨by rw [Nat.zero_add] at hown4; simpa using hown4, HC.out Y (o + f) hq.2.2.2 (.inl rfl) |>.2.1⟩
          exact h9.low (by omega)
        have HNE : Hid (a4.map (·.block) ≠ some (w.heap.size + 1)) := fun e => by
          have h9 := hown4.lt (w.heap.size + 1) (by rw [ownBlock_of]; exact e)
          omega
        clear hown4 hgrow4 HYr HYb HYo HC HN c0 c1 c2 c3 hbound
        go_upto_region 22 with fail
        obtain ⟨pk, hpk⟩ : ∃ pk, t - f = pk := ⟨_, rfl⟩
        have HPK : Hid (pieceK n f = pk) := by show _ = _; rw [← HT.out]; exact hpk
        rw [hpk] at HX4 ⊢
        clear hpk
        have d0 := HX4.out.1.cell 0 rfl
        have d1 := HX4.out.1.cell 1 rfl
        have d2 := HX4.out.1.cell 2 rfl
        have x0 := HX4.out.2.2.2.cell 0 rfl
        have x1 := HX4.out.2.2.2.cell 1 rfl
        have x2 := HX4.out.2.2.2.cell 2 rfl
        have f0 := HX4.out.2.2.2.frozen 0
        have f1 := HX4.out.2.2.2.frozen 1
        have f2 := HX4.out.2.2.2.frozen 2
        have hne : (a4 : Option Addr).map (·.block) ≠ some (w.heap.size + 1) := HNE.out
        have HO : Hid (Owns (((W4.setCell ⟨w.heap.size + 1, 0, none⟩ (.int .i64 3)).setCell ⟨w.heap.size + 1, 1, none⟩ (.string id)).setCell ⟨w.heap.size + 1, 2, none⟩ (.int .i64 (f : Int))) w.heap.size a4 pk k4 (pieceC zs f) ∧ Below w.heap.size w (((W4.setCell ⟨w.heap.size + 1, 0, none⟩ (.int .i64 3)).setCell ⟨w.heap.size + 1, 1, none⟩ (.string id)).setCell ⟨w.heap.size + 1, 2, none⟩ (.int .i64 (f : Int)))) := by
          refine ⟨owns_set (owns_set (owns_set HX4.out.2.1 hne) hne) hne, ?_⟩
          repeat (refine Below.setCell ?_ (by dsimp only; omega) _)
          exact HX4.out.2.2.1
        clear HX4 hne HNE
        go_wp2_with fail
        refine bodyPost_ret (v := .tuple #[.agg #[.int .i64 3, .string id, .int .i64 (f : Int)], .slice a4 pk k4, .bool true]) (by simp [results, Try.f7, go_sem, x0, x1, x2]) rfl ?_
        obtain ⟨e1, e2, e3, e4, e5, e6⟩ := HF.out
        rw [e1, e2, e3, e4, e5, e6, HPK.out]
        exact ⟨⟨_, _, rfl, HO.out.1⟩, HO.out.2⟩
    · obtain ⟨u, hu⟩ : ∃ u, f + 24 = u := ⟨_, rfl⟩
      have e24 : (f : Int) + 24 = (u : Int) := by omega
      have hb1 : (u : Int) > (n : Int) := by omega
      have hu2 : u ≤ 424 := by omega
      clear hu
      obtain rfl : t = n := by have := HT.out; have h8 : pieceK n f = min 24 (n - f) := rfl; omega
      clear hbig
      by_cases hfe : f < t
      · have hfc : f < ca := by omega
        go_wp2_with (first | (refine wpList_plain rfl fun K hK => ?_; refine wp_append_src (.tmp 48) (.tmp 54) 22 rfl (br + 1) 5 i0 (.int .u8 0) 1 1 Try.underlying22 hi0 hy0 hy1 hy2 rfl (by decide) (br + 1) 0 0 [] rfl HYo.out.1 (some ⟨b, o + f, none⟩) (t - f) (ca - f) ((pieceC zs f).map (Value.int .u8)) rfl (by intro h; cases h) (by simp [HN.out]) (seg_src (HC.out Y _ (HQ.out _ HYb.out).2.2.2 (by first | exact .inl rfl | exact .inr (by omega)))) (ints_one _) (by unfold maxLen; omega) (by omega) hbound ?_; intro v4 W4 hown4 hgrow4; obtain ⟨a4, k4, rfl⟩ := shape_of_owns hown4; refine Hid.out ?_) | (refine wpList_plain rfl fun K hK => ?_; refine wp_append_src (.tmp 48) (.tmp 54) 22 rfl (br + 1) 5 i0 (.int .u8 0) 1 1 Try.underlying22 hi0 hy0 hy1 hy2 rfl (by decide) (br + 1) 0 0 [] rfl HYo.out.1 (some ⟨b, o, none⟩) (t - f) (ca - f) ((pieceC zs f).map (Value.int .u8)) rfl (by intro h; cases h) (by simp [HN.out]) (seg_src (HC.out Y _ (HQ.out _ HYb.out).2.2.2 (by first | exact .inl rfl | exact .inr (by omega)))) (ints_one _) (by unfold maxLen; omega) (by omega) hbound ?_; intro v4 W4 hown4 hgrow4; obtain ⟨a4, k4, rfl⟩ := shape_of_owns hown4; refine Hid.out ?_) | fail)
        all_goals
          refine hidden ?_
          have HX4 : Hid (BoxN W4 br 27 [.int .i64 3, .string id, .int .i64 (f : Int)] ∧ Owns W4 w.heap.size a4 (t - f) k4 (pieceC zs f) ∧ Below w.heap.size w W4 ∧ BoxN W4 (w.heap.size + 1) 27 [.int .i64 0, .string ⟨#[]⟩, .int .i64 0]) := by
            have hq := HQ.out _ HYb.out
            refine ⟨HYr.out.grown hgrow4 (by simp), ?_, hq.2.2.2.grown hgrow4 hq.2.2.2.size (fun q e => by injection e with e; omega), hq.2.1.grown hgrow4 (by simp; omega)⟩
            have h9 : Owns W4 (br + 1) a4 (t - f) k4 (pieceC zs f) := ⟨by rw [Nat.zero_add] at hown4; simpa using hown4, HC.out Y (o + f) hq.2.2.2 (.inl rfl) |>.2.1⟩
            exact h9.low (by omega)
          have HNE : Hid (a4.map (·.block) ≠ some (w.heap.size + 1)) := fun e => by
            have h9 := hown4.lt (w.heap.size + 1) (by rw [ownBlock_of]; exact e)
            omega
          clear hown4 hgrow4 HYr HYb HYo HC HN c0 c1 c2 c3 hbound
          go_upto_region 22 with fail
          obtain ⟨pk, hpk⟩ : ∃ pk, t - f = pk := ⟨_, rfl⟩
          have HPK : Hid (pieceK t f = pk) := by show _ = _; rw [← HT.out]; exact hpk
          rw [hpk] at HX4 ⊢
          clear hpk
          have d0 := HX4.out.1.cell 0 rfl
          have d1 := HX4.out.1.cell 1 rfl
          have d2 := HX4.out.1.cell 2 rfl
          have x0 := HX4.out.2.2.2.cell 0 rfl
          have x1 := HX4.out.2.2.2.cell 1 rfl
          have x2 := HX4.out.2.2.2.cell 2 rfl
          have f0 := HX4.out.2.2.2.frozen 0
          have f1 := HX4.out.2.2.2.frozen 1
          have f2 := HX4.out.2.2.2.frozen 2
          have hne : (a4 : Option Addr).map (·.block) ≠ some (w.heap.size + 1) := HNE.out
          have HO : Hid (Owns (((W4.setCell ⟨w.heap.size + 1, 0, none⟩ (.int .i64 3)).setCell ⟨w.heap.size + 1, 1, none⟩ (.string id)).setCell ⟨w.heap.size + 1, 2, none⟩ (.int .i64 (f : Int))) w.heap.size a4 pk k4 (pieceC zs f) ∧ Below w.heap.size w (((W4.setCell ⟨w.heap.size + 1, 0, none⟩ (.int .i64 3)).setCell ⟨w.heap.size + 1, 1, none⟩ (.string id)).setCell ⟨w.heap.size + 1, 2, none⟩ (.int .i64 (f : Int)))) := by
            refine ⟨owns_set (owns_set (owns_set HX4.out.2.1 hne) hne) hne, ?_⟩
            repeat (refine Below.setCell ?_ (by dsimp only; omega) _)
            exact HX4.out.2.2.1
          clear HX4 hne HNE
          go_wp2_with fail
          refine bodyPost_ret (v := .tuple #[.agg #[.int .i64 3, .string id, .int .i64 (f : Int)], .slice a4 pk k4, .bool true]) (by simp [results, Try.f7, go_sem, x0, x1, x2]) rfl ?_
          obtain ⟨e1, e2, e3, e4, e5, e6⟩ := HF.out
          rw [e1, e2, e3, e4, e5, e6, HPK.out]
          exact ⟨⟨_, _, rfl, HO.out.1⟩, HO.out.2⟩
      · obtain rfl : f = t := by omega
        have hpl : pieceC zs f = [] := List.eq_nil_of_length_eq_zero (by rw [HN.out]; omega)
        have HPK : Hid (pieceK f f = 0) := by show _ = _; rw [← HT.out]; omega
        have HPL : Hid (pieceC zs f = []) := hpl
        have HY0 : Hid (∀ o', Seg Y (some ⟨b, o', none⟩) 0 []) := fun o' => ⟨rfl, by simp, .inl rfl⟩
        clear hpl hfe
        by_cases hfc : f < ca
        · go_wp2_with (first | (refine wpList_plain rfl fun K hK => ?_; refine wp_append_src (.tmp 48) (.tmp 54) 22 rfl (br + 1) 5 i0 (.int .u8 0) 1 1 Try.underlying22 hi0 hy0 hy1 hy2 rfl (by decide) (br + 1) 0 0 [] rfl HYo.out.1 (some ⟨b, o + f, none⟩) 0 (ca - f) (([] : List Int).map (Value.int .u8)) rfl (by intro h; cases h) rfl (seg_src (HY0.out _)) (ints_one _) (by unfold maxLen; omega) (by omega) hbound ?_; intro v4 W4 hown4 hgrow4; obtain ⟨a4, k4, rfl⟩ := shape_of_owns hown4; refine Hid.out ?_) | fail)
          all_goals
            refine hidden ?_
            have HX4 : Hid (BoxN W4 br 27 [.int .i64 3, .string id, .int .i64 (f : Int)] ∧ Owns W4 w.heap.size a4 0 k4 [] ∧ Below w.heap.size w W4 ∧ BoxN W4 (w.heap.size + 1) 27 [.int .i64 0, .string ⟨#[]⟩, .int .i64 0]) := by
              have hq := HQ.out _ HYb.out
              refine ⟨HYr.out.grown hgrow4 (by simp), ?_, hq.2.2.2.grown hgrow4 hq.2.2.2.size (fun q e => by injection e with e; omega), hq.2.1.grown hgrow4 (by simp; omega)⟩
              have h9 : Owns W4 (br + 1) a4 0 k4 [] := ⟨by simpa using hown4, by simp⟩
              exact h9.low (by omega)
            have HNE : Hid (a4.map (·.block) ≠ some (w.heap.size + 1)) := fun e => by
              have h9 := hown4.lt (w.heap.size + 1) (by rw [ownBlock_of]; exact e)
              omega
            clear hown4 hgrow4 HYr HYb HYo HC HN c0 c1 c2 c3 hbound
            go_upto_region 22 with fail
            have d0 := HX4.out.1.cell 0 rfl
            have d1 := HX4.out.1.cell 1 rfl
            have d2 := HX4.out.1.cell 2 rfl
            have x0 := HX4.out.2.2.2.cell 0 rfl
            have x1 := HX4.out.2.2.2.cell 1 rfl
            have x2 := HX4.out.2.2.2.cell 2 rfl
            have f0 := HX4.out.2.2.2.frozen 0
            have f1 := HX4.out.2.2.2.frozen 1
            have f2 := HX4.out.2.2.2.frozen 2
            have hne : (a4 : Option Addr).map (·.block) ≠ some (w.heap.size + 1) := HNE.out
            have HO : Hid (Owns (((W4.setCell ⟨w.heap.size + 1, 0, none⟩ (.int .i64 3)).setCell ⟨w.heap.size + 1, 1, none⟩ (.string id)).setCell ⟨w.heap.size + 1, 2, none⟩ (.int .i64 (f : Int))) w.heap.size a4 0 k4 [] ∧ Below w.heap.size w (((W4.setCell ⟨w.heap.size + 1, 0, none⟩ (.int .i64 3)).setCell ⟨w.heap.size + 1, 1, none⟩ (.string id)).setCell ⟨w.heap.size + 1, 2, none⟩ (.int .i64 (f : Int)))) := by
              refine ⟨owns_set (owns_set (owns_set HX4.out.2.1 hne) hne) hne, ?_⟩
              repeat (refine Below.setCell ?_ (by dsimp only; omega) _)
              exact HX4.out.2.2.1
            clear HX4 hne HNE
            go_wp2_with fail
            refine bodyPost_ret (v := .tuple #[.agg #[.int .i64 3, .string id, .int .i64 (f : Int)], .slice a4 0 k4, .bool true]) (by simp [results, Try.f7, go_sem, x0, x1, x2]) rfl ?_
            obtain ⟨e1, e2, e3, e4, e5, e6⟩ := HF.out
            rw [e1, e2, e3, e4, e5, e6, HPK.out, HPL.out]
            exact ⟨⟨_, _, rfl, HO.out.1⟩, HO.out.2⟩
        · obtain rfl : ca = f := by omega
          go_wp2_with (first | (refine wpList_plain rfl fun K hK => ?_; refine wp_append_src (.tmp 48) (.tmp 54) 22 rfl (br + 1) 5 i0 (.int .u8 0) 1 1 Try.underlying22 hi0 hy0 hy1 hy2 rfl (by decide) (br + 1) 0 0 [] rfl HYo.out.1 (some ⟨b, o, none⟩) 0 (0) (([] : List Int).map (Value.int .u8)) rfl (by intro h; cases h) rfl (seg_src (HY0.out _)) (ints_one _) (by unfold maxLen; omega) (by omega) hbound ?_; intro v4 W4 hown4 hgrow4; obtain ⟨a4, k4, rfl⟩ := shape_of_owns hown4; refine Hid.out ?_) | (refine wpList_plain rfl fun K hK => ?_; refine wp_append_src (.tmp 48) (.tmp 54) 22 rfl (br + 1) 5 i0 (.int .u8 0) 1 1 Try.underlying22 hi0 hy0 hy1 hy2 rfl (by decide) (br + 1) 0 0 [] rfl HYo.out.1 (some ⟨b, o + ca, none⟩) 0 (0) (([] : List Int).map (Value.int .u8)) rfl (by intro h; cases h) rfl (seg_src (HY0.out _)) (ints_one _) (by unfold maxLen; omega) (by omega) hbound ?_; intro v4 W4 hown4 hgrow4; obtain ⟨a4, k4, rfl⟩ := shape_of_owns hown4; refine Hid.out ?_) | (refine wpList_plain rfl fun K hK => ?_; refine wp_append_src (.tmp 48) (.tmp 54) 22 rfl (br + 1) 5 i0 (.int .u8 0) 1 1 Try.underlying22 hi0 hy0 hy1 hy2 rfl (by decide) (br + 1) 0 0 [] rfl HYo.out.1 (some ⟨b, o, none⟩) 0 (ca - ca) (([] : List Int).map (Value.int .u8)) rfl (by intro h; cases h) rfl (seg_src (HY0.out _)) (ints_one _) (by unfold maxLen; omega) (by omega) hbound ?_; intro v4 W4 hown4 hgrow4; obtain ⟨a4, k4, rfl⟩ := shape_of_owns hown4; refine Hid.out ?_) | (refine wpList_plain rfl fun K hK => ?_; refine wp_append_src (.tmp 48) (.tmp 54) 22 rfl (br + 1) 5 i0 (.int .u8 0) 1 1 Try.underlying22 hi0 hy0 hy1 hy2 rfl (by decide) (br + 1) 0 0 [] rfl HYo.out.1 (some ⟨b, o + ca, none⟩) 0 (ca - ca) (([] : List Int).map (Value.int .u8)) rfl (by intro h; cases h) rfl (seg_src (HY0.out _)) (ints_one _) (by unfold maxLen; omega) (by omega) hbound ?_; intro v4 W4 hown4 hgrow4; obtain ⟨a4, k4, rfl⟩ := shape_of_owns hown4; refine Hid.out ?_) | fail)
          all_goals
            refine hidden ?_
            have HX4 : Hid (BoxN W4 br 27 [.int .i64 3, .string id, .int .i64 (ca : Int)] ∧ Owns W4 w.heap.size a4 0 k4 [] ∧ Below w.heap.size w W4 ∧ BoxN W4 (w.heap.size + 1) 27 [.int .i64 0, .string ⟨#[]⟩, .int .i64 0]) := by
              have hq := HQ.out _ HYb.out
              refine ⟨HYr.out.grown hgrow4 (by simp), ?_, hq.2.2.2.grown hgrow4 hq.2.2.2.size (fun q e => by injection e with e; omega), hq.2.1.grown hgrow4 (by simp; omega)⟩
              have h9 : Owns W4 (br + 1) a4 0 k4 [] := ⟨by simpa using hown4, by simp⟩
              exact h9.low (by omega)
            have HNE : Hid (a4.map (·.block) ≠ some (w.heap.size + 1)) := fun e => by
              have h9 := hown4.lt (w.heap.size + 1) (by rw [ownBlock_of]; exact e)
              omega
            clear hown4 hgrow4 HYr HYb HYo HC HN c0 c1 c2 c3 hbound
            go_upto_region 22 with fail
            have d0 := HX4.out.1.cell 0 rfl
            have d1 := HX4.out.1.cell 1 rfl
            have d2 := HX4.out.1.cell 2 rfl
            have x0 := HX4.out.2.2.2.cell 0 rfl
            have x1 := HX4.out.2.2.2.cell 1 rfl
            have x2 := HX4.out.2.2.2.cell 2 rfl
            have f0 := HX4.out.2.2.2.frozen 0
            have f1 := HX4.out.2.2.2.frozen 1
            have f2 := HX4.out.2.2.2.frozen 2
            have hne : (a4 : Option Addr).map (·.block) ≠ some (w.heap.size + 1) := HNE.out
            have HO : Hid (Owns (((W4.setCell ⟨w.heap.size + 1, 0, none⟩ (.int .i64 3)).setCell ⟨w.heap.size + 1, 1, none⟩ (.string id)).setCell ⟨w.heap.size + 1, 2, none⟩ (.int .i64 (ca : Int))) w.heap.size a4 0 k4 [] ∧ Below w.heap.size w (((W4.setCell ⟨w.heap.size + 1, 0, none⟩ (.int .i64 3)).setCell ⟨w.heap.size + 1, 1, none⟩ (.string id)).setCell ⟨w.heap.size + 1, 2, none⟩ (.int .i64 (ca : Int)))) := by
              refine ⟨owns_set (owns_set (owns_set HX4.out.2.1 hne) hne) hne, ?_⟩
              repeat (refine Below.setCell ?_ (by dsimp only; omega) _)
              exact HX4.out.2.2.1
            clear HX4 hne HNE
            go_wp2_with fail
            refine bodyPost_ret (v := .tuple #[.agg #[.int .i64 3, .string id, .int .i64 (ca : Int)], .slice a4 0 k4, .bool true]) (by simp [results, Try.f7, go_sem, x0, x1, x2]) rfl ?_
            obtain ⟨e1, e2, e3, e4, e5, e6⟩ := HF.out
            rw [e1, e2, e3, e4, e5, e6, HPK.out, HPL.out]
            exact ⟨⟨_, _, rfl, HO.out.1⟩, HO.out.2⟩
  · have HF : Hid (askOp id n 4 off = 4 ∧ askI id n 4 off = id ∧ askN id n zs 4 off = ((crcL zs ^^^ 4294967295 : Nat) : Int) ∧ askK id n 4 off = 0 ∧ askZ id n zs 4 off = [] ∧ wayC id n 4 off = true) := ⟨if_pos HOK.out, if_pos HOK.out, by rw [askN, if_pos HOK.out]; rfl, if_neg (by simp), if_neg (by simp), HOK.out⟩
    obtain ⟨cz, hcz⟩ : ∃ cz, ((crcL zs ^^^ 4294967295 : Nat) : Int) = cz := ⟨_, rfl⟩
    rw [hcz] at HF
    have HNE : Hid (((some ⟨br + 1, 0, none⟩) : Option Addr).map (·.block) ≠ some (w.heap.size + 1)) := by show _ ≠ _; simp; omega
    have HNG : Hid (((some ⟨br + 1, 0, none⟩) : Option Addr).map (·.block) ≠ some br) := by show _ ≠ _; simp
    have HBS := HBR3.out
    have HQS := (HQ.out _ HB3.out).2.1
    obtain ⟨Y, hY⟩ : ∃ Y, W3.setCell ⟨br, 0, none⟩ (.int .i64 4) = Y := ⟨_, rfl⟩
    have HYb : Hid (Below w0.heap.size w0 Y) := by
      show Below _ _ _
      rw [← hY]
      exact HB3.out.setCell (by dsimp only; omega) _
    have HYY : Hid (_ = Y) := hY
    have HYr : Hid (BoxN Y br 27 [.int .i64 4, .string id, .int .i64 0]) := by show BoxN _ _ _ _; rw [← hY]; exact HBS.set 0 _
    clear hY
    go_upto_region 21 with fail
    rw [HYY.out]
    clear c0 c1 c2 c3 d0 d1 d2 e0 e1 e2
    have c0 := (HQ.out _ HYb.out).1.cell 0 rfl
    have c1 := (HQ.out _ HYb.out).1.cell 1 rfl
    have c2 := (HQ.out _ HYb.out).1.cell 2 rfl
    have c3 := (HQ.out _ HYb.out).1.cell 3 rfl
    have d0 := HYr.out.cell 0 rfl
    have d1 := HYr.out.cell 1 rfl
    have d2 := HYr.out.cell 2 rfl
    have e0 := HYr.out.frozen 0
    have e1 := HYr.out.frozen 1
    have e2 := HYr.out.frozen 2
    clear HYr
    go_wp2_with fail
    refine (specCrc_any a n ca zs Y (HQ.out _ HYb.out).2.2.1 (by omega)).mono ?_
    rintro e W4 ⟨rfl, hw⟩
    have hw := hw.symm
    subst hw
    rw [hcz]
    have HYX : Hid (Y.setCell ⟨br, 2, none⟩ (.int .i64 cz) = (W3.setCell ⟨br, 0, none⟩ (.int .i64 4)).setCell ⟨br, 2, none⟩ (.int .i64 cz)) := by show _ = _; rw [HYY.out]
    clear HYY HYb
    obtain ⟨X, hX⟩ : ∃ X, (W3.setCell ⟨br, 0, none⟩ (.int .i64 4)).setCell ⟨br, 2, none⟩ (.int .i64 cz) = X := ⟨_, rfl⟩
    have hXr : BoxN X br 27 [.int .i64 4, .string id, .int .i64 cz] := by
      rw [← hX]
      exact (HBS.set 0 _).set 2 _
    have hXo : Owns X w.heap.size (some ⟨br + 1, 0, none⟩) 0 0 [] := by
      rw [← hX]
      exact (owns_set (owns_set HOR3.out HNG.out) HNG.out).low (by omega)
    have hXb : Below w.heap.size w X := by
      rw [← hX]
      repeat (refine Below.setCell ?_ (by dsimp only; omega) _)
      exact (HQ.out _ HB3.out).2.2.2
    have hXq : BoxN X (w.heap.size + 1) 27 [.int .i64 0, .string ⟨#[]⟩, .int .i64 0] := by
      rw [← hX]
      exact (HQS.other (by omega) _).other (by omega) _
    have HXX : Hid (_ = X) := hX
    have HX4 : Hid (BoxN X br 27 [.int .i64 4, .string id, .int .i64 cz] ∧ Owns X w.heap.size (some ⟨br + 1, 0, none⟩) 0 0 [] ∧ Below w.heap.size w X ∧ BoxN X (w.heap.size + 1) 27 [.int .i64 0, .string ⟨#[]⟩, .int .i64 0]) := ⟨hXr, hXo, hXb, hXq⟩
    clear hX hXr hXo hXb hXq HBS HQS
    go_upto_region 22 with fail
    rw [HYX.out, HXX.out]
    clear HXX
    first
      | clear c0 c1 c2 c3 d0 d1 d2 e0 e1 e2
      | skip
    have d0 := HX4.out.1.cell 0 rfl
    have d1 := HX4.out.1.cell 1 rfl
    have d2 := HX4.out.1.cell 2 rfl
    have x0 := HX4.out.2.2.2.cell 0 rfl
    have x1 := HX4.out.2.2.2.cell 1 rfl
    have x2 := HX4.out.2.2.2.cell 2 rfl
    have f0 := HX4.out.2.2.2.frozen 0
    have f1 := HX4.out.2.2.2.frozen 1
    have f2 := HX4.out.2.2.2.frozen 2
    have hne : ((some ⟨br + 1, 0, none⟩) : Option Addr).map (·.block) ≠ some (w.heap.size + 1) := HNE.out
    have HO : Hid (Owns (((X.setCell ⟨w.heap.size + 1, 0, none⟩ (.int .i64 4)).setCell ⟨w.heap.size + 1, 1, none⟩ (.string id)).setCell ⟨w.heap.size + 1, 2, none⟩ (.int .i64 cz)) w.heap.size (some ⟨br + 1, 0, none⟩) 0 0 [] ∧ Below w.heap.size w (((X.setCell ⟨w.heap.size + 1, 0, none⟩ (.int .i64 4)).setCell ⟨w.heap.size + 1, 1, none⟩ (.string id)).setCell ⟨w.heap.size + 1, 2, none⟩ (.int .i64 cz))) := by
      refine ⟨owns_set (owns_set (owns_set HX4.out.2.1 hne) hne) hne, ?_⟩
      repeat (refine Below.setCell ?_ (by dsimp only; omega) _)
      exact HX4.out.2.2.1
    clear HX4 hne HNE
    go_wp2_with fail
    refine bodyPost_ret (v := .tuple #[.agg #[.int .i64 4, .string id, .int .i64 cz], .slice (some ⟨br + 1, 0, none⟩) 0 0, .bool true]) (by simp [results, Try.f7, go_sem, x0, x1, x2]) rfl ?_
    obtain ⟨e1, e2, e3, e4, e5, e6⟩ := HF.out
    rw [e1, e2, e3, e4, e5, e6]
    exact ⟨⟨_, _, rfl, HO.out.1⟩, HO.out.2⟩

end Go.Proofs.Ytlalebaaabdihax
