/- What the program's NextReq answers. -/
import Derived.Test.YtlalebaaabdihaxNextN
import Derived.Test.YtlalebaaabdihaxBoxN
import Derived.Test.YtlalebaaabdihaxClWayI
import Derived.Test.YtlalebaaabdihaxCrcI
import Derived.Test.YtlalebaaabdihaxPieceI
import Derived.Deep.CutBlock
namespace Go.Proofs.Ytlalebaaabdihax
open Go.RowKit
set_option linter.unusedVariables false

set_option maxRecDepth 10000 in
set_option maxHeartbeats 3200000 in
theorem implNext_any (id : ByteArray) (a : Option Addr) (n ca : Nat) (zs : List Int) (st off : Int) (w : World) (hs : Seg w a n zs) (hi : id.size ≤ maxLen) (hn : n ≤ 1048576) (ha : wayC id n st off = true → st = 3 → (a = none ∧ n = 0 ∧ ca = 0) ∨ ∃ b o, a = some ⟨b, o, none⟩ ∧ n ≤ ca) :
    Calls Try.prog 9 #[.agg #[.string id, .slice a n ca, .int .i64 st, .int .i64 off]] w fun e w' => (∃ a' c', e = .returned (.tuple #[.agg #[.int .i64 (askOp id n st off), .string (askI id n st off), .int .i64 (askN id n zs st off)], .slice a' (askK id n st off) c', .bool (wayC id n st off)]) ∧ Owns w' w.heap.size a' (askK id n st off) c' (askZ id n zs st off)) ∧ Below w.heap.size w w' := by
  have HS : Hid (Seg w a n zs) := hs
  have HAd : Hid (wayC id n st off = true → st = 3 → (a = none ∧ n = 0 ∧ ca = 0) ∨ ∃ b o, a = some ⟨b, o, none⟩ ∧ n ≤ ca) := ha
  clear hs ha
  obtain ⟨w0, hw0⟩ : ∃ w0, (w.alloc (.cells #[.string id, .slice a n ca, .int .i64 st, .int .i64 off] 30)).alloc (.cells #[.int .i64 0, .string ⟨#[]⟩, .int .i64 0] 27) = w0 := ⟨_, rfl⟩
  have HE : Hid ((w.alloc (.cells #[.string id, .slice a n ca, .int .i64 st, .int .i64 off] 30)).alloc (.cells #[.int .i64 0, .string ⟨#[]⟩, .int .i64 0] 27) = w0) := hw0
  have hB : Below w.heap.size w w0 := by rw [← hw0]; exact ((Below.refl _ _).alloc (Nat.le_refl _) _).alloc (by simp) _
  have hC : BoxN w0 w.heap.size 30 [.string id, .slice a n ca, .int .i64 st, .int .i64 off] := by rw [← hw0]; exact (BoxN.new _ _ _).alloc _
  have hR : BoxN w0 (w.heap.size + 1) 27 [.int .i64 0, .string ⟨#[]⟩, .int .i64 0] := by
    rw [← hw0]
    have := BoxN.new (w.alloc (.cells #[.string id, .slice a n ca, .int .i64 st, .int .i64 off] 30)) 27 [.int .i64 0, .string ⟨#[]⟩, .int .i64 0]
    rwa [World.size_alloc] at this
  have HQ : Hid (∀ W, Below w0.heap.size w0 W → BoxN W w.heap.size 30 [.string id, .slice a n ca, .int .i64 st, .int .i64 off] ∧ BoxN W (w.heap.size + 1) 27 [.int .i64 0, .string ⟨#[]⟩, .int .i64 0] ∧ Seg W a n zs ∧ Below w.heap.size w W) := fun W hb => ⟨hC.stays hb, hR.stays hb, HS.out.below (hB.trans (hb.mono hB.size)), hB.trans (hb.mono hB.size)⟩
  have hz0 : w.heap.size + 1 < w0.heap.size := hR.lt
  have HA0 : Hid (Below w0.heap.size w0 w0) := Below.refl _ _
  clear hw0 hB hC hR
  have c0 := (HQ.out _ HA0.out).1.cell 0 rfl
  have c1 := (HQ.out _ HA0.out).1.cell 1 rfl
  have c2 := (HQ.out _ HA0.out).1.cell 2 rfl
  have c3 := (HQ.out _ HA0.out).1.cell 3 rfl
  go_enter Try.func9, Try.ntmps9
  go_upto_region 1 with fail
  rw [HE.out]
  clear HE
  go_wp2_with fail
  refine (implWay_any id a n ca st off w0 hi (by omega)).mono ?_
  rintro e W1 ⟨rfl, hb1⟩
  have HB1 : Hid (Below w0.heap.size w0 W1) := hb1
  clear hb1 c0 c1 c2 c3
  by_cases hok : wayC id n st off = true
  case neg =>
    have HF : Hid (askOp id n st off = 0 ∧ askI id n st off = ⟨#[]⟩ ∧ askN id n zs st off = 0 ∧ askK id n st off = 0 ∧ askZ id n zs st off = [] ∧ wayC id n st off = false) := ⟨if_neg hok, if_neg hok, if_neg hok, if_neg (fun h1 => hok h1.1), if_neg (fun h1 => hok h1.1), by simpa using hok⟩
    rw [Bool.not_eq_true] at hok
    rw [hok]
    clear hok
    have hrb : BoxN (W1.alloc (.cells #[] 5)) (w.heap.size + 1) 27 [.int .i64 0, .string ⟨#[]⟩, .int .i64 0] := ((HQ.out _ HB1.out).2.1).alloc _
    have x0 := hrb.cell 0 rfl
    have x1 := hrb.cell 1 rfl
    have x2 := hrb.cell 2 rfl
    have f0 := hrb.frozen 0
    have f1 := hrb.frozen 1
    have f2 := hrb.frozen 2
    have HO : Hid (Owns ((((W1.alloc (.cells #[] 5)).setCell ⟨w.heap.size + 1, 0, none⟩ (.int .i64 0)).setCell ⟨w.heap.size + 1, 1, none⟩ (.string ⟨#[]⟩)).setCell ⟨w.heap.size + 1, 2, none⟩ (.int .i64 0)) w.heap.size (some ⟨W1.heap.size, 0, none⟩) 0 0 [] ∧ Below w.heap.size w ((((W1.alloc (.cells #[] 5)).setCell ⟨w.heap.size + 1, 0, none⟩ (.int .i64 0)).setCell ⟨w.heap.size + 1, 1, none⟩ (.string ⟨#[]⟩)).setCell ⟨w.heap.size + 1, 2, none⟩ (.int .i64 0))) := by
      have h1 : Owns (W1.alloc (.cells #[] 5)) W1.heap.size (some ⟨W1.heap.size, 0, none⟩) 0 0 [] := ⟨World.ownsRow_lit W1 #[] 0 (Nat.le_refl _) (Nat.zero_le _) rfl, by simp⟩
      have h2 := HB1.out.size
      have hne : ((some ⟨W1.heap.size, 0, none⟩ : Option Addr).map (·.block)) ≠ some (w.heap.size + 1) := by simp; omega
      refine ⟨(owns_set (owns_set (owns_set h1 hne) hne) hne).low (by omega), ?_⟩
      repeat (refine Below.setCell ?_ (by dsimp only; omega) _)
      have h3 := (HQ.out _ HB1.out).2.2.2
      exact h3.alloc h3.size _
    clear hrb
    go_wp2_with fail
    refine bodyPost_ret (v := .tuple #[.agg #[.int .i64 0, .string ⟨#[]⟩, .int .i64 0], .slice (some ⟨W1.heap.size, 0, none⟩) 0 0, .bool false]) (by simp [results, Try.f9, go_sem, x0, x1, x2]) rfl ?_
    obtain ⟨e1, e2, e3, e4, e5, e6⟩ := HF.out
    rw [e1, e2, e3, e4, e5, e6]
    exact ⟨⟨_, _, rfl, HO.out.1⟩, HO.out.2⟩
  have HOK : Hid (wayC id n st off = true) := hok
  have HST : Hid (st = 1 ∨ st = 2 ∨ st = 3 ∨ st = 4) := wayC_step hok
  have HOKF : Hid (n ≤ 400 ∧ 0 ≤ off ∧ off ≤ (n : Int)) := by have h := okC_iff.1 (wayC_iff.1 hok).1; exact ⟨h.2.1, h.2.2.2⟩
  rw [hok]
  clear hok
  obtain ⟨W2, hW2⟩ : ∃ W2, (W1.alloc (.cells #[] 5)).alloc (.cells #[.int .i64 0, .string id, .int .i64 0] 27) = W2 := ⟨_, rfl⟩
  obtain ⟨gr, hgr⟩ : ∃ gr, W1.heap.size = gr := ⟨_, rfl⟩
  have hb12 : Below W1.heap.size W1 W2 := by rw [← hW2]; exact ((Below.refl _ _).alloc (Nat.le_refl _) _).alloc (by simp) _
  have hbr : BoxN W2 (gr + 1) 27 [.int .i64 0, .string id, .int .i64 0] := by
    rw [← hW2, ← hgr]
    have := BoxN.new (W1.alloc (.cells #[] 5)) 27 [.int .i64 0, .string id, .int .i64 0]
    rwa [World.size_alloc] at this
  have hor : Owns W2 gr (some ⟨gr, 0, none⟩) 0 0 [] := by
    rw [← hW2, ← hgr]
    have h1 : Owns (W1.alloc (.cells #[] 5)) W1.heap.size (some ⟨W1.heap.size, 0, none⟩) 0 0 [] := ⟨World.ownsRow_lit W1 #[] 0 (Nat.le_refl _) (Nat.zero_le _) rfl, by simp⟩
    exact h1.below ((Below.refl _ _).alloc (Nat.le_refl _) _)
  have HB2 : Hid (Below w0.heap.size w0 W2) := HB1.out.trans (hb12.mono HB1.out.size)
  have HBR : Hid (BoxN W2 (gr + 1) 27 [.int .i64 0, .string id, .int .i64 0]) := hbr
  have HOR : Hid (Owns W2 gr (some ⟨gr, 0, none⟩) 0 0 []) := hor
  have hlt : w.heap.size + 1 < gr := by have := HB1.out.size; omega
  have hlg : w0.heap.size ≤ gr := by have := HB1.out.size; omega
  have HE2 : Hid (_ = W2) := hW2
  have HEg : Hid (_ = gr) := hgr
  clear hW2 hgr hb12 hbr hor
  have c0 := (HQ.out _ HB1.out).1.cell 0 rfl
  have c1 := (HQ.out _ HB1.out).1.cell 1 rfl
  have c2 := (HQ.out _ HB1.out).1.cell 2 rfl
  have c3 := (HQ.out _ HB1.out).1.cell 3 rfl
  go_upto_region 4 with fail
  rw [HE2.out, HEg.out]
  clear HE2 HEg c0 c1 c2 c3
  have c0 := (HQ.out _ HB2.out).1.cell 0 rfl
  have c1 := (HQ.out _ HB2.out).1.cell 1 rfl
  have c2 := (HQ.out _ HB2.out).1.cell 2 rfl
  have c3 := (HQ.out _ HB2.out).1.cell 3 rfl
  have d0 := HBR.out.cell 0 rfl
  have d1 := HBR.out.cell 1 rfl
  have d2 := HBR.out.cell 2 rfl
  have e0 := HBR.out.frozen 0
  have e1 := HBR.out.frozen 1
  have e2 := HBR.out.frozen 2
  rcases HST.out with rfl | rfl | rfl | rfl
  · have HF : Hid (askOp id n 1 off = 1 ∧ askI id n 1 off = id ∧ askN id n zs 1 off = (n : Int) ∧ askK id n 1 off = 0 ∧ askZ id n zs 1 off = [] ∧ wayC id n 1 off = true) := ⟨if_pos HOK.out, if_pos HOK.out, by rw [askN, if_pos HOK.out]; rfl, if_neg (by simp), if_neg (by simp), HOK.out⟩
    have HNE : Hid (((some ⟨gr, 0, none⟩) : Option Addr).map (·.block) ≠ some (w.heap.size + 1)) := by show _ ≠ _; simp; omega
    have HNG : Hid (((some ⟨gr, 0, none⟩) : Option Addr).map (·.block) ≠ some (gr + 1)) := by show _ ≠ _; simp
    have HBS := HBR.out
    have HQS := (HQ.out _ HB2.out).2.1
    go_upto_region 6 with fail
    go_region_with fail
    all_goals
      obtain ⟨X, hX⟩ : ∃ X, ((W2.setCell ⟨gr + 1, 0, none⟩ (.int .i64 1)).setCell ⟨gr + 1, 2, none⟩ (.int .i64 (n : Int))).drew = X := ⟨_, rfl⟩
      have hXr : BoxN X (gr + 1) 27 [.int .i64 1, .string id, .int .i64 (n : Int)] := by
        rw [← hX]
        exact BoxN.stays ((HBS.set 0 _).set 2 _) (Below.refl _ _).drew
      have hXo : Owns X w.heap.size (some ⟨gr, 0, none⟩) 0 0 [] := by
        rw [← hX]
        exact Owns.below ((owns_set (owns_set HOR.out HNG.out) HNG.out).low (by omega)) (Below.refl _ _).drew
      have hXb : Below w.heap.size w X := by
        rw [← hX]
        refine Below.drew ?_
        repeat (refine Below.setCell ?_ (by dsimp only; omega) _)
        exact (HQ.out _ HB2.out).2.2.2
      have hXq : BoxN X (w.heap.size + 1) 27 [.int .i64 0, .string ⟨#[]⟩, .int .i64 0] := by
        rw [← hX]
        exact BoxN.stays ((HQS.other (by omega) _).other (by omega) _) (Below.refl _ _).drew
      have HXX : Hid (_ = X) := hX
      have HX4 : Hid (BoxN X (gr + 1) 27 [.int .i64 1, .string id, .int .i64 (n : Int)] ∧ Owns X w.heap.size (some ⟨gr, 0, none⟩) 0 0 [] ∧ Below w.heap.size w X ∧ BoxN X (w.heap.size + 1) 27 [.int .i64 0, .string ⟨#[]⟩, .int .i64 0]) := ⟨hXr, hXo, hXb, hXq⟩
      clear hX hXr hXo hXb hXq HBS HQS
      go_upto_region 14 with fail
      rw [HXX.out]
      clear HXX
      first
        | clear c0 c1 c2 c3 d0 d1 d2 e0 e1 e2
        | skip
      have d0 := HX4.out.1.cell 0 rfl
      have d1 := HX4.out.1.cell 1 rfl
      have d2 := HX4.out.1.cell 2 rfl
      have x0 := HX4.out.2.2.2.cell 0 rfl
      have x1 := HX4.out.2.2.2.cell 1 rfl
      have x2 := HX4.out.2.2.2.cell 2 rfl
      have f0 := HX4.out.2.2.2.frozen 0
      have f1 := HX4.out.2.2.2.frozen 1
      have f2 := HX4.out.2.2.2.frozen 2
      have hne : ((some ⟨gr, 0, none⟩) : Option Addr).map (·.block) ≠ some (w.heap.size + 1) := HNE.out
      have HO : Hid (Owns (((X.setCell ⟨w.heap.size + 1, 0, none⟩ (.int .i64 1)).setCell ⟨w.heap.size + 1, 1, none⟩ (.string id)).setCell ⟨w.heap.size + 1, 2, none⟩ (.int .i64 (n : Int))) w.heap.size (some ⟨gr, 0, none⟩) 0 0 [] ∧ Below w.heap.size w (((X.setCell ⟨w.heap.size + 1, 0, none⟩ (.int .i64 1)).setCell ⟨w.heap.size + 1, 1, none⟩ (.string id)).setCell ⟨w.heap.size + 1, 2, none⟩ (.int .i64 (n : Int)))) := by
        refine ⟨owns_set (owns_set (owns_set HX4.out.2.1 hne) hne) hne, ?_⟩
        repeat (refine Below.setCell ?_ (by dsimp only; omega) _)
        exact HX4.out.2.2.1
      clear HX4 hne HNE
      go_wp2_with fail
      refine bodyPost_ret (v := .tuple #[.agg #[.int .i64 1, .string id, .int .i64 (n : Int)], .slice (some ⟨gr, 0, none⟩) 0 0, .bool true]) (by simp [results, Try.f9, go_sem, x0, x1, x2]) rfl ?_
      obtain ⟨e1, e2, e3, e4, e5, e6⟩ := HF.out
      rw [e1, e2, e3, e4, e5, e6]
      exact ⟨⟨_, _, rfl, HO.out.1⟩, HO.out.2⟩
  · have HF : Hid (askOp id n 2 off = 2 ∧ askI id n 2 off = id ∧ askN id n zs 2 off = 0 ∧ askK id n 2 off = 0 ∧ askZ id n zs 2 off = [] ∧ wayC id n 2 off = true) := ⟨if_pos HOK.out, if_pos HOK.out, by rw [askN, if_pos HOK.out]; rfl, if_neg (by simp), if_neg (by simp), HOK.out⟩
    have HNE : Hid (((some ⟨gr, 0, none⟩) : Option Addr).map (·.block) ≠ some (w.heap.size + 1)) := by show _ ≠ _; simp; omega
    have HNG : Hid (((some ⟨gr, 0, none⟩) : Option Addr).map (·.block) ≠ some (gr + 1)) := by show _ ≠ _; simp
    have HBS := HBR.out
    have HQS := (HQ.out _ HB2.out).2.1
    obtain ⟨X, hX⟩ : ∃ X, W2.setCell ⟨gr + 1, 0, none⟩ (.int .i64 2) = X := ⟨_, rfl⟩
    have hXr : BoxN X (gr + 1) 27 [.int .i64 2, .string id, .int .i64 0] := by
      rw [← hX]
      exact HBS.set 0 _
    have hXo : Owns X w.heap.size (some ⟨gr, 0, none⟩) 0 0 [] := by
      rw [← hX]
      exact (owns_set HOR.out HNG.out).low (by omega)
    have hXb : Below w.heap.size w X := by
      rw [← hX]
      repeat (refine Below.setCell ?_ (by dsimp only; omega) _)
      exact (HQ.out _ HB2.out).2.2.2
    have hXq : BoxN X (w.heap.size + 1) 27 [.int .i64 0, .string ⟨#[]⟩, .int .i64 0] := by
      rw [← hX]
      exact HQS.other (by omega) _
    have HXX : Hid (_ = X) := hX
    have HX4 : Hid (BoxN X (gr + 1) 27 [.int .i64 2, .string id, .int .i64 0] ∧ Owns X w.heap.size (some ⟨gr, 0, none⟩) 0 0 [] ∧ Below w.heap.size w X ∧ BoxN X (w.heap.size + 1) 27 [.int .i64 0, .string ⟨#[]⟩, .int .i64 0]) := ⟨hXr, hXo, hXb, hXq⟩
    clear hX hXr hXo hXb hXq HBS HQS
    go_upto_region 14 with fail
    rw [HXX.out]
    clear HXX
    first
      | clear c0 c1 c2 c3 d0 d1 d2 e0 e1 e2
      | skip
    have d0 := HX4.out.1.cell 0 rfl
    have d1 := HX4.out.1.cell 1 rfl
    have d2 := HX4.out.1.cell 2 rfl
    have x0 := HX4.out.2.2.2.cell 0 rfl
    have x1 := HX4.out.2.2.2.cell 1 rfl
    have x2 := HX4.out.2.2.2.cell 2 rfl
    have f0 := HX4.out.2.2.2.frozen 0
    have f1 := HX4.out.2.2.2.frozen 1
    have f2 := HX4.out.2.2.2.frozen 2
    have hne : ((some ⟨gr, 0, none⟩) : Option Addr).map (·.block) ≠ some (w.heap.size + 1) := HNE.out
    have HO : Hid (Owns (((X.setCell ⟨w.heap.size + 1, 0, none⟩ (.int .i64 2)).setCell ⟨w.heap.size + 1, 1, none⟩ (.string id)).setCell ⟨w.heap.size + 1, 2, none⟩ (.int .i64 0)) w.heap.size (some ⟨gr, 0, none⟩) 0 0 [] ∧ Below w.heap.size w (((X.setCell ⟨w.heap.size + 1, 0, none⟩ (.int .i64 2)).setCell ⟨w.heap.size + 1, 1, none⟩ (.string id)).setCell ⟨w.heap.size + 1, 2, none⟩ (.int .i64 0))) := by
      refine ⟨owns_set (owns_set (owns_set HX4.out.2.1 hne) hne) hne, ?_⟩
      repeat (refine Below.setCell ?_ (by dsimp only; omega) _)
      exact HX4.out.2.2.1
    clear HX4 hne HNE
    go_wp2_with fail
    refine bodyPost_ret (v := .tuple #[.agg #[.int .i64 2, .string id, .int .i64 0], .slice (some ⟨gr, 0, none⟩) 0 0, .bool true]) (by simp [results, Try.f9, go_sem, x0, x1, x2]) rfl ?_
    obtain ⟨e1, e2, e3, e4, e5, e6⟩ := HF.out
    rw [e1, e2, e3, e4, e5, e6]
    exact ⟨⟨_, _, rfl, HO.out.1⟩, HO.out.2⟩
  · obtain ⟨h4, h5, h6⟩ := HOKF.out
    obtain ⟨f, rfl⟩ : ∃ f : Nat, off = (f : Int) := ⟨off.toNat, by omega⟩
    have HCA : Hid ((a = none ∧ n = 0 ∧ ca = 0) ∨ ∃ b o, a = some ⟨b, o, none⟩ ∧ n ≤ ca) := HAd.out HOK.out rfl
    clear HAd
    have hfn : f ≤ n := by omega
    have HF : Hid (askOp id n 3 (f : Int) = 3 ∧ askI id n 3 (f : Int) = id ∧ askN id n zs 3 (f : Int) = (f : Int) ∧ askK id n 3 (f : Int) = (pieceK n f) ∧ askZ id n zs 3 (f : Int) = (pieceC zs f) ∧ wayC id n 3 (f : Int) = true) := ⟨if_pos HOK.out, if_pos HOK.out, by rw [askN, if_pos HOK.out]; rfl, if_pos ⟨HOK.out, rfl⟩, if_pos ⟨HOK.out, rfl⟩, HOK.out⟩
    have HNE : Hid (((some ⟨gr, 0, none⟩) : Option Addr).map (·.block) ≠ some (w.heap.size + 1)) := by show _ ≠ _; simp; omega
    have HNG : Hid (((some ⟨gr, 0, none⟩) : Option Addr).map (·.block) ≠ some (gr + 1)) := by show _ ≠ _; simp
    have HBS := HBR.out
    have HQS := (HQ.out _ HB2.out).2.1
    go_upto_region 10 with fail
    go_region_with fail
    all_goals
      obtain ⟨Y, hY⟩ : ∃ Y, ((W2.setCell ⟨gr + 1, 0, none⟩ (.int .i64 3)).setCell ⟨gr + 1, 2, none⟩ (.int .i64 (f : Int))).drew = Y := ⟨_, rfl⟩
      have hYr : BoxN Y (gr + 1) 27 [.int .i64 3, .string id, .int .i64 (f : Int)] := by
        rw [← hY]
        exact BoxN.stays ((HBS.set 0 _).set 2 _) (Below.refl _ _).drew
      have hYb : Below w0.heap.size w0 Y := by
        rw [← hY]
        refine Below.drew ?_
        have h7 := HB1.out.size
        repeat (refine Below.setCell ?_ (by dsimp only; omega) _)
        exact HB2.out
      have HYY : Hid (_ = Y) := hY
      have HYr : Hid (BoxN Y (gr + 1) 27 [.int .i64 3, .string id, .int .i64 (f : Int)]) := hYr
      have HYb : Hid (Below w0.heap.size w0 Y) := hYb
      clear hY hYr hYb HBS HQS c0 c1 c2 c3 d0 d1 d2 e0 e1 e2
      go_upto_region 11 with fail
      rw [HYY.out]
      clear HYY
      have c0 := (HQ.out _ HYb.out).1.cell 0 rfl
      have c1 := (HQ.out _ HYb.out).1.cell 1 rfl
      have c2 := (HQ.out _ HYb.out).1.cell 2 rfl
      have c3 := (HQ.out _ HYb.out).1.cell 3 rfl
      go_wp2_with fail
      refine (implPiece_all id a n ca zs 3 f Y (HQ.out _ HYb.out).2.2.1 HCA.out h4 hfn).mono ?_
      rintro e X ⟨⟨a4, k4, rfl, og⟩, hb⟩
      have HXb : Below w0.heap.size w0 X := HYb.out.trans (hb.mono HYb.out.size)
      have HX4 : Hid (BoxN X (gr + 1) 27 [.int .i64 3, .string id, .int .i64 (f : Int)] ∧ Owns X w.heap.size a4 (pieceK n f) k4 (pieceC zs f) ∧ Below w.heap.size w X ∧ BoxN X (w.heap.size + 1) 27 [.int .i64 0, .string ⟨#[]⟩, .int .i64 0]) := ⟨HYr.out.stays hb, og.low (HQ.out _ HYb.out).2.2.2.size, (HQ.out _ HXb).2.2.2, (HQ.out _ HXb).2.1⟩
      have HNE : Hid (a4.map (·.block) ≠ some (w.heap.size + 1)) := fun e => by have h8 := (og.lt _ e).1; have h9 := HYb.out.size; omega
      clear og hb HXb c0 c1 c2 c3 HYr HYb
      obtain ⟨pk, hpk⟩ : ∃ pk, pieceK n f = pk := ⟨_, rfl⟩
      have HPK : Hid (pieceK n f = pk) := hpk
      rw [hpk] at HX4 ⊢
      clear hpk
      go_upto_region 14 with fail
      first
        | skip
        | skip
      have d0 := HX4.out.1.cell 0 rfl
      have d1 := HX4.out.1.cell 1 rfl
      have d2 := HX4.out.1.cell 2 rfl
      have x0 := HX4.out.2.2.2.cell 0 rfl
      have x1 := HX4.out.2.2.2.cell 1 rfl
      have x2 := HX4.out.2.2.2.cell 2 rfl
      have f0 := HX4.out.2.2.2.frozen 0
      have f1 := HX4.out.2.2.2.frozen 1
      have f2 := HX4.out.2.2.2.frozen 2
      have hne : (a4 : Option Addr).map (·.block) ≠ some (w.heap.size + 1) := HNE.out
      have HO : Hid (Owns (((X.setCell ⟨w.heap.size + 1, 0, none⟩ (.int .i64 3)).setCell ⟨w.heap.size + 1, 1, none⟩ (.string id)).setCell ⟨w.heap.size + 1, 2, none⟩ (.int .i64 (f : Int))) w.heap.size a4 pk k4 (pieceC zs f) ∧ Below w.heap.size w (((X.setCell ⟨w.heap.size + 1, 0, none⟩ (.int .i64 3)).setCell ⟨w.heap.size + 1, 1, none⟩ (.string id)).setCell ⟨w.heap.size + 1, 2, none⟩ (.int .i64 (f : Int)))) := by
        refine ⟨owns_set (owns_set (owns_set HX4.out.2.1 hne) hne) hne, ?_⟩
        repeat (refine Below.setCell ?_ (by dsimp only; omega) _)
        exact HX4.out.2.2.1
      clear HX4 hne HNE
      go_wp2_with fail
      refine bodyPost_ret (v := .tuple #[.agg #[.int .i64 3, .string id, .int .i64 (f : Int)], .slice a4 pk k4, .bool true]) (by simp [results, Try.f9, go_sem, x0, x1, x2]) rfl ?_
      obtain ⟨e1, e2, e3, e4, e5, e6⟩ := HF.out
      rw [e1, e2, e3, e4, e5, e6, HPK.out]
      exact ⟨⟨_, _, rfl, HO.out.1⟩, HO.out.2⟩
  · have HF : Hid (askOp id n 4 off = 4 ∧ askI id n 4 off = id ∧ askN id n zs 4 off = ((crcL zs ^^^ 4294967295 : Nat) : Int) ∧ askK id n 4 off = 0 ∧ askZ id n zs 4 off = [] ∧ wayC id n 4 off = true) := ⟨if_pos HOK.out, if_pos HOK.out, by rw [askN, if_pos HOK.out]; rfl, if_neg (by simp), if_neg (by simp), HOK.out⟩
    obtain ⟨cz, hcz⟩ : ∃ cz, ((crcL zs ^^^ 4294967295 : Nat) : Int) = cz := ⟨_, rfl⟩
    rw [hcz] at HF
    have HNE : Hid (((some ⟨gr, 0, none⟩) : Option Addr).map (·.block) ≠ some (w.heap.size + 1)) := by show _ ≠ _; simp; omega
    have HNG : Hid (((some ⟨gr, 0, none⟩) : Option Addr).map (·.block) ≠ some (gr + 1)) := by show _ ≠ _; simp
    have HBS := HBR.out
    have HQS := (HQ.out _ HB2.out).2.1
    go_wp2_with fail
    refine (implCrc_any a n ca zs W2 (HQ.out _ HB2.out).2.2.1 (by omega)).mono ?_
    rintro e W3 ⟨rfl, hw⟩
    have hw := hw.symm
    subst hw
    rw [hcz]
    obtain ⟨X, hX⟩ : ∃ X, (W2.setCell ⟨gr + 1, 0, none⟩ (.int .i64 4)).setCell ⟨gr + 1, 2, none⟩ (.int .i64 cz) = X := ⟨_, rfl⟩
    have hXr : BoxN X (gr + 1) 27 [.int .i64 4, .string id, .int .i64 cz] := by
      rw [← hX]
      exact (HBS.set 0 _).set 2 _
    have hXo : Owns X w.heap.size (some ⟨gr, 0, none⟩) 0 0 [] := by
      rw [← hX]
      exact (owns_set (owns_set HOR.out HNG.out) HNG.out).low (by omega)
    have hXb : Below w.heap.size w X := by
      rw [← hX]
      repeat (refine Below.setCell ?_ (by dsimp only; omega) _)
      exact (HQ.out _ HB2.out).2.2.2
    have hXq : BoxN X (w.heap.size + 1) 27 [.int .i64 0, .string ⟨#[]⟩, .int .i64 0] := by
      rw [← hX]
      exact (HQS.other (by omega) _).other (by omega) _
    have HXX : Hid (_ = X) := hX
    have HX4 : Hid (BoxN X (gr + 1) 27 [.int .i64 4, .string id, .int .i64 cz] ∧ Owns X w.heap.size (some ⟨gr, 0, none⟩) 0 0 [] ∧ Below w.heap.size w X ∧ BoxN X (w.heap.size + 1) 27 [.int .i64 0, .string ⟨#[]⟩, .int .i64 0]) := ⟨hXr, hXo, hXb, hXq⟩
    clear hX hXr hXo hXb hXq HBS HQS
    go_upto_region 14 with fail
    rw [HXX.out]
    clear HXX
    first
      | clear c0 c1 c2 c3 d0 d1 d2 e0 e1 e2
      | skip
    have d0 := HX4.out.1.cell 0 rfl
    have d1 := HX4.out.1.cell 1 rfl
    have d2 := HX4.out.1.cell 2 rfl
    have x0 := HX4.out.2.2.2.cell 0 rfl
    have x1 := HX4.out.2.2.2.cell 1 rfl
    have x2 := HX4.out.2.2.2.cell 2 rfl
    have f0 := HX4.out.2.2.2.frozen 0
    have f1 := HX4.out.2.2.2.frozen 1
    have f2 := HX4.out.2.2.2.frozen 2
    have hne : ((some ⟨gr, 0, none⟩) : Option Addr).map (·.block) ≠ some (w.heap.size + 1) := HNE.out
    have HO : Hid (Owns (((X.setCell ⟨w.heap.size + 1, 0, none⟩ (.int .i64 4)).setCell ⟨w.heap.size + 1, 1, none⟩ (.string id)).setCell ⟨w.heap.size + 1, 2, none⟩ (.int .i64 cz)) w.heap.size (some ⟨gr, 0, none⟩) 0 0 [] ∧ Below w.heap.size w (((X.setCell ⟨w.heap.size + 1, 0, none⟩ (.int .i64 4)).setCell ⟨w.heap.size + 1, 1, none⟩ (.string id)).setCell ⟨w.heap.size + 1, 2, none⟩ (.int .i64 cz))) := by
      refine ⟨owns_set (owns_set (owns_set HX4.out.2.1 hne) hne) hne, ?_⟩
      repeat (refine Below.setCell ?_ (by dsimp only; omega) _)
      exact HX4.out.2.2.1
    clear HX4 hne HNE
    go_wp2_with fail
    refine bodyPost_ret (v := .tuple #[.agg #[.int .i64 4, .string id, .int .i64 cz], .slice (some ⟨gr, 0, none⟩) 0 0, .bool true]) (by simp [results, Try.f9, go_sem, x0, x1, x2]) rfl ?_
    obtain ⟨e1, e2, e3, e4, e5, e6⟩ := HF.out
    rw [e1, e2, e3, e4, e5, e6]
    exact ⟨⟨_, _, rfl, HO.out.1⟩, HO.out.2⟩

end Go.Proofs.Ytlalebaaabdihax
