/- The next bytes of a client's file: what the program's nextPiece answers. -/
import Derived.Test.YtlalebaaabdihaxNextN
import Derived.Test.YtlalebaaabdihaxBoxN
import Derived.Test.YtlalebaaabdihaxCloneB
import Derived.Test.YtlalebaaabdihaxSegCut
import Derived.Deep.CutBlock
namespace Go.Proofs.Ytlalebaaabdihax
open Go.RowKit
set_option linter.unusedVariables false

set_option maxRecDepth 10000 in
set_option maxHeartbeats 1600000 in
theorem implPiece_any (id : ByteArray) (b o : Nat) (n ca : Nat) (zs : List Int) (st : Int) (f : Nat) (w : World) (hs : Seg w (some ⟨b, o, none⟩) n zs) (hc : n ≤ ca) (hn : n ≤ 400) (hf : f ≤ n) :
    Calls Try.prog 29 #[.agg #[.string id, .slice (some ⟨b, o, none⟩) n ca, .int .i64 st, .int .i64 (f : Int)]] w fun e w' => (∃ a' c', e = .returned (.slice a' (pieceK n f) c') ∧ Owns w' w.heap.size a' (pieceK n f) c' (pieceC zs f)) ∧ Below w.heap.size w w' := by
  have HS : Hid (Seg w (some ⟨b, o, none⟩) n zs) := hs
  clear hs
  obtain ⟨t, ht⟩ : ∃ t, f + pieceK n f = t := ⟨_, rfl⟩
  have hk : pieceK n f = min 24 (n - f) := rfl
  have hmn : (if (n : Int) < (f : Int) + 24 then (n : Int) else (f : Int) + 24) = (t : Int) := by
    rw [← ht, hk]
    split <;> omega
  have qn : ∀ w : World, (Builtin.min_ #[3, 3] 3 #[.int .i64 ((f : Int) + 24), .int .i64 (n : Int)]).run Try.prog w = .ok (.int .i64 (t : Int)) w := fun w => by rw [run_min_int2, hmn]
  have h1 : f ≤ t := by omega
  have h2 : t ≤ n := by omega
  have h3 : t ≤ ca := by omega
  have hpc : (zs.drop f).take (t - f) = pieceC zs f := by
    show _ = (zs.drop (f : Int).toNat).take 24
    rw [Int.toNat_natCast]
    by_cases h5 : 24 ≤ n - f
    · rw [show t - f = 24 by omega]
    · have hl : (zs.drop f).length = n - f := by rw [List.length_drop, HS.out.1]
      rw [List.take_of_length_le (by omega), List.take_of_length_le (by omega)]
  have HC : Hid (∀ W o', Below w.heap.size w W → (o' = o + f ∨ t - f = 0) → Seg W (some ⟨b, o', none⟩) (t - f) (pieceC zs f)) := fun W o' hb ho => by
    have h := seg_cut (HS.out.below hb) f (t - f) o' (by omega) ho
    rw [hpc] at h
    exact h
  have HT : Hid (t - f = pieceK n f) := by show _ = _; omega
  clear hmn hk ht hpc
  obtain ⟨w0, hw0⟩ : ∃ w0, w.alloc (.cells #[.string id, .slice (some ⟨b, o, none⟩) n ca, .int .i64 st, .int .i64 (f : Int)] 30) = w0 := ⟨_, rfl⟩
  have HE : Hid (w.alloc (.cells #[.string id, .slice (some ⟨b, o, none⟩) n ca, .int .i64 st, .int .i64 (f : Int)] 30) = w0) := hw0
  have HQ0 : Hid (BoxN w0 w.heap.size 30 [.string id, .slice (some ⟨b, o, none⟩) n ca, .int .i64 st, .int .i64 (f : Int)]) := by show BoxN _ _ _ _; rw [← hw0]; exact BoxN.new _ _ _
  have HB : Hid (Below w.heap.size w w0) := by show Below _ _ _; rw [← hw0]; exact (Below.refl _ _).alloc (Nat.le_refl _) _
  clear hw0
  have c0 := HQ0.out.cell 0 rfl
  have c1 := HQ0.out.cell 1 rfl
  have c2 := HQ0.out.cell 2 rfl
  have c3 := HQ0.out.cell 3 rfl
  go_enter Try.func29, Try.ntmps29
  go_upto_region 1 with fail
  rw [HE.out]
  clear HE
  go_wp2_with fail
  all_goals
    refine (cloneB_any _ (t - f) _ (pieceC zs f) w0 (HC.out w0 _ HB.out (by first | exact .inl rfl | exact .inr (by omega))) (by omega)).mono ?_
    rintro e W ⟨a4, k4, rfl, og, hb⟩
    have HO : Hid (Owns W w.heap.size a4 (t - f) k4 (pieceC zs f)) := og.low HB.out.size
    have HW : Hid (Below w.heap.size w W) := HB.out.trans (hb.mono HB.out.size)
    clear og hb
    go_wp2_with fail
    go_ret
    rw [← HT.out]
    exact ⟨⟨a4, k4, rfl, HO.out⟩, HW.out⟩

set_option maxRecDepth 10000 in
set_option maxHeartbeats 1600000 in
theorem implPiece_none (id : ByteArray) (st : Int) (w : World) :
    Calls Try.prog 29 #[.agg #[.string id, .slice none 0 0, .int .i64 st, .int .i64 0]] w fun e w' => (∃ a' c', e = .returned (.slice a' 0 c') ∧ Owns w' w.heap.size a' 0 c' []) ∧ Below w.heap.size w w' := by
  have qn : ∀ w : World, (Builtin.min_ #[3, 3] 3 #[.int .i64 24, .int .i64 0]).run Try.prog w = .ok (.int .i64 0) w := fun w => by rw [run_min_int2]; rfl
  obtain ⟨w0, hw0⟩ : ∃ w0, w.alloc (.cells #[.string id, .slice none 0 0, .int .i64 st, .int .i64 0] 30) = w0 := ⟨_, rfl⟩
  have HE : Hid (w.alloc (.cells #[.string id, .slice none 0 0, .int .i64 st, .int .i64 0] 30) = w0) := hw0
  have HQ0 : Hid (BoxN w0 w.heap.size 30 [.string id, .slice none 0 0, .int .i64 st, .int .i64 0]) := by show BoxN _ _ _ _; rw [← hw0]; exact BoxN.new _ _ _
  have HB : Hid (Below w.heap.size w w0) := by show Below _ _ _; rw [← hw0]; exact (Below.refl _ _).alloc (Nat.le_refl _) _
  clear hw0
  have c0 := HQ0.out.cell 0 rfl
  have c1 := HQ0.out.cell 1 rfl
  have c2 := HQ0.out.cell 2 rfl
  have c3 := HQ0.out.cell 3 rfl
  go_enter Try.func29, Try.ntmps29
  go_upto_region 1 with fail
  rw [HE.out]
  clear HE
  go_wp2_with fail
  refine (cloneB_any none 0 0 [] w0 ⟨rfl, by simp, .inl rfl⟩ (by omega)).mono ?_
  rintro e W ⟨a4, k4, rfl, og, hb⟩
  have HO : Hid (Owns W w.heap.size a4 0 k4 []) := og.low HB.out.size
  have HW : Hid (Below w.heap.size w W) := HB.out.trans (hb.mono HB.out.size)
  clear og hb
  go_wp2_with fail
  go_ret
  exact ⟨⟨a4, k4, rfl, HO.out⟩, HW.out⟩

theorem implPiece_all (id : ByteArray) (a : Option Addr) (n ca : Nat) (zs : List Int) (st : Int) (f : Nat) (w : World) (hs : Seg w a n zs) (hc : (a = none ∧ n = 0 ∧ ca = 0) ∨ ∃ b o, a = some ⟨b, o, none⟩ ∧ n ≤ ca) (hn : n ≤ 400) (hf : f ≤ n) :
    Calls Try.prog 29 #[.agg #[.string id, .slice a n ca, .int .i64 st, .int .i64 (f : Int)]] w fun e w' => (∃ a' c', e = .returned (.slice a' (pieceK n f) c') ∧ Owns w' w.heap.size a' (pieceK n f) c' (pieceC zs f)) ∧ Below w.heap.size w w' := by
  rcases hc with ⟨rfl, rfl, rfl⟩ | ⟨b, o, rfl, hc⟩
  · obtain rfl : f = 0 := by omega
    obtain rfl : zs = [] := List.eq_nil_of_length_eq_zero hs.1
    exact implPiece_none id st w
  · exact implPiece_any id b o n ca zs st f w hs hc hn hf

end Go.Proofs.Ytlalebaaabdihax
