/- What the specification's PutRec answers. -/
import Derived.Test.YtenkpgnkkkgdmasDoorPutRecS
import Derived.Test.YtenkpgnkkkgdmasDoorRecOkS
namespace Go.Proofs.YtenkpgnkkkgdmasDoor
open Go.RowKit
set_option linter.unusedVariables false

set_option maxRecDepth 10000 in
set_option maxHeartbeats 1600000 in
theorem specPutR_any (e q k : Int) (id : ByteArray) (n : Int) (a : Option Addr) (d ca : Nat) (zs : List Int) (w : World) (hs : Seg w a d zs) (hi : id.size ≤ maxLen) (hd : d ≤ 1099511627776) :
    Calls Tryd.prog 12 #[.agg #[.int .i64 e, .int .i64 q, .int .i64 k, .string id, .int .i64 n, .slice a d ca]] w fun r w' => r = .returned (.string (putT e q k id n zs)) ∧ Below w.heap.size w w' := by
  obtain ⟨w0, hw0⟩ : ∃ w0, w.alloc (.cells #[.int .i64 e, .int .i64 q, .int .i64 k, .string id, .int .i64 n, .slice a d ca] 27) = w0 := ⟨_, rfl⟩
  have HE : Hid (w.alloc (.cells #[.int .i64 e, .int .i64 q, .int .i64 k, .string id, .int .i64 n, .slice a d ca] 27) = w0) := hw0
  have q0 : BoxN w0 w.heap.size 27 [.int .i64 e, .int .i64 q, .int .i64 k, .string id, .int .i64 n, .slice a d ca] := by rw [← hw0]; exact BoxN.new _ _ _
  have HB : Hid (Below w.heap.size w w0) := by show Below _ _ _; rw [← hw0]; exact (Below.refl _ _).alloc (Nat.le_refl _) _
  have HQ : Hid (BoxN w0 w.heap.size 27 [.int .i64 e, .int .i64 q, .int .i64 k, .string id, .int .i64 n, .slice a d ca]) := q0
  have HS : Hid (Seg w0 a d zs) := hs.below HB.out
  have HL : Hid (zs.length = d) := hs.1
  clear hw0 hs
  have c0 := q0.cell 0 rfl
  have c1 := q0.cell 1 rfl
  have c2 := q0.cell 2 rfl
  have c3 := q0.cell 3 rfl
  have c4 := q0.cell 4 rfl
  have c5 := q0.cell 5 rfl
  clear q0
  go_enter Tryd.func12, Tryd.ntmps12
  go_upto_region 1 with fail
  rw [HE.out]
  clear HE
  go_wp2_with fail
  refine (specRok_any e q k id n a d ca w0 hi hd).mono ?_
  rintro r w1 ⟨rfl, hb1⟩
  have HB1 : Hid (Below w.heap.size w w1) := HB.out.trans (hb1.mono HB.out.size)
  have HS1 : Hid (Seg w1 a d zs) := HS.out.below hb1
  have q1 := HQ.out.stays hb1
  clear c0 c1 c2 c3 c4 c5 hb1 HQ HS HB
  have c0 := q1.cell 0 rfl
  have c1 := q1.cell 1 rfl
  have c2 := q1.cell 2 rfl
  have c3 := q1.cell 3 rfl
  have c4 := q1.cell 4 rfl
  have c5 := q1.cell 5 rfl
  clear q1
  cases hok : okRec e q k id n d
  · have HF : Hid (putT e q k id n zs = ⟨#[]⟩) := by show _ = _; rw [putT, HL.out, hok]; rfl
    clear hok
    go_wp2_with fail
    go_ret
    exact ⟨by rw [HF.out]; rfl, HB1.out⟩
  · obtain ⟨he, hq, hk, hid, hn, hd2⟩ := okRec_iff hok
    obtain ⟨E, rfl⟩ := Int.eq_ofNat_of_zero_le he.1
    obtain ⟨Q, rfl⟩ := Int.eq_ofNat_of_zero_le hq.1
    obtain ⟨K, rfl⟩ := Int.eq_ofNat_of_zero_le (show 0 ≤ k by omega)
    obtain ⟨M, rfl⟩ := Int.eq_ofNat_of_zero_le hn.1
    have HF : Hid (putT E Q K id M zs = txU (sumB (recB E Q K id M zs))) := by show _ = _; rw [putT, HL.out, hok]; rfl
    clear hok
    go_wp2_with fail
    refine (specPut13_any E Q K id M a d ca zs w1 HS1.out (by omega) (by omega) (by omega) (by omega) (by omega) (by omega)).mono ?_
    rintro r w2 ⟨rfl, hb2⟩
    have HB2 : Hid (Below w.heap.size w w2) := HB1.out.trans (hb2.mono HB1.out.size)
    rw [← HF.out]
    clear hb2
    go_wp2_with fail
    go_ret
    exact ⟨rfl, HB2.out⟩

end Go.Proofs.YtenkpgnkkkgdmasDoor
