/- What the program's RecOk answers, under its table. The small facts of Own, under the name that the other texts import. Steps of a region that draws its order: a call of two arguments; bytes that are made; a text of bytes that are all 0. No program in it. A new row of bytes that is made. -/
import Derived.Test.YtjaihnmhojabfaaGreatDoorM36
import Derived.Test.YtjaihnmhojabfaaGreatDoorM36
import Derived.Test.YtjaihnmhojabfaaGreatDoorM31
import Derived.Test.YtjaihnmhojabfaaGreatDoorM04
import Derived.Deep.CutBlock
import Derived.Test.YtjaihnmhojabfaaGreatDoorM01
import Derived.Deep.RegionLaw
import Derived.Laws.MakeOwn
import Derived.Laws.OwnMore
import Derived.Laws.IdiomStrings
import Derived.Below
import Derived.WalkKit
namespace Go.Proofs.YtjaihnmhojabfaaGreatDoor
open Go.RowKit
set_option linter.unusedVariables false

set_option maxRecDepth 10000 in
set_option maxHeartbeats 1600000 in
theorem implRok_any (e q k : Int) (id : ByteArray) (n : Int) (a : Option Addr) (d ca : Nat) (w : World) (hi : id.size ≤ maxLen) (hd : d ≤ 1099511627776) (ht : RecT w) :
    Calls Tryz.prog 101 #[.agg #[.int .i64 e, .int .i64 q, .int .i64 k, .string id, .int .i64 n, .slice a d ca]] w fun r w' => r = .returned (.bool (okRec e q k id n d)) ∧ Below w.heap.size w w' := by
  have hmm : maxLen < 9223372036854775808 := by decide
  obtain ⟨w0, hw0⟩ : ∃ w0, w.alloc (.cells #[.int .i64 e, .int .i64 q, .int .i64 k, .string id, .int .i64 n, .slice a d ca] 69) = w0 := ⟨_, rfl⟩
  have HE : Hid (w.alloc (.cells #[.int .i64 e, .int .i64 q, .int .i64 k, .string id, .int .i64 n, .slice a d ca] 69) = w0) := hw0
  have HQ0 : Hid (BoxN w0 w.heap.size 69 [.int .i64 e, .int .i64 q, .int .i64 k, .string id, .int .i64 n, .slice a d ca]) := by show BoxN _ _ _ _; rw [← hw0]; exact BoxN.new _ _ _
  have HB : Hid (Below w.heap.size w w0) := by show Below _ _ _; rw [← hw0]; exact (Below.refl _ _).alloc (Nat.le_refl _) _
  have HT : Hid (RecT w0) := ht.below HB.out
  obtain ⟨c0, c1, c2, c3, c4, c5⟩ := (show _ ∧ _ ∧ _ ∧ _ ∧ _ ∧ _ from ⟨HQ0.out.cell 0 rfl, HQ0.out.cell 1 rfl, HQ0.out.cell 2 rfl, HQ0.out.cell 3 rfl, HQ0.out.cell 4 rfl, HQ0.out.cell 5 rfl⟩)
  clear hw0 ht
  go_enter Tryz.func101, Tryz.ntmps101
  go_upto_region 1 with fail
  rw [HE.out]
  clear HE
  by_cases h1 : 0 ≤ e ∧ e ≤ 10000
  case neg =>
    have HF : Hid (okRec e q k id n d = false) := by show _ = _; rw [okRec, decide_eq_false h1]; rfl
    by_cases g1 : e < 0
    · clear h1
      go_wp2_with fail
      go_ret
      exact ⟨ret_bool' HF.out.symm, HB.out⟩
    · have g2 : (10000 : Int) < e := by omega
      clear h1
      go_wp2_with fail
      go_ret
      exact ⟨ret_bool' HF.out.symm, HB.out⟩
  have g1 : ¬ e < 0 := by omega
  have g2 : ¬ (10000 : Int) < e := by omega
  by_cases h2 : 0 ≤ q ∧ q ≤ 199
  case neg =>
    have HF : Hid (okRec e q k id n d = false) := by show _ = _; rw [okRec, decide_eq_false h2, Bool.and_false]; rfl
    by_cases g3 : q < 0
    · clear h1 h2
      go_wp2_with fail
      go_ret
      exact ⟨ret_bool' HF.out.symm, HB.out⟩
    · have g4 : ¬ q < 200 := by omega
      have g5 : (200 : Int) ≤ q := by omega
      clear h1 h2
      go_wp2_with fail
      go_ret
      exact ⟨ret_bool' HF.out.symm, HB.out⟩
  have g3 : ¬ q < 0 := by omega
  have g4 : q < 200 := by omega
  have g5 : ¬ (200 : Int) ≤ q := by omega
  have HK : Hid (okRec e q k id n d = (idB id.data.toList && kindB k n d)) := by show _ = _; rw [okRec, decide_eq_true h1, decide_eq_true h2]; rfl
  clear h1 h2
  go_wp2_with fail
  refine (implId_any id _ (by omega)).mono ?_
  rintro r w1 ⟨rfl, hb1⟩
  have HB1 : Hid (Below w.heap.size w w1) := HB.out.trans (hb1.mono HB.out.size)
  have HT1 : Hid (RecT w1) := HT.out.below hb1
  have HQ1 : Hid (BoxN w1 w.heap.size 69 [.int .i64 e, .int .i64 q, .int .i64 k, .string id, .int .i64 n, .slice a d ca]) := HQ0.out.stays hb1
  clear hb1 HB HT HQ0 c0 c1 c2 c3 c4 c5
  obtain ⟨c0, c1, c2, c3, c4, c5⟩ := (show _ ∧ _ ∧ _ ∧ _ ∧ _ ∧ _ from ⟨HQ1.out.cell 0 rfl, HQ1.out.cell 1 rfl, HQ1.out.cell 2 rfl, HQ1.out.cell 3 rfl, HQ1.out.cell 4 rfl, HQ1.out.cell 5 rfl⟩)
  cases h3 : idB id.data.toList
  · have HF : Hid (okRec e q k id n d = false) := by show _ = _; rw [HK.out, h3]; rfl
    clear h3
    go_wp2_with fail
    go_ret
    exact ⟨ret_bool' HF.out.symm, HB1.out⟩
  have HK2 : Hid (okRec e q k id n d = kindB k n d) := by show _ = _; rw [HK.out, h3]; rfl
  clear HK h3
  go_wp2_with fail
  refine (implKind_any k _).mono ?_
  rintro r w1 ⟨rfl, rfl⟩
  by_cases hk : 1 ≤ k ∧ k ≤ 4
  case neg =>
    have HF : Hid (okRec e q k id n d = false) := by show _ = _; rw [HK2.out, kindB_out k hk]
    rw [decide_eq_false hk]
    clear hk
    go_wp2_with fail
    go_ret
    exact ⟨ret_bool' HF.out.symm, HB1.out⟩
  rw [decide_eq_true hk]
  have k1 : ¬ k < 1 := by omega
  have k4 : ¬ (4 : Int) < k := by omega
  obtain ⟨K, rfl⟩ := Int.eq_ofNat_of_zero_le (show 0 ≤ k by omega)
  have HK3 : Hid (okRec e q (K : Int) id n d = decide (0 ≤ n ∧ n ≤ rMost K ∧ rLo K ≤ (d : Int) ∧ (d : Int) ≤ rHi K)) := by show _ = _; rw [HK2.out, kindB_tab K (by omega) (by omega)]
  have hK5 : (K : Int) < 5 := by omega
  have hK0 : (0 : Int) ≤ (K : Int) := by omega
  obtain ⟨t0, t1, t2⟩ := HT1.out.2 K (by omega)
  clear hk HK2
  generalize rMost K = M at *
  generalize rLo K = L at *
  generalize rHi K = U at *
  have HB2 : Hid (Below w.heap.size w (w1.alloc (.cells #[.int .i64 M, .int .i64 L, .int .i64 U] 144))) := HB1.out.alloc HB1.out.size _
  have q2 : BoxN (w1.alloc (.cells #[.int .i64 M, .int .i64 L, .int .i64 U] 144)) w.heap.size 69 [.int .i64 e, .int .i64 q, .int .i64 (K : Int), .string id, .int .i64 n, .slice a d ca] := HQ1.out.alloc _
  have f2 : BoxN (w1.alloc (.cells #[.int .i64 M, .int .i64 L, .int .i64 U] 144)) w1.heap.size 144 [.int .i64 M, .int .i64 L, .int .i64 U] := BoxN.new _ _ _
  have x4 := q2.cell 4 rfl
  have x5 := q2.cell 5 rfl
  have y0 := f2.cell 0 rfl
  have y1 := f2.cell 1 rfl
  have y2 := f2.cell 2 rfl
  clear q2 f2 HQ1 HT1 c0 c1 c3 c4 c5
  by_cases n0 : 0 ≤ n
  case neg =>
    have HF : Hid (okRec e q (K : Int) id n d = false) := by show _ = _; rw [HK3.out, decide_eq_false (fun h => n0 h.1)]
    have dn : decide (0 ≤ n) = false := decide_eq_false n0
    have dn2 : (0 ≤ n) = False := eq_false n0
    clear n0 HK3
    go_wp2_with fail
    go_ret
    exact ⟨ret_bool' HF.out.symm, HB2.out⟩
  by_cases n1 : n ≤ M
  case neg =>
    have HF : Hid (okRec e q (K : Int) id n d = false) := by show _ = _; rw [HK3.out, decide_eq_false (fun h => n1 h.2.1)]
    have dn : decide (n ≤ M) = false := decide_eq_false n1
    clear n1 HK3
    go_wp2_with fail
    go_ret
    exact ⟨ret_bool' HF.out.symm, HB2.out⟩
  by_cases n2 : L ≤ (d : Int)
  case neg =>
    have HF : Hid (okRec e q (K : Int) id n d = false) := by show _ = _; rw [HK3.out, decide_eq_false (fun h => n2 h.2.2.1)]
    have dn : decide (L ≤ (d : Int)) = false := decide_eq_false n2
    clear n2 HK3
    go_wp2_with fail
    go_ret
    exact ⟨ret_bool' HF.out.symm, HB2.out⟩
  have HF : Hid (okRec e q (K : Int) id n d = decide ((d : Int) ≤ U)) := by show _ = _; rw [HK3.out, decide_eq_decide]; exact ⟨fun h => h.2.2.2, fun h => ⟨n0, n1, n2, h⟩⟩
  clear HK3
  go_wp2_with fail
  go_ret
  exact ⟨ret_bool' HF.out.symm, HB2.out⟩

end Go.Proofs.YtjaihnmhojabfaaGreatDoor



namespace Go.Proofs.YtjaihnmhojabfaaGreatDoor
open Go.RowKit
set_option linter.unusedVariables false

theorem step_call_pair {P : Program} {ops : Array Oper} {o : Oper} {a : Act} {w : World} {K : Act → World → Prop} {Q : Exit → Act → World → Prop} {E : Prop}
    (hg : o.guard = none) (f : FuncId) (x y : Operand) (t t' : TypeId) (ho : o.op = .call { callee := .value (.func f), args := #[x, y], argTypes := #[t, t'] })
    (hent : ∀ args w, (callFunc f args).run P w = .ok (.enter f args) w) (u u' : Value) (hx : a.eval x = u) (hy : a.eval y = u') (R : Ending → World → Prop)
    (hc : Calls P f #[u, u'] w R) (h : ∀ e w', R e w' → ∃ v, e = .returned v ∧ K (a.put o.dst v) w') :
    if Region.wanted o (yielded ops a.tmps) = true then Oper.wp P o a w K Q else E := by
  have hw : Region.wanted o (yielded ops a.tmps) = true := by simp [Region.wanted, hg]
  rw [if_pos hw]
  have hf : a.eval (.func f) = .func (.func f) #[] #[] := rfl
  unfold Oper.wp
  simp [execOp, ho, resolve, invoke, Deferred.ofValue, hent, hf, hx, hy, Oper.upon_enter]
  refine hc.mono ?_
  intro e w' hr
  obtain ⟨v, rfl, hk⟩ := h e w' hr
  exact hk

theorem run_make_zero {P : Program} (w : World) (t e : TypeId) (i : TypeInfo) (h1 : P.underlying t = some (.slice e)) (h2 : P.info? e = some i) (h3 : i.zero = some (.int .u8 0)) (h4 : i.size = 1) (h5 : i.bytes = 1) (n : Nat) (b2 : n ≤ 2199023255552) :
    (Instr.makeSlice t (.int .i64 n) (.int .i64 n)).run P w = .ok (.slice (some ⟨w.heap.size, 0, none⟩) n n) (w.alloc (.cells (List.replicate n (.int .u8 0)).toArray e)) := by
  have hz : (Value.int .u8 0).cells = #[.int .u8 0] := rfl
  have hr := run_make (P := P) w t e i _ h1 h2 h3 .i64 .i64 n n (by omega) (by omega) (by rw [h5]; omega) (by omega)
  simp only [Int.toNat_natCast, h4, Nat.mul_one, hz] at hr
  rw [hr]
  congr 1
  congr 1
  congr 1
  apply Array.toList_inj.1
  rw [toList_madeCells_one]

theorem run_text_zero {P : Program} (w : World) (src dst e : TypeId) (hs : P.underlying src = some (.slice e)) (he : P.underlying e = some (.int .u8)) (hd : P.underlying dst = some .string) (b n cap : Nat) (hc : w.heap[b]? = some (.cells (List.replicate n (.int .u8 0)).toArray e (0, 0))) :
    ∃ s : ByteArray, s.size = n ∧ (convert src dst (.slice (some ⟨b, 0, none⟩) n cap)).run P w = .ok (.string s) w := by
  have hr := run_convert_bytes_back (P := P) w src dst e ⟨b, 0, none⟩ cap (List.replicate n 0) hs he hd (by
    intro j hj
    rw [List.length_replicate] at hj
    have hp : (⟨b, 0, none⟩ : Addr).add j = ⟨b, j, none⟩ := by unfold Addr.add; split <;> simp_all
    rw [hp]
    simp [World.cell?, hc, hj])
  rw [List.length_replicate] at hr
  exact ⟨_, by simp [ByteArray.size], hr⟩

theorem step_make_zero {P : Program} {ops : Array Oper} {o : Oper} {a : Act} {w : World} {K : Act → World → Prop} {Q : Exit → Act → World → Prop} {E : Prop}
    (hg : o.guard = none) (l : Operand) (t e : TypeId) (hop : o.op = Op.makeSlice t l l) (i : TypeInfo) (h1 : P.underlying t = some (.slice e)) (h2 : P.info? e = some i) (h3 : i.zero = some (.int .u8 0)) (h4 : i.size = 1) (h5 : i.bytes = 1)
    (L : Int) (n : Nat) (hl : a.eval l = .int .i64 L) (hL : L = (n : Int)) (b2 : n ≤ 2199023255552)
    (h : ∀ w', w'.heap[w.heap.size]? = some (.cells (List.replicate n (.int .u8 0)).toArray e (0, 0)) → Below w.heap.size w w' → K (a.put o.dst (.slice (some ⟨w.heap.size, 0, none⟩) n n)) w') :
    if Region.wanted o (yielded ops a.tmps) = true then Oper.wp P o a w K Q else E := by
  have hw : Region.wanted o (yielded ops a.tmps) = true := by simp [Region.wanted, hg]
  rw [if_pos hw]
  subst hL
  have hz : (Value.int .u8 0).cells = #[.int .u8 0] := rfl
  have hr := run_make (P := P) w t e i _ h1 h2 h3 .i64 .i64 n n (by omega) (by omega) (by rw [h5]; omega) (by omega)
  simp only [Int.toNat_natCast, h4, Nat.mul_one, hz] at hr
  unfold Oper.wp
  simp [execOp, hop, hl, hr, Result.andThen]
  refine h _ ?_ ((Below.refl _ _).alloc (Nat.le_refl _) _)
  rw [heap_alloc_new]
  congr 1
  congr 1
  apply Array.toList_inj.1
  rw [toList_madeCells_one]

theorem step_text_zero {P : Program} {ops : Array Oper} {o : Oper} {a : Act} {w : World} {K : Act → World → Prop} {Q : Exit → Act → World → Prop} {E : Prop}
    (hg : o.guard = none) (x : Operand) (src dst e : TypeId) (hop : o.op = Op.convert src dst x) (hs : P.underlying src = some (.slice e)) (he : P.underlying e = some (.int .u8)) (hd : P.underlying dst = some .string)
    (b n cap : Nat) (hx : a.eval x = .slice (some ⟨b, 0, none⟩) n cap) (hc : w.heap[b]? = some (.cells (List.replicate n (.int .u8 0)).toArray e (0, 0)))
    (h : ∀ s : ByteArray, s.size = n → K (a.put o.dst (.string s)) w) :
    if Region.wanted o (yielded ops a.tmps) = true then Oper.wp P o a w K Q else E := by
  have hw : Region.wanted o (yielded ops a.tmps) = true := by simp [Region.wanted, hg]
  rw [if_pos hw]
  have hr := run_convert_bytes_back (P := P) w src dst e ⟨b, 0, none⟩ cap (List.replicate n 0) hs he hd (by
    intro j hj
    rw [List.length_replicate] at hj
    have hp : (⟨b, 0, none⟩ : Addr).add j = ⟨b, j, none⟩ := by unfold Addr.add; split <;> simp_all
    rw [hp]
    simp [World.cell?, hc, hj])
  rw [List.length_replicate] at hr
  unfold Oper.wp
  simp [execOp, hop, hx, hr, Result.andThen]
  exact h _ (by simp [ByteArray.size])

end Go.Proofs.YtjaihnmhojabfaaGreatDoor

namespace Go.Proofs.YtjaihnmhojabfaaGreatDoor
open Go.RowKit
set_option linter.unusedVariables false

/-- 'make([]byte, n, c)': a new row of c cells, all 0. -/
theorem wpList_make_room {P : Program} (w : World) {ops : Array Oper} {rest : List Oper} {o : Oper} {a : Act} {Q : Exit → Act → World → Prop}
    (hg : o.guard = none) (l c : Operand) (t : TypeId) (hop : o.op = Op.makeSlice t l c)
    (e : TypeId) (i : TypeInfo) (z : Value) (h1 : P.underlying t = some (.slice e)) (h2 : P.info? e = some i) (h3 : i.zero = some z) (h4 : i.size = 1) (hz : z.cells = #[z]) (h5 : i.bytes = 1)
    (kl kc : IntKind) (L C : Int) (n m : Nat) (hl : a.eval l = .int kl L) (hc : a.eval c = .int kc C) (hL : L = (n : Int)) (hC : C = (m : Int)) (hnm : n ≤ m) (b2 : m ≤ 2199023255552)
    (hK : ∀ w', w'.heap[w.heap.size]? = some (.cells (List.replicate m z).toArray e (0, 0)) → Below w.heap.size w w' → wpList P ops Q rest (a.put o.dst (.slice (some ⟨w.heap.size, 0, none⟩) n m)) w') :
    wpList P ops Q (o :: rest) a w := by
  refine wpList_plain hg fun K hK' => ?_
  subst hL hC
  have hr := run_make (P := P) w t e i z h1 h2 h3 kl kc n m (by omega) (by omega) (by rw [h5]; omega) (by omega)
  simp only [Int.toNat_natCast, h4, Nat.mul_one, hz] at hr
  unfold Oper.wp
  simp [execOp, hop, hl, hc, hr, Result.andThen]
  refine hK' _ _ (hK _ ?_ ((Below.refl _ _).alloc (Nat.le_refl _) _))
  rw [heap_alloc_new]
  congr 1
  congr 1
  apply Array.toList_inj.1
  rw [toList_madeCells_one]

theorem own_of_row {w : World} {g n c : Nat} {cur : List Value} {base : Nat} (h : w.heap[g]? = some (.cells cur.toArray 5 (0, 0))) (hb : base ≤ g) (hl : cur.length = c) (hn : n ≤ c) (hc : c ≤ maxLen) : w.ownsRow base 5 1 (.slice (some ⟨g, 0, none⟩) n c) n (cur.take n) :=
  ⟨by simp; omega, .inr ⟨g, c, cur.toArray, rfl, hb, h, hn, hc, by simpa using hl, by simp⟩⟩

end Go.Proofs.YtjaihnmhojabfaaGreatDoor
