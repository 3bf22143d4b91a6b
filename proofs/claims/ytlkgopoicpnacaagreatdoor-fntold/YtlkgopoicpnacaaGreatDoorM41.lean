/- What the program's PutRec answers, under its table. What the program's recTextOf answers: a text as an array of bytes; and that two such arrays are the same just where the texts are. What the program's GetRec answers, under its table. What the program's ScanRecs answers, under its table. What the program's TopEpoch answers, under its table. -/
import Derived.Test.YtlkgopoicpnacaaGreatDoorM40
import Derived.Test.YtlkgopoicpnacaaGreatDoorM40
import Derived.Test.YtlkgopoicpnacaaGreatDoorM40
import Derived.Test.YtlkgopoicpnacaaGreatDoorM07
import Derived.Deep.CutBlock
import Derived.Test.YtlkgopoicpnacaaGreatDoorM03
import Derived.Test.YtlkgopoicpnacaaGreatDoorM04
import Derived.Deep.WholeRow
import Derived.Stop.BytesEq
import Derived.Lib.BufferWrite
import Derived.Test.YtlkgopoicpnacaaGreatDoorM39
import Derived.Test.YtlkgopoicpnacaaGreatDoorM13
import Derived.Test.YtlkgopoicpnacaaGreatDoorM15
import Derived.Lib.ConvBytes
import Derived.Lib.Strings
import Derived.Lib.AtoiErrMem
import Derived.Test.YtlkgopoicpnacaaGreatDoorM05
import Derived.Test.YtlkgopoicpnacaaGreatDoorM05
namespace Go.Proofs.YtlkgopoicpnacaaGreatDoor
open Go.RowKit
set_option linter.unusedVariables false

/-- An append, and where its row lies. -/
theorem wpl_append_app {P : Program} {w : World} {ops : Array Oper} {rest : List Oper} {o : Oper} {a : Act} {Q : Exit → Act → World → Prop} (hgd : o.guard = none) (s x : Operand) (t tx : TypeId)
    (ho : o.op = .call { callee := .builtin .append, args := #[s, x], argTypes := #[t, tx] })
    (base : Nat) (e : TypeId) (i : TypeInfo) (z : Value) (size bytes : Nat) (ht : P.underlying t = some (.slice e)) (hi : P.info? e = some i) (hz : i.zero = some z)
    (hsize : i.size = size) (hby : i.bytes = bytes) (hzs : z.cells.size = size) (hsz : 0 < size)
    (g n cap : Nat) (xs : List Value) (hs : a.eval s = .slice (some ⟨g, 0, none⟩) n cap) (hown : w.ownsRow base e size (.slice (some ⟨g, 0, none⟩) n cap) n xs)
    (u : Value) (m : Nat) (news : List Value) (hx : a.eval x = u) (hsrc : Src P size tx u m news w)
    (h63 : n + m ≤ maxLen) (hbytes : (n + m) * bytes ≤ 140737488355328) (hbase : base ≤ w.heap.size) (M : Nat) (hM : n + m = M) (hM0 : 0 < M) (ys : List Value) (hys : xs ++ news = ys)
    (h : ∀ g' c' w', w'.ownsRow base e size (.slice (some ⟨g', 0, none⟩) M c') M ys → w.grownBy w' (some g) → wpList P ops Q rest (a.put o.dst (.slice (some ⟨g', 0, none⟩) M c')) w') : wpList P ops Q (o :: rest) a w := by
  refine wpList_append_any hgd s x t tx ho base e i z size bytes ht hi hz hsize hby hzs hsz g n cap xs hs hown u m news hx hsrc h63 hbytes hbase ?_
  intro v' w' h2 h3
  rw [hM, hys] at h2
  rcases h2.2 with ⟨_, h0⟩ | ⟨g', c', cur, rfl, _⟩
  · omega
  · exact h g' c' w' h2 h3

/-- The program's PutBig, and where its row lies. -/
theorem implPutL (sa : Option Addr) (len cap n k m : Nat) (K : Int) (hK : K = (k : Int)) (zs ys : List Int) (w : World) (hs : Seg w sa len zs) (hl : len ≤ 1099511627776) (hn : n ≤ 9223372036854775807) (h1 : 1 ≤ k) (h8 : k ≤ 8) (hm : len + k = m) (hys : zs ++ pbl n k k = ys) :
    Calls Tryz.prog 110 #[.slice sa len cap, .int .i64 n, .int .i64 K] w fun e w' => (∃ g c, e = .returned (.slice (some ⟨g, 0, none⟩) m c) ∧ Owns w' w.heap.size (some ⟨g, 0, none⟩) m c ys) ∧ Below w.heap.size w w' := by
  subst hK
  refine (implPut_yes sa len cap n k zs w hs hl hn h1 h8).mono ?_
  rintro e w' ⟨a', c', rfl, ho, hbl⟩
  rw [hm, hys] at ho
  obtain ⟨g, rfl, _, _⟩ := owns_at ho (by omega)
  exact ⟨⟨g, c', by rw [hm], ho⟩, hbl⟩

set_option maxRecDepth 10000 in
set_option maxHeartbeats 1600000 in
theorem implPutR_any (e q k : Int) (id : ByteArray) (n : Int) (a : Option Addr) (d ca : Nat) (zs : List Int) (w : World) (hs : Seg w a d zs) (hi : id.size ≤ maxLen) (hd : d ≤ 1099511627776) (ht : RecT w) :
    Calls Tryz.prog 94 #[.agg #[.int .i64 e, .int .i64 q, .int .i64 k, .string id, .int .i64 n, .slice a d ca]] w fun r w' => r = .returned (.string (putT e q k id n zs)) ∧ Below w.heap.size w w' := by
  obtain ⟨w0, hw0⟩ : ∃ w0, w.alloc (.cells #[.int .i64 e, .int .i64 q, .int .i64 k, .string id, .int .i64 n, .slice a d ca] 107) = w0 := ⟨_, rfl⟩
  have HE : Hid (w.alloc (.cells #[.int .i64 e, .int .i64 q, .int .i64 k, .string id, .int .i64 n, .slice a d ca] 107) = w0) := hw0
  have HQ : Hid (BoxN w0 w.heap.size 107 [.int .i64 e, .int .i64 q, .int .i64 k, .string id, .int .i64 n, .slice a d ca]) := by show BoxN _ _ _ _; rw [← hw0]; exact BoxN.new _ _ _
  have HB : Hid (Below w.heap.size w w0) := by show Below _ _ _; rw [← hw0]; exact (Below.refl _ _).alloc (Nat.le_refl _) _
  have HS : Hid (Seg w0 a d zs) := hs.below HB.out
  have HL : Hid (zs.length = d) := hs.1
  have ht0 : RecT w0 := ht.below HB.out
  clear hw0 hs ht
  obtain ⟨c0, c1, c2, c3, c4, c5⟩ := (show _ ∧ _ ∧ _ ∧ _ ∧ _ ∧ _ from ⟨HQ.out.cell 0 rfl, HQ.out.cell 1 rfl, HQ.out.cell 2 rfl, HQ.out.cell 3 rfl, HQ.out.cell 4 rfl, HQ.out.cell 5 rfl⟩)
  go_enter Tryz.func94, Tryz.ntmps94
  go_upto_region 1 with fail
  rw [HE.out]
  clear HE
  go_wp2_with fail
  refine (implRok_any e q k id n a d ca w0 hi hd ht0).mono ?_
  rintro r y0 ⟨rfl, hb1⟩
  have HB0 : Hid (Below w.heap.size w y0) := HB.out.trans (hb1.mono HB.out.size)
  have HS0 : Hid (∀ W, Below y0.heap.size y0 W → Seg W a d zs) := fun W h => (HS.out.below hb1).below h
  have HQ0 : Hid (∀ W, Below y0.heap.size y0 W → BoxN W w.heap.size 107 [.int .i64 e, .int .i64 q, .int .i64 k, .string id, .int .i64 n, .slice a d ca]) := fun W h => (HQ.out.stays hb1).stays h
  clear c0 c1 c2 c3 c4 c5 hb1 HQ HS HB ht0
  cases hok : okRec e q k id n d
  · have HF : Hid (putT e q k id n zs = ⟨#[]⟩) := by show _ = _; rw [putT, HL.out, hok]; rfl
    clear hok
    go_wp2_with fail
    go_ret
    exact ⟨by rw [HF.out]; rfl, HB0.out⟩
  obtain ⟨he, hq, hk, hid, hn, hd2⟩ := okRec_iff hok
  obtain ⟨E, rfl⟩ := Int.eq_ofNat_of_zero_le he.1
  obtain ⟨Q, rfl⟩ := Int.eq_ofNat_of_zero_le hq.1
  obtain ⟨K, rfl⟩ := Int.eq_ofNat_of_zero_le (show 0 ≤ k by omega)
  obtain ⟨M, rfl⟩ := Int.eq_ofNat_of_zero_le hn.1
  have HF : Hid (putT E Q K id M zs = txU (sumB (recB E Q K id M zs))) := by show _ = _; rw [putT, HL.out, hok]; rfl
  have hzd := HL.out
  obtain ⟨i0, ji, jz0, jz1, jz2⟩ := info_parts Tryz.info5
  clear hok
  have H0 : Hid (Below y0.heap.size y0 y0) := Below.refl _ _
  have c0 := (HQ0.out _ H0.out).cell 0 rfl
  go_wp2_with fail
  refine (implPutL none 0 0 E 3 3 3 rfl [] (pbl E 3 3) _ ⟨rfl, by simp, .inl rfl⟩ (by omega) (by omega) (by omega) (by omega) rfl rfl).mono ?_
  rintro r y1 ⟨⟨g1, cc1, rfl, own⟩, hb⟩
  have HO1 : Hid (Owns y1 y0.heap.size (some ⟨g1, 0, none⟩) 3 cc1 (pbl E 3 3)) := owns_low own H0.out.size
  have H1 : Hid (Below y0.heap.size y0 y1) := H0.out.trans (hb.mono H0.out.size)
  clear own hb H0 c0
  have c1 := (HQ0.out _ H1.out).cell 1 rfl
  go_wp2_with fail
  refine (implPutL (some ⟨g1, 0, none⟩) 3 cc1 Q 2 5 2 rfl (pbl E 3 3) (pbl E 3 3 ++ pbl Q 2 2) _ HO1.out.seg (by omega) (by omega) (by omega) (by omega) rfl rfl).mono ?_
  rintro r y2 ⟨⟨g2, cc2, rfl, own⟩, hb⟩
  have HO2 : Hid (Owns y2 y0.heap.size (some ⟨g2, 0, none⟩) 5 cc2 (pbl E 3 3 ++ pbl Q 2 2)) := owns_low own H1.out.size
  have H2 : Hid (Below y0.heap.size y0 y2) := H1.out.trans (hb.mono H1.out.size)
  clear own hb H1 HO1 c1
  have c2 := (HQ0.out _ H2.out).cell 2 rfl
  go_wp2_with fail
  refine (implPutL (some ⟨g2, 0, none⟩) 5 cc2 K 1 6 1 rfl (pbl E 3 3 ++ pbl Q 2 2) (pbl E 3 3 ++ pbl Q 2 2 ++ pbl K 1 1) _ HO2.out.seg (by omega) (by omega) (by omega) (by omega) rfl rfl).mono ?_
  rintro r y3 ⟨⟨g3, cc3, rfl, own⟩, hb⟩
  have HO3 : Hid (Owns y3 y0.heap.size (some ⟨g3, 0, none⟩) 6 cc3 (pbl E 3 3 ++ pbl Q 2 2 ++ pbl K 1 1)) := owns_low own H2.out.size
  have H3 : Hid (Below y0.heap.size y0 y3) := H2.out.trans (hb.mono H2.out.size)
  clear own hb H2 HO2 c2
  have c3 := (HQ0.out _ H3.out).cell 3 rfl
  go_wp2_with fail
  refine (implPutL (some ⟨g3, 0, none⟩) 6 cc3 id.size 1 7 1 rfl (pbl E 3 3 ++ pbl Q 2 2 ++ pbl K 1 1) (pbl E 3 3 ++ pbl Q 2 2 ++ pbl K 1 1 ++ pbl id.size 1 1) _ HO3.out.seg (by omega) (by omega) (by omega) (by omega) rfl rfl).mono ?_
  rintro r y4 ⟨⟨g4, cc4, rfl, own⟩, hb⟩
  have HO4 : Hid (Owns y4 y0.heap.size (some ⟨g4, 0, none⟩) 7 cc4 (pbl E 3 3 ++ pbl Q 2 2 ++ pbl K 1 1 ++ pbl id.size 1 1)) := owns_low own H3.out.size
  have H4 : Hid (Below y0.heap.size y0 y4) := H3.out.trans (hb.mono H3.out.size)
  clear own hb H3 HO3 c3
  have c3 := (HQ0.out _ H4.out).cell 3 rfl
  have HSz : Hid (y0.heap.size ≤ y4.heap.size) := H4.out.size
  go_wp2_with (at_builtin; refine wpl_append_app rfl _ _ 22 9 rfl y0.heap.size 5 i0 (.int .u8 0) 1 1 Tryz.underlying22 ji jz0 jz1 jz2 rfl (by decide) g4 7 cc4 _ rfl HO4.out.1 _ id.size (byteCells id) rfl (Src.ofString _ Tryz.underlying9 id) (by unfold maxLen; omega) (by omega) HSz.out (7 + id.size) rfl (by omega) ((headR E Q K id).map (Value.int .u8)) (by rw [byteCells_txI, ← List.map_append]; rfl) ?_; intro g5 cc5 y5 hown hg; refine Hid.out ?_)
  refine hidden ?_
  have HO5 : Hid (Owns y5 y0.heap.size (some ⟨g5, 0, none⟩) (7 + id.size) cc5 (headR E Q K id)) := ⟨hown, headR_range _ _ _ _⟩
  have H5 : Hid (Below y0.heap.size y0 y5) := H4.out.grown hg H4.out.size (fun q e => by injection e with e; have := (HO4.out.lt g4 rfl).1; omega)
  clear hown hg H4 HO4 c3 HSz
  have c4 := (HQ0.out _ H5.out).cell 4 rfl
  go_wp2_with fail
  refine (implPutL (some ⟨g5, 0, none⟩) (7 + id.size) cc5 M 4 (11 + id.size) 4 rfl (headR E Q K id) (headR E Q K id ++ pbl M 4 4) _ HO5.out.seg (by omega) (by omega) (by omega) (by omega) (by omega) rfl).mono ?_
  rintro r y6 ⟨⟨g6, cc6, rfl, own⟩, hb⟩
  have HO6 : Hid (Owns y6 y0.heap.size (some ⟨g6, 0, none⟩) (11 + id.size) cc6 (headR E Q K id ++ pbl M 4 4)) := owns_low own H5.out.size
  have H6 : Hid (Below y0.heap.size y0 y6) := H5.out.trans (hb.mono H5.out.size)
  clear own hb H5 HO5 c4
  have c5 := (HQ0.out _ H6.out).cell 5 rfl
  go_wp2_with fail
  refine (implPutL (some ⟨g6, 0, none⟩) (11 + id.size) cc6 d 1 (12 + id.size) 1 rfl (headR E Q K id ++ pbl M 4 4) (headR E Q K id ++ pbl M 4 4 ++ pbl zs.length 1 1) _ HO6.out.seg (by omega) (by omega) (by omega) (by omega) (by omega) (by rw [hzd])).mono ?_
  rintro r y7 ⟨⟨g7, cc7, rfl, own⟩, hb⟩
  have HO7 : Hid (Owns y7 y0.heap.size (some ⟨g7, 0, none⟩) (12 + id.size) cc7 (headR E Q K id ++ pbl M 4 4 ++ pbl zs.length 1 1)) := owns_low own H6.out.size
  have H7 : Hid (Below y0.heap.size y0 y7) := H6.out.trans (hb.mono H6.out.size)
  clear own hb H6 HO6 c5
  have c5 := (HQ0.out _ H7.out).cell 5 rfl
  have HSz : Hid (y0.heap.size ≤ y7.heap.size) := H7.out.size
  go_wp2_with (at_builtin; refine wpl_append_app rfl _ _ 22 22 rfl y0.heap.size 5 i0 (.int .u8 0) 1 1 Tryz.underlying22 ji jz0 jz1 jz2 rfl (by decide) g7 (12 + id.size) cc7 _ rfl HO7.out.1 _ d (zs.map (Value.int .u8)) rfl (HS0.out _ H7.out).src (by unfold maxLen; omega) (by omega) HSz.out (12 + id.size + d) rfl (by omega) ((recB E Q K id M zs).map (Value.int .u8)) (by rw [← List.map_append]; rfl) ?_; intro g8 cc8 y8 hown hg; refine Hid.out ?_)
  refine hidden ?_
  have HO8 : Hid (Owns y8 y0.heap.size (some ⟨g8, 0, none⟩) (12 + id.size + d) cc8 (recB E Q K id M zs)) := ⟨hown, recB_range _ _ _ _ _ _ (HS0.out _ H7.out).2.1⟩
  have H8 : Hid (Below y0.heap.size y0 y8) := H7.out.grown hg H7.out.size (fun q e => by injection e with e; have := (HO7.out.lt g7 rfl).1; omega)
  clear hown hg H7 HO7 c5 HSz
  generalize hL : recB E Q K id M zs = L at *
  have HL2 : Hid (recB E Q K id M zs = L) := hL
  clear hL
  go_wp2_with fail
  refine (implCrc_any _ _ cc8 L y8 HO8.out.seg (by omega)).mono ?_
  rintro r y9 ⟨rfl, rfl⟩
  have hcr : crcL L ^^^ 4294967295 < 4294967296 := xor_lt32 _ _ (crcL_lt L HO8.out.2) (by omega)
  go_wp2_with fail
  refine (implPutL (some ⟨g8, 0, none⟩) (12 + id.size + d) cc8 (crcL L ^^^ 4294967295) 4 (16 + id.size + d) 4 rfl L (sumB L) _ HO8.out.seg (by omega) (by omega) (by omega) (by omega) (by omega) rfl).mono ?_
  rintro r y10 ⟨⟨g10, cc10, rfl, own10⟩, hb10⟩
  have hcv := conv_txt (c := cc10) own10.seg
  have HB10 : Hid (Below w.heap.size w y10) := HB0.out.trans ((H8.out.trans (hb10.mono H8.out.size)).mono HB0.out.size)
  generalize hZ : sumB L = Z at *
  have HZ : Hid (sumB L = Z) := hZ
  clear own10 hb10 hZ
  go_wp2_with fail
  go_ret
  exact ⟨by rw [HF.out]; rfl, HB10.out⟩

end Go.Proofs.YtlkgopoicpnacaaGreatDoor

namespace Go.Proofs.YtlkgopoicpnacaaGreatDoor
open Go.RowKit
set_option linter.unusedVariables false

/-- A text as an array: how long it is, its bytes, noughts behind them. -/
def rtU (s : ByteArray) : List UInt8 := UInt8.ofNat s.size :: (s.data.toList ++ List.replicate (48 - s.size) 0)
def rtV (s : ByteArray) : Array Value := ((rtU s).map Extern.Stop.cell).toArray

theorem rtU_len (s : ByteArray) (h : s.size ≤ 48) : (rtU s).length = 49 := by
  simp [rtU]
  omega

theorem rtU_inj {s t : ByteArray} (hs : s.size ≤ 48) (ht : t.size ≤ 48) (h : rtU s = rtU t) : s = t := by
  simp only [rtU, List.cons.injEq] at h
  have h1 : s.size = t.size := by
    have := congrArg UInt8.toNat h.1
    simp at this
    omega
  have h2 : s.data.toList = t.data.toList := by
    have := h.2
    rw [h1] at this
    exact List.append_cancel_right this
  cases s
  cases t
  exact congrArg ByteArray.mk (Array.toList_inj.1 h2)

theorem rtSize : ∀ w, (sizeOf 5).run Tryz.prog w = .ok 1 w := fun w => by simp [go_sem]

/-- Two arrays held against each other. -/
theorem rt_eq (s t : ByteArray) (hs : s.size ≤ 48) (ht : t.size ≤ 48) (w : World) : (Op.equalIn 10000 131 (.agg (rtV s)) (.agg (rtV t))).run Tryz.prog w = .ok (decide (s = t)) w := by
  simp only [rtV]
  rw [run_equalIn_bytes w 9998 131 5 49 Tryz.underlying131 Tryz.underlying5 rtSize _ _ (rtU_len s hs) (rtU_len t ht)]
  congr 1
  rw [Bool.eq_iff_iff]
  by_cases h : s = t
  · subst h; simp
  · have : rtU s ≠ rtU t := fun e => h (rtU_inj hs ht e)
    simp [h, this]

theorem rt_cells (v z : Value) (X : List Value) (K n : Nat) : List.take 1 (v :: List.replicate K z).toArray.toList ++ X ++ List.drop (1 + n) (v :: List.replicate K z).toArray.toList = v :: (X ++ List.replicate (K - n) z) := by
  rw [Nat.add_comm, List.drop_succ_cons, List.drop_replicate]
  rfl

theorem Tryz.infoT : (Tryz.prog.info? 131).map (fun i => (i.zero, i.size)) = some (some (.agg (Array.replicate 49 (.int .u8 0))), 49) := by kernel_rfl

set_option maxRecDepth 100000 in
theorem rt_built (n : Int) : Tryz.prog.built 131 [(0, .int .u8 n)] = some ((Value.int .u8 n :: List.replicate 48 (Value.int .u8 0)).toArray) := by rfl

set_option maxRecDepth 10000 in
set_option maxHeartbeats 1600000 in
theorem recText_any (s : ByteArray) (w : World) (h : s.size ≤ 48) :
    Calls Tryz.prog 93 #[.string s] w fun e w' => e = .returned (.agg (rtV s)) ∧ Below w.heap.size w w' := by
  obtain ⟨i0, hi, hz0, hz1, hz2⟩ := info_parts Tryz.info5
  obtain ⟨Z, hZ⟩ : ∃ Z, Array.replicate 49 (Value.int .u8 0) = Z := ⟨_, rfl⟩
  have hz : ∀ w, (zeroValue 131).run Tryz.prog w = .ok (.agg Z) w := by rw [← hZ]; exact (zero_of_info Tryz.infoT).1
  have HZs : Hid (Z.size = 49) := by show _ = _; rw [← hZ]; simp
  have HTs : Hid ((Tryz.prog.info? 131).map (·.size) = some 49) := (zero_of_info Tryz.infoT).2
  obtain ⟨B1, hB1⟩ : ∃ B1, (Value.int .u8 (s.size : Int) :: List.replicate 48 (Value.int .u8 0)).toArray = B1 := ⟨_, rfl⟩
  have hbu : Tryz.prog.built 131 [(0, .int .u8 (s.size : Int))] = some B1 := by rw [← hB1]; exact rt_built _
  have HB1s : Hid (B1.size = 49) := by show _ = _; rw [← hB1]; simp
  have HB1o : Hid (B1.all (·.oneCell') = true) := by show _ = _; rw [← hB1]; simp [List.all_cons, Value.oneCell']
  obtain ⟨w1, hw1⟩ : ∃ w1, w.alloc (.cells Z 131) = w1 := ⟨_, rfl⟩
  have HE1 : Hid (w.alloc (.cells Z 131) = w1) := hw1
  have HR1 : Hid (w1.heap[w.heap.size]? = some (.cells Z 131 (0, 0))) := by show _ = _; rw [← hw1]; exact heap_alloc_new w _
  have HBl : Hid (Below w.heap.size w w1) := by show Below _ _ _; rw [← hw1]; exact (Below.refl _ _).alloc (Nat.le_refl _) _
  have HCC : Hid ((B1.toList.take 1 ++ Lib.byteCells s.data.toList ++ B1.toList.drop (1 + s.size)).toArray = rtV s) := by
    show _ = _
    rw [← hB1, rtV, rtU, rt_cells]
    have h1 : Extern.Stop.cell (UInt8.ofNat s.size) = Value.int .u8 (s.size : Int) := by
      have : (UInt8.ofNat s.size).toNat = s.size := by simp; omega
      rw [Extern.Stop.cell, this]
      rfl
    rw [List.map_cons, List.map_append, List.map_replicate, h1]
    rfl
  clear hw1 hZ hB1
  go_enter Tryz.func93, Tryz.ntmps93
  go_upto_region 1 with fail
  rw [HE1.out]
  clear HE1
  obtain ⟨RV, hRV⟩ : ∃ RV, rtV s = RV := ⟨_, rfl⟩
  have HRV : Hid (rtV s = RV) := hRV
  have HRs : Hid (RV.size = 49) := by show _ = _; rw [← hRV, rtV]; simp [rtU_len s h]
  have HRo : Hid (RV.all (·.oneCell') = true) := by show _ = _; rw [← hRV, rtV]; simp [Extern.Stop.cell, Value.oneCell']
  have hcp : (Builtin.copy_ #[22, 9] 3 #[.slice (some ⟨w1.heap.size, 1, none⟩) 48 48, .string s]).run Tryz.prog (w1.alloc (.cells B1 131)) = .ok (goInt s.size) (w1.alloc (.cells RV 131)) := by
    have hr := Lib.run_copy_row_string (P := Tryz.prog) (w1.alloc (.cells B1 131)) 22 9 3 5 w1.heap.size 1 48 48 s B1 131 Tryz.underlying22 (by rw [hi]; simp [hz1]) (heap_alloc_last w1 _) h (by rw [HB1s.out]; omega)
    rw [World.setRow_alloc_new] at hr
    rw [hr, HCC.out, hRV]
  clear hRV
  go_upto_region 3 with (first | (refine wpList_build rfl _ _ rfl (by simp [go_sem, hbu]) ?_) | refine wpList_store_row rfl 131 _ _ rfl w1.heap.size B1 rfl rfl 131 Z (heap_alloc_last w1 _) (by rw [HB1s.out]; exact HTs.out) (by rw [HB1s.out]; exact HZs.out) HB1o.out ?_; rw [World.setRow_alloc_new])
  have HL : Hid ((w1.alloc (.cells RV 131)).heap[w1.heap.size]? = some (.cells RV 131 (0, 0))) := heap_alloc_new w1 _
  have HR2 : Hid ((w1.alloc (.cells RV 131)).heap[w.heap.size]? = some (.cells Z 131 (0, 0))) := by
    show _ = _
    rw [← HR1.out]
    exact heap_alloc_old w1 _ (Array.getElem?_eq_some_iff.1 HR1.out).1
  have HB2 : Hid (Below w.heap.size w (w1.alloc (.cells RV 131))) := HBl.out.alloc HBl.out.size _
  obtain ⟨w2, hw2⟩ : ∃ w2, w1.alloc (.cells RV 131) = w2 := ⟨_, rfl⟩
  rw [hw2] at HL HR2 HB2 ⊢
  clear hw2 hcp
  go_wp2_with (first
    | (refine wpList_load_row rfl 131 _ rfl w1.heap.size rfl 131 RV (0, 0) _ HL.out Tryz.underlying131 rfl (by rw [HRs.out]; exact HTs.out) ?_)
    | (refine wpList_store_row rfl 131 _ _ rfl w.heap.size RV rfl rfl 131 Z HR2.out (by rw [HRs.out]; exact HTs.out) (by rw [HRs.out]; exact HZs.out) HRo.out ?_))
  refine bodyPost_ret (results_cell_row rfl _ _ w.heap.size 131 RV (0, 0) _ rfl (setRow_heap w2 w.heap.size _ _ 131 _ HR2.out) Tryz.underlying131 rfl (by rw [HRs.out]; exact HTs.out)) rfl ?_
  exact ⟨by rw [HRV.out], below_setRow HB2.out (Nat.le_refl _) _⟩

end Go.Proofs.YtlkgopoicpnacaaGreatDoor

namespace Go.Proofs.YtlkgopoicpnacaaGreatDoor
open Go.RowKit
set_option linter.unusedVariables false

theorem seg_bytesI (w1 : World) (s : ByteArray) : Seg (Lib.bytesWorld w1 5 s) (some ⟨w1.heap.size, 0, none⟩) s.size (txI s) := by
  refine ⟨txI_len s, txI_range s, .inr ⟨w1.heap.size, 0, rfl, by rw [Lib.bytesWorld_size]; omega, fun i hi => ?_⟩⟩
  rw [Nat.zero_add, Lib.bytesWorld_cell w1 5 s i hi]
  have h3 : i < s.data.size := hi
  simp only [txI, List.getD_eq_getElem?_getD, List.getElem?_map, Array.getElem?_toList]
  rw [Array.getElem?_eq_getElem h3]
  rfl

theorem loose_len (l : List Int) (hr : ∀ x ∈ l, 0 ≤ x ∧ x ≤ 255) : (looseR l).id.size ≤ 255 ∧ (looseR l).zs.length ≤ 255 := by
  rw [looseR]
  dsimp only
  rw [txU_size, shortL_len, shortL_len]
  have h1 := (shortN_is l hr 6).2
  have h2 := (shortN_is l hr (11 + shortN l 6)).2
  constructor <;> split <;> omega

theorem putT_okI {r : R} (h : r.ok = true) : putT r.e r.q r.k r.id r.n r.zs = txU r.put := by rw [putT, show okRec r.e r.q r.k r.id r.n r.zs.length = true from h]; rfl

theorem putT_size (r : R) : (putT r.e r.q r.k r.id r.n r.zs).size ≤ 48 := by
  rw [putT]
  split
  · rename_i h
    obtain ⟨_, _, _, hi, _, hd⟩ := okRec_iff h
    rw [txU_size]
    have := put_len r
    rw [R.put, R.body] at this
    omega
  · exact Nat.zero_le _

set_option maxRecDepth 10000 in
set_option maxHeartbeats 3200000 in
theorem implGetR_any (s : ByteArray) (w : World) (hs : s.size ≤ 1099511627776) (ht : RecT w) :
    Calls Tryz.prog 64 #[.string s] w fun e w' => (∃ v, e = .returned v ∧ GotR w.heap.size s v w') ∧ Below w.heap.size w w' := by
  obtain ⟨w1, hw1⟩ : ∃ w1, w.alloc (.cells #[.int .i64 0, .int .i64 0, .int .i64 0, .string ⟨#[]⟩, .int .i64 0, .slice none 0 0] 107) = w1 := ⟨_, rfl⟩
  have HE : Hid (w.alloc (.cells #[.int .i64 0, .int .i64 0, .int .i64 0, .string ⟨#[]⟩, .int .i64 0, .slice none 0 0] 107) = w1) := hw1
  have HQ1 : Hid (BoxN w1 w.heap.size 107 [.int .i64 0, .int .i64 0, .int .i64 0, .string ⟨#[]⟩, .int .i64 0, .slice none 0 0]) := by show BoxN _ _ _ _; rw [← hw1]; exact BoxN.new _ _ _
  have HB1 : Hid (Below w.heap.size w w1) := by show Below _ _ _; rw [← hw1]; exact (Below.refl _ _).alloc (Nat.le_refl _) _
  have HT1 : Hid (RecT w1) := ht.below HB1.out
  clear hw1 ht
  go_enter Tryz.func64, Tryz.ntmps64
  go_upto_region 1 with fail
  rw [HE.out]
  clear HE
  by_cases hlen : 48 < s.size
  · have hli : (48 : Int) < (s.size : Int) := by omega
    have HX : Hid (recOf s = none) := recOf_long hlen
    have HQz : Hid (BoxN w1 w.heap.size 107 [.int .i64 0, .int .i64 0, .int .i64 0, .string ⟨#[]⟩, .int .i64 0, .slice none 0 0]) := HQ1.out
    have HBz : Hid (Below w.heap.size w w1) := HB1.out
    obtain ⟨r0, r1, r2, r3, r4, r5⟩ := (show _ ∧ _ ∧ _ ∧ _ ∧ _ ∧ _ from ⟨HQz.out.cell 0 rfl, HQz.out.cell 1 rfl, HQz.out.cell 2 rfl, HQz.out.cell 3 rfl, HQz.out.cell 4 rfl, HQz.out.cell 5 rfl⟩)
    have f0 := HQz.out.frozen 0
    have f1 := HQz.out.frozen 1
    have f2 := HQz.out.frozen 2
    have f3 := HQz.out.frozen 3
    have f4 := HQz.out.frozen 4
    have f5 := HQz.out.frozen 5
    go_wp2_with fail
    refine bodyPost_ret (v := .tuple #[.agg #[.int .i64 0, .int .i64 0, .int .i64 0, .string ⟨#[]⟩, .int .i64 0, .slice none 0 0], .bool false]) (by simp [results, Tryz.f64, go_sem, r0, r1, r2, r3, r4, r5]) rfl ?_
    exact ⟨⟨_, rfl, .inl ⟨HX.out, rfl⟩⟩, (((((HBz.out.setCell (Nat.le_refl _) _).setCell (Nat.le_refl _) _).setCell (Nat.le_refl _) _).setCell (Nat.le_refl _) _).setCell (Nat.le_refl _) _).setCell (Nat.le_refl _) _⟩
  have hli : ¬ (48 : Int) < (s.size : Int) := by omega
  have hl48 : s.size ≤ 48 := by omega
  have hcv := Lib.run_convert_string_bytes (P := Tryz.prog) w1 9 22 5 s (u := .string) Tryz.underlying9 Tryz.underlying22 Tryz.underlying5
  have hbw : Below w1.heap.size w1 (Lib.bytesWorld w1 5 s) := Lib.bytesWorld_below w1 5 s
  have hsg := seg_bytesI w1 s
  have hcp : s.size ≤ grownCap w1 s.size 0 5 := grownCap_ge w1 s.size 0 5
  obtain ⟨W2, hW2⟩ : ∃ W2, Lib.bytesWorld w1 5 s = W2 := ⟨_, rfl⟩
  obtain ⟨cp, hcpe⟩ : ∃ cp, grownCap w1 s.size 0 5 = cp := ⟨_, rfl⟩
  rw [hW2] at hcv hbw hsg
  rw [hcpe] at hcv hcp
  clear hW2 hcpe
  have HB2 : Hid (Below w.heap.size w W2) := HB1.out.trans (hbw.mono HB1.out.size)
  have HQ2 : Hid (BoxN W2 w.heap.size 107 [.int .i64 0, .int .i64 0, .int .i64 0, .string ⟨#[]⟩, .int .i64 0, .slice none 0 0]) := HQ1.out.stays hbw
  have HT2 : Hid (RecT W2) := HT1.out.below hbw
  have HS2 : Hid (Seg W2 (some ⟨w1.heap.size, 0, none⟩) s.size (txI s)) := hsg
  clear hbw hsg hlen
  go_wp2_with fail
  refine (recOfI_any (some ⟨w1.heap.size, 0, none⟩) s.size cp (txI s) W2 HS2.out hcp hl48).mono ?_
  rintro e W3 ⟨⟨A, C, rfl, ho3⟩, hb3⟩
  clear hcv
  have HG1 : Hid ((looseR (txI s)).ok = true → (looseR (txI s)).put = txI s → recOf s = some (looseR (txI s))) := loose_some
  have HG2 : Hid (¬ ((looseR (txI s)).ok = true ∧ (looseR (txI s)).put = txI s) → recOf s = none) := loose_none
  obtain ⟨hid, hzs⟩ := loose_len (txI s) (txI_range s)
  generalize looseR (txI s) = r at *
  have hb4 := (Below.refl W3.heap.size W3).alloc (Nat.le_refl _) (.cells #[.int .i64 r.e, .int .i64 r.q, .int .i64 r.k, .string r.id, .int .i64 r.n, .slice A r.zs.length C] 107)
  have HB4 : Hid (Below w.heap.size w (W3.alloc (.cells #[.int .i64 r.e, .int .i64 r.q, .int .i64 r.k, .string r.id, .int .i64 r.n, .slice A r.zs.length C] 107))) := HB2.out.trans ((hb3.trans (hb4.mono hb3.size)).mono HB2.out.size)
  have HQ4 : Hid (BoxN (W3.alloc (.cells #[.int .i64 r.e, .int .i64 r.q, .int .i64 r.k, .string r.id, .int .i64 r.n, .slice A r.zs.length C] 107)) w.heap.size 107 [.int .i64 0, .int .i64 0, .int .i64 0, .string ⟨#[]⟩, .int .i64 0, .slice none 0 0]) := (HQ2.out.stays hb3).stays hb4
  have HT4 : Hid (RecT (W3.alloc (.cells #[.int .i64 r.e, .int .i64 r.q, .int .i64 r.k, .string r.id, .int .i64 r.n, .slice A r.zs.length C] 107))) := (HT2.out.below hb3).below hb4
  have HO4 : Hid (Owns (W3.alloc (.cells #[.int .i64 r.e, .int .i64 r.q, .int .i64 r.k, .string r.id, .int .i64 r.n, .slice A r.zs.length C] 107)) W2.heap.size A r.zs.length C r.zs) := ho3.below hb4
  have HR4 : Hid (BoxN (W3.alloc (.cells #[.int .i64 r.e, .int .i64 r.q, .int .i64 r.k, .string r.id, .int .i64 r.n, .slice A r.zs.length C] 107)) W3.heap.size 107 [.int .i64 r.e, .int .i64 r.q, .int .i64 r.k, .string r.id, .int .i64 r.n, .slice A r.zs.length C]) := BoxN.new _ _ _
  have HW2 : Hid (w.heap.size + 1 ≤ W2.heap.size) := HQ2.out.lt
  clear hb3 hb4 ho3
  go_upto_region 4 with fail
  obtain ⟨W4, hW4⟩ : ∃ W4, W3.alloc (.cells #[.int .i64 r.e, .int .i64 r.q, .int .i64 r.k, .string r.id, .int .i64 r.n, .slice A r.zs.length C] 107) = W4 := ⟨_, rfl⟩
  rw [hW4] at HB4 HQ4 HT4 HO4 HR4 ⊢
  clear hW4
  generalize W3.heap.size = rr at *
  have hrl : rr < W4.heap.size := HR4.out.lt
  have x0 : ∀ P : Past W4, P.world.cell? ⟨rr, 0, none⟩ = some (.int .i64 r.e) := fun P => P.cell hrl (HR4.out.cell 0 rfl)
  have x1 : ∀ P : Past W4, P.world.cell? ⟨rr, 1, none⟩ = some (.int .i64 r.q) := fun P => P.cell hrl (HR4.out.cell 1 rfl)
  have x2 : ∀ P : Past W4, P.world.cell? ⟨rr, 2, none⟩ = some (.int .i64 r.k) := fun P => P.cell hrl (HR4.out.cell 2 rfl)
  have x3 : ∀ P : Past W4, P.world.cell? ⟨rr, 3, none⟩ = some (.string r.id) := fun P => P.cell hrl (HR4.out.cell 3 rfl)
  have x4 : ∀ P : Past W4, P.world.cell? ⟨rr, 4, none⟩ = some (.int .i64 r.n) := fun P => P.cell hrl (HR4.out.cell 4 rfl)
  have x5 : ∀ P : Past W4, P.world.cell? ⟨rr, 5, none⟩ = some (.slice A r.zs.length C) := fun P => P.cell hrl (HR4.out.cell 5 rfl)
  have HRok : Hid (∀ P : Past W4, Calls Tryz.prog 92 #[.agg #[.int .i64 r.e, .int .i64 r.q, .int .i64 r.k, .string r.id, .int .i64 r.n, .slice A r.zs.length C]] P.world fun e w' => e = .returned (.bool r.ok) ∧ Below P.world.heap.size P.world w') := fun P => implRok_any _ _ _ _ _ _ _ _ _ (by unfold maxLen; omega) (by omega) (HT4.out.below P.below)
  have HTx : Hid (∀ P : Past W4, Calls Tryz.prog 93 #[.string s] P.world fun e w' => e = .returned (.agg (rtV s)) ∧ Below P.world.heap.size P.world w') := fun P => recText_any s _ hl48
  have HPt : Hid (∀ P : Past W4, Calls Tryz.prog 94 #[.agg #[.int .i64 r.e, .int .i64 r.q, .int .i64 r.k, .string r.id, .int .i64 r.n, .slice A r.zs.length C]] P.world fun e w' => e = .returned (.string (putT r.e r.q r.k r.id r.n r.zs)) ∧ Below P.world.heap.size P.world w') := fun P => implPutR_any _ _ _ _ _ _ _ _ r.zs _ (HO4.out.seg.below P.below) (by unfold maxLen; omega) (by omega) (HT4.out.below P.below)
  have HTy : Hid (∀ P : Past W4, Calls Tryz.prog 93 #[.string (putT r.e r.q r.k r.id r.n r.zs)] P.world fun e w' => e = .returned (.agg (rtV (putT r.e r.q r.k r.id r.n r.zs))) ∧ Below P.world.heap.size P.world w') := fun P => recText_any _ _ (putT_size r)
  have hnq : ∀ P : Past W4, (Op.equalIn 10000 131 (.agg (rtV s)) (.agg (rtV (putT r.e r.q r.k r.id r.n r.zs)))).run Tryz.prog P.world = .ok (decide (s = putT r.e r.q r.k r.id r.n r.zs)) P.world := fun P => rt_eq s _ hl48 (putT_size r) _
  have hne := past_some W4
  have HSame : Hid (r.ok = true → putT r.e r.q r.k r.id r.n r.zs = txU r.put) := putT_okI
  have HRng : Hid (txI (txU r.put) = r.put) := txI_txU _ (sumB_range _ (recB_range _ _ _ _ _ _ HO4.out.2))
  generalize putT r.e r.q r.k r.id r.n r.zs = tt at *
  generalize rtV s = V1 at *
  generalize rtV tt = V2 at *
  cases hok : r.ok
  · rw [hok] at HRok
    have HX : Hid (recOf s = none) := HG2.out (fun h => by rw [hok] at h; cases h.1)
    clear hok HG1 HG2 HSame HRng
    refine wp_region_pastO (by kernel_rfl) (by kernel_rfl) fun ops HO => ?_
    iterate 4 (quiet_step ((first
      | (go_at_call 92; with_reducible exact calls_past (HRok.out _))
      | (go_at_call 93; first | with_reducible exact calls_past (HTx.out _) | with_reducible exact calls_past (HTy.out _))
      | (go_at_call 94; with_reducible exact calls_past (HPt.out _))
      | fail)))
    iterate 6 (refine quiet_past (by rw [HO.out]; kernel_rfl) ?_)
    repeat (quiet_step ((first
      | (go_at_call 92; with_reducible exact calls_past (HRok.out _))
      | (go_at_call 93; first | with_reducible exact calls_past (HTx.out _) | with_reducible exact calls_past (HTy.out _))
      | (go_at_call 94; with_reducible exact calls_past (HPt.out _))
      | fail)))
    refine wpQuiet_nil ?_
    rintro _ ⟨z, rfl⟩
    have HQz : Hid (BoxN z.world w.heap.size 107 [.int .i64 0, .int .i64 0, .int .i64 0, .string ⟨#[]⟩, .int .i64 0, .slice none 0 0]) := HQ4.out.stays z.below
    have HBz : Hid (Below w.heap.size w z.world) := HB4.out.trans (z.below.mono HB4.out.size)
    clear x0 x1 x2 x3 x4 x5 HRok HTx HPt HTy hnq HQ4 HB4
    obtain ⟨r0, r1, r2, r3, r4, r5⟩ := (show _ ∧ _ ∧ _ ∧ _ ∧ _ ∧ _ from ⟨HQz.out.cell 0 rfl, HQz.out.cell 1 rfl, HQz.out.cell 2 rfl, HQz.out.cell 3 rfl, HQz.out.cell 4 rfl, HQz.out.cell 5 rfl⟩)
    have f0 := HQz.out.frozen 0
    have f1 := HQz.out.frozen 1
    have f2 := HQz.out.frozen 2
    have f3 := HQz.out.frozen 3
    have f4 := HQz.out.frozen 4
    have f5 := HQz.out.frozen 5
    go_wp2_with fail
    refine bodyPost_ret (v := .tuple #[.agg #[.int .i64 0, .int .i64 0, .int .i64 0, .string ⟨#[]⟩, .int .i64 0, .slice none 0 0], .bool false]) (by simp [results, Tryz.f64, go_sem, r0, r1, r2, r3, r4, r5]) rfl ?_
    exact ⟨⟨_, rfl, .inl ⟨HX.out, rfl⟩⟩, (((((HBz.out.setCell (Nat.le_refl _) _).setCell (Nat.le_refl _) _).setCell (Nat.le_refl _) _).setCell (Nat.le_refl _) _).setCell (Nat.le_refl _) _).setCell (Nat.le_refl _) _⟩
  rw [hok] at HRok
  have HTt : Hid (txI tt = r.put) := by show _ = _; rw [HSame.out hok, HRng.out]
  by_cases hst : s = tt
  case neg =>
    have hd : decide (s = tt) = false := decide_eq_false hst
    rw [hd] at hnq
    have HX : Hid (recOf s = none) := HG2.out (fun h => hst (txI_inj (by rw [HTt.out, h.2])))
    clear hok HG1 HG2 HSame HRng HTt hst hd
    refine wp_region_pastO (by kernel_rfl) (by kernel_rfl) fun ops HO => ?_
    iterate 4 (quiet_step ((first
      | (go_at_call 92; with_reducible exact calls_past (HRok.out _))
      | (go_at_call 93; first | with_reducible exact calls_past (HTx.out _) | with_reducible exact calls_past (HTy.out _))
      | (go_at_call 94; with_reducible exact calls_past (HPt.out _))
      | fail)))
    iterate 6 (refine quiet_do (by rw [HO.out]; kernel_rfl) (fun K hK => ?_); go_simp; first | (refine hK _ ?_; clear hK K) | (apply Exists.intro; refine ⟨fun _ => ?_, hK _ ?_⟩; (first | (go_at_call 92; with_reducible exact calls_past (HRok.out _)) | (go_at_call 93; first | with_reducible exact calls_past (HTx.out _) | with_reducible exact calls_past (HTy.out _)) | (go_at_call 94; with_reducible exact calls_past (HPt.out _)) | fail); clear hK K))
    repeat (quiet_step ((first
      | (go_at_call 92; with_reducible exact calls_past (HRok.out _))
      | (go_at_call 93; first | with_reducible exact calls_past (HTx.out _) | with_reducible exact calls_past (HTy.out _))
      | (go_at_call 94; with_reducible exact calls_past (HPt.out _))
      | fail)))
    refine wpQuiet_nil ?_
    rintro _ ⟨z, rfl⟩
    have HQz : Hid (BoxN z.world w.heap.size 107 [.int .i64 0, .int .i64 0, .int .i64 0, .string ⟨#[]⟩, .int .i64 0, .slice none 0 0]) := HQ4.out.stays z.below
    have HBz : Hid (Below w.heap.size w z.world) := HB4.out.trans (z.below.mono HB4.out.size)
    clear x0 x1 x2 x3 x4 x5 HRok HTx HPt HTy hnq HQ4 HB4
    obtain ⟨r0, r1, r2, r3, r4, r5⟩ := (show _ ∧ _ ∧ _ ∧ _ ∧ _ ∧ _ from ⟨HQz.out.cell 0 rfl, HQz.out.cell 1 rfl, HQz.out.cell 2 rfl, HQz.out.cell 3 rfl, HQz.out.cell 4 rfl, HQz.out.cell 5 rfl⟩)
    have f0 := HQz.out.frozen 0
    have f1 := HQz.out.frozen 1
    have f2 := HQz.out.frozen 2
    have f3 := HQz.out.frozen 3
    have f4 := HQz.out.frozen 4
    have f5 := HQz.out.frozen 5
    go_wp2_with fail
    refine bodyPost_ret (v := .tuple #[.agg #[.int .i64 0, .int .i64 0, .int .i64 0, .string ⟨#[]⟩, .int .i64 0, .slice none 0 0], .bool false]) (by simp [results, Tryz.f64, go_sem, r0, r1, r2, r3, r4, r5]) rfl ?_
    exact ⟨⟨_, rfl, .inl ⟨HX.out, rfl⟩⟩, (((((HBz.out.setCell (Nat.le_refl _) _).setCell (Nat.le_refl _) _).setCell (Nat.le_refl _) _).setCell (Nat.le_refl _) _).setCell (Nat.le_refl _) _).setCell (Nat.le_refl _) _⟩
  have hd : decide (s = tt) = true := decide_eq_true hst
  rw [hd] at hnq
  have HX : Hid (recOf s = some r) := HG1.out hok (by rw [hst, HTt.out])
  clear hok HG1 HG2 HSame HRng HTt hst hd
  refine wp_region_pastO (by kernel_rfl) (by kernel_rfl) fun ops HO => ?_
  iterate 4 (quiet_step ((first
      | (go_at_call 92; with_reducible exact calls_past (HRok.out _))
      | (go_at_call 93; first | with_reducible exact calls_past (HTx.out _) | with_reducible exact calls_past (HTy.out _))
      | (go_at_call 94; with_reducible exact calls_past (HPt.out _))
      | fail)))
  iterate 6 (refine quiet_do (by rw [HO.out]; kernel_rfl) (fun K hK => ?_); go_simp; first | (refine hK _ ?_; clear hK K) | (apply Exists.intro; refine ⟨fun _ => ?_, hK _ ?_⟩; (first | (go_at_call 92; with_reducible exact calls_past (HRok.out _)) | (go_at_call 93; first | with_reducible exact calls_past (HTx.out _) | with_reducible exact calls_past (HTy.out _)) | (go_at_call 94; with_reducible exact calls_past (HPt.out _)) | fail); clear hK K))
  repeat (quiet_step ((first
      | (go_at_call 92; with_reducible exact calls_past (HRok.out _))
      | (go_at_call 93; first | with_reducible exact calls_past (HTx.out _) | with_reducible exact calls_past (HTy.out _))
      | (go_at_call 94; with_reducible exact calls_past (HPt.out _))
      | fail)))
  refine wpQuiet_nil ?_
  rintro _ ⟨z, rfl⟩
  have HQz : Hid (BoxN z.world w.heap.size 107 [.int .i64 0, .int .i64 0, .int .i64 0, .string ⟨#[]⟩, .int .i64 0, .slice none 0 0]) := HQ4.out.stays z.below
  have HRz : Hid (BoxN z.world rr 107 [.int .i64 r.e, .int .i64 r.q, .int .i64 r.k, .string r.id, .int .i64 r.n, .slice A r.zs.length C]) := HR4.out.stays z.below
  have HBz : Hid (Below w.heap.size w z.world) := HB4.out.trans (z.below.mono HB4.out.size)
  have HOz : Hid (Owns z.world (w.heap.size + 1) A r.zs.length C r.zs) := owns_low (HO4.out.below z.below) HW2.out
  clear x0 x1 x2 x3 x4 x5 HRok HTx HPt HTy hnq HQ4 HB4 HR4 HO4
  have HO9 : Hid (∀ (u0 u1 u2 u3 u4 u5 : Value), Owns ((((((z.world.setCell ⟨w.heap.size, 0, none⟩ u0).setCell ⟨w.heap.size, 1, none⟩ u1).setCell ⟨w.heap.size, 2, none⟩ u2).setCell ⟨w.heap.size, 3, none⟩ u3).setCell ⟨w.heap.size, 4, none⟩ u4).setCell ⟨w.heap.size, 5, none⟩ u5) w.heap.size A r.zs.length C r.zs) := fun u0 u1 u2 u3 u4 u5 => by
    have hA : A.map (·.block) ≠ some w.heap.size := fun e => by have := (HOz.out.lt _ e).1; omega
    exact owns_low (owns_set (owns_set (owns_set (owns_set (owns_set (owns_set HOz.out hA) hA) hA) hA) hA) hA) (by omega)
  obtain ⟨z0, z1, z2, z3, z4, z5⟩ := (show _ ∧ _ ∧ _ ∧ _ ∧ _ ∧ _ from ⟨HRz.out.cell 0 rfl, HRz.out.cell 1 rfl, HRz.out.cell 2 rfl, HRz.out.cell 3 rfl, HRz.out.cell 4 rfl, HRz.out.cell 5 rfl⟩)
  obtain ⟨r0, r1, r2, r3, r4, r5⟩ := (show _ ∧ _ ∧ _ ∧ _ ∧ _ ∧ _ from ⟨HQz.out.cell 0 rfl, HQz.out.cell 1 rfl, HQz.out.cell 2 rfl, HQz.out.cell 3 rfl, HQz.out.cell 4 rfl, HQz.out.cell 5 rfl⟩)
  have f0 := HQz.out.frozen 0
  have f1 := HQz.out.frozen 1
  have f2 := HQz.out.frozen 2
  have f3 := HQz.out.frozen 3
  have f4 := HQz.out.frozen 4
  have f5 := HQz.out.frozen 5
  go_wp2_with fail
  refine bodyPost_ret (v := .tuple #[.agg #[.int .i64 r.e, .int .i64 r.q, .int .i64 r.k, .string r.id, .int .i64 r.n, .slice A r.zs.length C], .bool true]) (by simp [results, Tryz.f64, go_sem, r0, r1, r2, r3, r4, r5]) rfl ?_
  exact ⟨⟨_, rfl, .inr ⟨r, A, C, HX.out, rfl, HO9.out _ _ _ _ _ _⟩⟩, (((((HBz.out.setCell (Nat.le_refl _) _).setCell (Nat.le_refl _) _).setCell (Nat.le_refl _) _).setCell (Nat.le_refl _) _).setCell (Nat.le_refl _) _).setCell (Nat.le_refl _) _⟩

end Go.Proofs.YtlkgopoicpnacaaGreatDoor

namespace Go.Proofs.YtlkgopoicpnacaaGreatDoor
open Go.RowKit
set_option linter.unusedVariables false

set_option maxRecDepth 10000 in
set_option maxHeartbeats 1600000 in
theorem implScan_any (a : Option Addr) (n ca : Nat) (xs : List ByteArray) (a' : Option Addr) (n' ca' : Nat) (w : World) (h1 : Strs w a n xs) (hn : n ≤ 1099511627776) (hz : ∀ x ∈ xs, x.size ≤ 1048576) (ht : RecT w) :
    Calls Tryz.prog 38 #[.agg #[.slice a n ca, .slice a' n' ca']] w fun e w' => (∃ v l, e = .returned v ∧ RcRow w' w.heap.size v l ∧ l.map RE.r = scanR xs) ∧ Below w.heap.size w w' := by
  obtain ⟨i0, hi, hz0, hz1, hz2⟩ := info_parts info_rec
  have HX : Hid (∀ W, Below w.heap.size w W → Strs W a n xs) := fun W h => h1.below h
  have HL : Hid (xs.length = n) := h1.1
  have HZ : Hid (∀ x ∈ xs, x.size ≤ 1048576) := hz
  have HRT : Hid (RecT w) := ht
  clear h1 hz ht
  obtain ⟨w0, hw0⟩ : ∃ w0, w.alloc (.cells #[.slice a n ca, .slice a' n' ca'] 26) = w0 := ⟨_, rfl⟩
  have HE : Hid (w.alloc (.cells #[.slice a n ca, .slice a' n' ca'] 26) = w0) := hw0
  have HA : Hid (Box2R w0 w.heap.size 26 (.slice a n ca) (.slice a' n' ca')) := by show Box2R _ _ _ _ _; rw [← hw0]; exact Box2R.new _ _ _ _
  have HB : Hid (Below w.heap.size w w0) := by show Below _ _ _; rw [← hw0]; exact (Below.refl _ _).alloc (Nat.le_refl _) _
  have HO0 : Hid (RcRow (w0.alloc (.cells #[] 107)) w0.heap.size (.slice (some ⟨w0.heap.size, 0, none⟩) 0 0) []) := RcRow.nil w0
  clear hw0
  have HB0 : Hid (Below w0.heap.size w0 (w0.alloc (.cells #[] 107))) := (Below.refl _ _).alloc (Nat.le_refl _) _
  obtain ⟨c0, c1⟩ := HA.out.cells
  have HA0 : Hid (Box2R (w0.alloc (.cells #[] 107)) w.heap.size 26 (.slice a n ca) (.slice a' n' ca')) := HA.out.alloc _
  obtain ⟨d0, d1⟩ := HA0.out.cells
  go_enter Tryz.func38, Tryz.ntmps38
  go_upto_region 1 with fail
  rw [HE.out]
  clear HE
  go_wp2_with fail
  clear c0 c1 d0 d1 HA0
  go_loopw [3, 4, 13] (fun v la i wr => ∃ (k : Nat) (last : Int) (l : List RE), k ≤ n ∧ k ≤ 200 ∧ l.length = k ∧ i = .int .i64 (k : Int) ∧ la = .int .i64 last ∧ Hid (RcRow wr w0.heap.size v l) ∧ Hid (l.map RE.r ++ scanFrom k last (xs.drop k) = scanR xs) ∧ Hid (Below w0.heap.size w0 wr)) (fun _ _ i _ => n - (intOf i).toNat)
  case atStart => exact ⟨0, 0, [], Nat.zero_le _, Nat.zero_le _, rfl, rfl, rfl, HO0, rfl, HB0⟩
  case round =>
    clear HO0 HB0
    obtain ⟨k, last, l, hk, hk2, hlk, rfl, rfl, HO, HS, HW⟩ := hrel
    obtain ⟨va, vc, hve⟩ := HO.out.shape
    subst hve
    rw [hlk] at HO ⊢
    by_cases hlt : k < n
    · have hb := HB.out.trans (HW.out.mono HB.out.size)
      obtain ⟨p, po, x, rfl, _, hkx, hp⟩ := (HX.out _ hb).at hlt
      have HK : Hid (xs[k]? = some x) := hkx
      have hxz : x.size ≤ 1048576 := HZ.out x (List.mem_of_getElem? hkx)
      have hki : (k : Int) < (n : Int) := by omega
      have hk0 : (0 : Int) ≤ (k : Int) := by omega
      have HTr : Hid (RecT wr) := HRT.out.below hb
      clear hkx hb
      have HEnd : Hid (nextR k last x = none → l.map RE.r = scanR xs) := fun h => by
        have h2 := HS.out
        rw [scan_stop HK.out h, List.append_nil] at h2
        exact h2
      go_wp2_with fail
      refine (implGetR_any x wr (by omega) HTr.out).mono ?_
      rintro _ w1 ⟨⟨v, rfl, hgot⟩, hb1⟩
      have hb01 : Below w0.heap.size w0 w1 := HW.out.trans (hb1.mono HW.out.size)
      rcases hgot with ⟨hr, rfl⟩ | ⟨r, A, C, hr, rfl, ho⟩
      · have HF : Hid (l.map RE.r = scanR xs) := HEnd.out (by rw [nextR, hr])
        have hb2 := (Below.refl w1.heap.size w1).alloc (Nat.le_refl _) (.cells #[.int .i64 0, .int .i64 0, .int .i64 0, .string ⟨#[]⟩, .int .i64 0, .slice none 0 0] 107)
        have HO2 : Hid (RcRow (w1.alloc (.cells #[.int .i64 0, .int .i64 0, .int .i64 0, .string ⟨#[]⟩, .int .i64 0, .slice none 0 0] 107)) w.heap.size (.slice va k vc) l) := ((HO.out.stays hb1).stays hb2).low HB.out.size
        have HW2 : Hid (Below w.heap.size w (w1.alloc (.cells #[.int .i64 0, .int .i64 0, .int .i64 0, .string ⟨#[]⟩, .int .i64 0, .slice none 0 0] 107))) := HB.out.trans ((hb01.alloc hb01.size _).mono HB.out.size)
        clear hr hb1 hb2 hb01 HW HO HEnd HS
        go_wp2_with fail
        go_ret
        exact ⟨⟨_, l, rfl, HO2.out, HF.out⟩, HW2.out⟩
      by_cases hq : r.q = (k : Int)
      case neg =>
        have hqb : (r.q != (k : Int)) = true := by simpa using hq
        have HF : Hid (l.map RE.r = scanR xs) := HEnd.out (by rw [nextR, hr]; exact if_neg (fun h => hq h.1))
        clear hq
        have hb2 := (Below.refl w1.heap.size w1).alloc (Nat.le_refl _) (.cells #[.int .i64 r.e, .int .i64 r.q, .int .i64 r.k, .string r.id, .int .i64 r.n, .slice A r.zs.length C] 107)
        have HO2 : Hid (RcRow (w1.alloc (.cells #[.int .i64 r.e, .int .i64 r.q, .int .i64 r.k, .string r.id, .int .i64 r.n, .slice A r.zs.length C] 107)) w.heap.size (.slice va k vc) l) := ((HO.out.stays hb1).stays hb2).low HB.out.size
        have HW2 : Hid (Below w.heap.size w (w1.alloc (.cells #[.int .i64 r.e, .int .i64 r.q, .int .i64 r.k, .string r.id, .int .i64 r.n, .slice A r.zs.length C] 107))) := HB.out.trans ((hb01.alloc hb01.size _).mono HB.out.size)
        clear hr hb1 hb2 hb01 HW HO HEnd HS ho
        go_wp2_with fail
        go_ret
        exact ⟨⟨_, l, rfl, HO2.out, HF.out⟩, HW2.out⟩
      have hqb : (r.q != (k : Int)) = false := by simpa using hq
      have HQk : Hid (r.q = (k : Int)) := hq
      clear hq
      by_cases he : last ≤ r.e
      case neg =>
        have hel : r.e < last := by omega
        have HF : Hid (l.map RE.r = scanR xs) := HEnd.out (by rw [nextR, hr]; exact if_neg (fun h => he h.2))
        clear he
        have hb2 := (Below.refl w1.heap.size w1).alloc (Nat.le_refl _) (.cells #[.int .i64 r.e, .int .i64 r.q, .int .i64 r.k, .string r.id, .int .i64 r.n, .slice A r.zs.length C] 107)
        have HO2 : Hid (RcRow (w1.alloc (.cells #[.int .i64 r.e, .int .i64 r.q, .int .i64 r.k, .string r.id, .int .i64 r.n, .slice A r.zs.length C] 107)) w.heap.size (.slice va k vc) l) := ((HO.out.stays hb1).stays hb2).low HB.out.size
        have HW2 : Hid (Below w.heap.size w (w1.alloc (.cells #[.int .i64 r.e, .int .i64 r.q, .int .i64 r.k, .string r.id, .int .i64 r.n, .slice A r.zs.length C] 107))) := HB.out.trans ((hb01.alloc hb01.size _).mono HB.out.size)
        clear hr hb1 hb2 hb01 HW HO HEnd HS ho
        go_wp2_with fail
        go_ret
        exact ⟨⟨_, l, rfl, HO2.out, HF.out⟩, HW2.out⟩
      have hel : ¬ r.e < last := by omega
      have hok := okRec_iff (recOf_iff.1 hr).1
      have hk199 : k ≤ 199 := by have h1 := hok.2.1; have h2 := HQk.out; omega
      have hd24 : r.zs.length ≤ 24 := hok.2.2.2.2.2
      have HS2 : Hid (l.map RE.r ++ r :: scanFrom (k + 1) r.e (xs.drop (k + 1)) = scanR xs) := by
        have h2 := HS.out
        rw [scan_go HK.out (show nextR k last x = some r by rw [nextR, hr]; exact if_pos ⟨HQk.out, he⟩)] at h2
        exact h2
      have hb2 := (Below.refl w1.heap.size w1).alloc (Nat.le_refl _) (.cells #[.int .i64 r.e, .int .i64 r.q, .int .i64 r.k, .string r.id, .int .i64 r.n, .slice A r.zs.length C] 107)
      have HB2 : Hid (Below w0.heap.size w0 (w1.alloc (.cells #[.int .i64 r.e, .int .i64 r.q, .int .i64 r.k, .string r.id, .int .i64 r.n, .slice A r.zs.length C] 107))) := hb01.alloc hb01.size _
      have HO2 : Hid (RcRow (w1.alloc (.cells #[.int .i64 r.e, .int .i64 r.q, .int .i64 r.k, .string r.id, .int .i64 r.n, .slice A r.zs.length C] 107)) w0.heap.size (.slice va k vc) l) := (HO.out.stays hb1).stays hb2
      have HG2 : Hid (Owns (w1.alloc (.cells #[.int .i64 r.e, .int .i64 r.q, .int .i64 r.k, .string r.id, .int .i64 r.n, .slice A r.zs.length C] 107)) wr.heap.size A r.zs.length C r.zs) := ho.below hb2
      have HX2 : Hid (BoxN (w1.alloc (.cells #[.int .i64 r.e, .int .i64 r.q, .int .i64 r.k, .string r.id, .int .i64 r.n, .slice A r.zs.length C] 107)) w1.heap.size 107 [.int .i64 r.e, .int .i64 r.q, .int .i64 r.k, .string r.id, .int .i64 r.n, .slice A r.zs.length C]) := BoxN.new _ _ _
      have HAp : Hid (∀ e ∈ l, ∀ q, e.a.map (·.block) = some q → q < wr.heap.size) := fun e he q hq => ((HO.out.2.1 e he).lt q hq).2
      have hws : w0.heap.size ≤ wr.heap.size := HW.out.size
      have HVa : Hid (∀ q, (Value.slice va k vc).ownBlock = some q → q < w1.heap.size) := fun q hq => by have h1 := (HO.out.1.lt q hq).2; have h2 := hb1.size; omega
      clear hok hr hb1 hb2 hb01 HW HO HEnd HS ho HQk he
      go_upto_region 8 with fail
      clear hqb hel
      obtain ⟨x2, hx2⟩ : ∃ x2, w1.alloc (.cells #[.int .i64 r.e, .int .i64 r.q, .int .i64 r.k, .string r.id, .int .i64 r.n, .slice A r.zs.length C] 107) = x2 := ⟨_, rfl⟩
      rw [hx2] at HB2 HO2 HG2 HX2 ⊢
      clear hx2
      generalize w1.heap.size = bx at *
      have s0 := HX2.out.cell 0 rfl
      have s1 := HX2.out.cell 1 rfl
      have s2 := HX2.out.cell 2 rfl
      have s3 := HX2.out.cell 3 rfl
      have s4 := HX2.out.cell 4 rfl
      have s5 := HX2.out.cell 5 rfl
      have HN : Hid (∀ j u, (RE.cells ⟨r, A, r.zs.length, C⟩)[j]? = some u → (x2.alloc (.cells #[.int .i64 r.e, .int .i64 r.q, .int .i64 r.k, .string r.id, .int .i64 r.n, .slice A r.zs.length C] 107)).cell? ((⟨x2.heap.size, 0, none⟩ : Addr).add j) = some u) := six_new x2 r A r.zs.length C
      have HO2' : Hid ((x2.alloc (.cells #[.int .i64 r.e, .int .i64 r.q, .int .i64 r.k, .string r.id, .int .i64 r.n, .slice A r.zs.length C] 107)).ownsRow w0.heap.size 107 6 (.slice va k vc) k (reCells l)) := by
        have h := HO2.out.1.alloc (.cells #[.int .i64 r.e, .int .i64 r.q, .int .i64 r.k, .string r.id, .int .i64 r.n, .slice A r.zs.length C] 107)
        rw [hlk] at h
        exact h
      go_wp2_with (at_builtin; refine wpList_append_own _ rfl _ _ 82 rfl w0.heap.size 107 i0 (.agg #[.int .i64 0, .int .i64 0, .int .i64 0, .string ⟨#[]⟩, .int .i64 0, .slice none 0 0]) 6 72 Tryz.underlying82 hi hz0 hz1 hz2 rfl (by decide) (.slice va k vc) k _ rfl HO2'.out ⟨x2.heap.size, 0, none⟩ 1 1 (RE.cells ⟨r, A, r.zs.length, C⟩) rfl rfl HN.out (six_one r A r.zs.length C) (by unfold maxLen; omega) (by omega) (by have := HB2.out.size; simp; omega) ?_; intro v3 x3 hown3 hgrow3 _; refine Hid.out ?_)
      refine hidden ?_
      have HO3 : Hid (RcRow x3 w0.heap.size v3 (l ++ [⟨r, A, r.zs.length, C⟩])) := HO2.out.snoc HG2.out hws HAp.out (by rw [hlk]; exact hown3) hgrow3
      have HB3 : Hid (Below w0.heap.size w0 x3) := (HB2.out.alloc HB2.out.size _).grown hgrow3 (by have := HB2.out.size; simp; omega) (fun q hq => (HO2.out.1.lt q hq).1)
      have HX3 : Hid (BoxN x3 bx 107 [.int .i64 r.e, .int .i64 r.q, .int .i64 r.k, .string r.id, .int .i64 r.n, .slice A r.zs.length C]) := (HX2.out.alloc _).grown hgrow3 (fun e => by have := HVa.out _ e; omega)
      have t0 := HX3.out.cell 0 rfl
      clear hown3 hgrow3 HN HO2' s0 s1 s2 s3 s4 s5 HO2 HG2 HX2 HB2 HX3
      obtain ⟨v3a, v3c, rfl⟩ := HO3.out.shape
      rw [List.length_append, hlk] at HO3 ⊢
      go_wp2_with fail
      go_roundw
      case rel =>
        refine ⟨k + 1, r.e, l ++ [⟨r, A, r.zs.length, C⟩], by omega, by omega, by simp [hlk], by go_num, rfl, HO3, ?_, HB3⟩
        show _ = _
        rw [List.map_append, List.append_assoc]
        exact HS2.out
      case measure => simp [intOf]; omega
    · obtain rfl : k = n := by omega
      have HF : Hid (l.map RE.r = scanR xs) := by
        have h2 := HS.out
        rw [List.drop_of_length_le (by have := HL.out; omega)] at h2
        show _ = _
        simpa [scanFrom] using h2
      have HO2 : Hid (RcRow wr w.heap.size (.slice va k vc) l) := HO.out.low HB.out.size
      have HW2 : Hid (Below w.heap.size w wr) := HB.out.trans (HW.out.mono HB.out.size)
      clear HO HS HW
      go_wp2_with fail
      go_ret
      exact ⟨⟨_, l, rfl, HO2.out, HF.out⟩, HW2.out⟩

end Go.Proofs.YtlkgopoicpnacaaGreatDoor

namespace Go.Proofs.YtlkgopoicpnacaaGreatDoor
open Go.RowKit
set_option linter.unusedVariables false

set_option maxRecDepth 10000 in
set_option maxHeartbeats 1600000 in
theorem implTop_any (a : Option Addr) (n ca : Nat) (xs : List ByteArray) (a' : Option Addr) (n' ca' : Nat) (w : World) (h1 : Strs w a n xs) (hn : n ≤ 1099511627776) (hz : ∀ x ∈ xs, x.size ≤ 1048576) (ht : RecT w) :
    Calls Tryz.prog 40 #[.agg #[.slice a n ca, .slice a' n' ca']] w fun e w' => e = .returned (.int .i64 (topE xs)) ∧ Below w.heap.size w w' := by
  have HX : Hid (∀ W, Below w.heap.size w W → Strs W a n xs) := fun W h => h1.below h
  have HL : Hid (xs.length = n) := h1.1
  have HZ : Hid (∀ x ∈ xs, x.size ≤ 1048576) := hz
  have HRT : Hid (RecT w) := ht
  clear h1 hz ht
  obtain ⟨w0, hw0⟩ : ∃ w0, w.alloc (.cells #[.slice a n ca, .slice a' n' ca'] 26) = w0 := ⟨_, rfl⟩
  have HE : Hid (w.alloc (.cells #[.slice a n ca, .slice a' n' ca'] 26) = w0) := hw0
  have HA : Hid (Box2R w0 w.heap.size 26 (.slice a n ca) (.slice a' n' ca')) := by show Box2R _ _ _ _ _; rw [← hw0]; exact Box2R.new _ _ _ _
  have HB : Hid (Below w.heap.size w w0) := by show Below _ _ _; rw [← hw0]; exact (Below.refl _ _).alloc (Nat.le_refl _) _
  clear hw0
  obtain ⟨c0, c1⟩ := HA.out.cells
  go_enter Tryz.func40, Tryz.ntmps40
  go_upto_region 1 with fail
  rw [HE.out]
  clear HE
  go_wp2_with fail
  clear c0 c1
  go_loopw [3, 11] (fun v i wr => ∃ k : Nat, k ≤ n ∧ i = .int .i64 (k : Int) ∧ v = .int .i64 (topE (xs.take k)) ∧ Hid (Below w0.heap.size w0 wr)) (fun _ i _ => n - (intOf i).toNat)
  case atStart => exact ⟨0, Nat.zero_le _, rfl, rfl, Below.refl _ _⟩
  case round =>
    obtain ⟨k, hk, rfl, rfl, HW⟩ := hrel
    by_cases hlt : k < n
    · have hb := HB.out.trans (HW.out.mono HB.out.size)
      obtain ⟨p, po, x, rfl, _, hkx, hp⟩ := (HX.out _ hb).at hlt
      have HT : Hid (topE (xs.take (k + 1)) = topStep (topE (xs.take k)) x) := topE_step xs k x hkx
      have hxz : x.size ≤ 1048576 := HZ.out x (List.mem_of_getElem? hkx)
      have hki : (k : Int) < (n : Int) := by omega
      have hk0 : (0 : Int) ≤ (k : Int) := by omega
      have HTr : Hid (RecT wr) := HRT.out.below hb
      clear hkx hb
      generalize topE (xs.take k) = m at *
      go_wp2_with fail
      refine (implGetR_any x wr (by omega) HTr.out).mono ?_
      rintro _ w1 ⟨⟨v, rfl, hgot⟩, hb1⟩
      have hb01 : Below w0.heap.size w0 w1 := HW.out.trans (hb1.mono HW.out.size)
      rcases hgot with ⟨hr, rfl⟩ | ⟨r, A, C, hr, rfl, ho⟩
      · have HT2 : Hid (topE (xs.take (k + 1)) = m) := HT.out.trans (topStep_none hr)
        have HW2 : Hid (Below w0.heap.size w0 (w1.alloc (.cells #[.int .i64 0, .int .i64 0, .int .i64 0, .string ⟨#[]⟩, .int .i64 0, .slice none 0 0] 107))) := hb01.alloc hb01.size _
        clear hr hb1 hb01 HT HW
        go_wp2_with fail
        go_roundw
        case rel => exact ⟨k + 1, by omega, by go_num, by rw [HT2.out], HW2⟩
        case measure => simp [intOf]; omega
      · have HT2 : Hid (topE (xs.take (k + 1)) = if m < r.e then r.e else m) := HT.out.trans (topStep_some hr)
        have HW2 : Hid (Below w0.heap.size w0 (w1.alloc (.cells #[.int .i64 r.e, .int .i64 r.q, .int .i64 r.k, .string r.id, .int .i64 r.n, .slice A r.zs.length C] 107))) := hb01.alloc hb01.size _
        clear hr hb1 hb01 HT HW ho
        by_cases hm : m < r.e
        · rw [if_pos hm] at HT2
          go_wp2_with fail
          go_roundw
          case rel => exact ⟨k + 1, by omega, by go_num, by rw [HT2.out], HW2⟩
          case measure => simp [intOf]; omega
        · rw [if_neg hm] at HT2
          go_wp2_with fail
          go_roundw
          case rel => exact ⟨k + 1, by omega, by go_num, by rw [HT2.out], HW2⟩
          case measure => simp [intOf]; omega
    · have hkl : k = n := by omega
      have HT : Hid (topE (xs.take k) = topE xs) := by show _ = _; rw [hkl, List.take_of_length_le (by have := HL.out; omega)]
      generalize topE (xs.take k) = m at *
      go_wp2_with fail
      go_ret
      exact ⟨by rw [← HT.out]; rfl, HB.out.trans (HW.out.mono HB.out.size)⟩

end Go.Proofs.YtlkgopoicpnacaaGreatDoor
