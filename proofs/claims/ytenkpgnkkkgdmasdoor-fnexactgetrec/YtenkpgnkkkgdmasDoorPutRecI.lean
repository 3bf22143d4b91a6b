/- What the program's PutRec answers, under its table. -/
import Derived.Test.YtenkpgnkkkgdmasDoorRecOkI
import Derived.Test.YtenkpgnkkkgdmasDoorPutImpl
import Derived.Test.YtenkpgnkkkgdmasDoorCrcI
import Derived.Test.YtenkpgnkkkgdmasDoorRowB
import Derived.Deep.CutBlock
namespace Go.Proofs.YtenkpgnkkkgdmasDoor
open Go.RowKit
set_option linter.unusedVariables false

/-- An append, and where its row lies. -/
theorem wpl_append_app {P : Program} {w : World} {ops : Array Oper} {rest : List Oper} {o : Oper} {a : Act} {Q : Exit → Act → World → Prop} (hgd : o.guard = none) (s x : Operand) (t tx : TypeId)
    (ho : o.op = .call { callee := .builtin .append, args := #[s, x], argTypes := #[t, tx] })
    (base : Nat) (e : TypeId) (i : TypeInfo) (z : Value) (size bytes : Nat) (ht : P.underlying t = some (.slice e)) (hi : P.info? e = some i) (hz : i.zero = some z)
    (hsize : i.size = size) (hby : i.bytes = bytes) (hzs : z.cells.size = size) (hsz : 0 < size)
    (g n cap : Nat) (xs : List Value) (hs : a.eval s = .slice (some ⟨g, 0, none⟩) n cap) (hown : w.ownsRow base e size (.slice (some ⟨g, 0, none⟩) n cap) n xs)
    (u : Value) (m : Nat) (news : List Value) (hx : a.eval x = u) (hsrc : Src P size tx u m news w)
    (h63 : n + m ≤ maxLen) (hbytes : (n + m) * bytes ≤ 140737488355328) (hbase : base ≤ w.heap.size) (M : Nat) (hM : n + m = M) (hM0 : 0 < M) (ys : List Value) (hys : xs ++ news = ys)
    (h : ∀ g' c' w', w'.ownsRow base e size (.slice (some ⟨g', 0, none⟩) M c') M ys → w.grownBy w' (some g) → wpList P ops Q rest (a.put o.dst (.slice (some ⟨g', 0, none⟩) M c')) w') : wpList P ops Q (o :: rest) a w := by
  refine wpList_append_any hgd s x t tx ho base e i z size bytes ht hi hz hsize hby hzs hsz g n cap xs hs hown u m news hx hsrc h63 hbytes hbase ?_
  intro v' w' h2 h3
  rw [hM, hys] at h2
  rcases h2.2 with ⟨_, h0⟩ | ⟨g', c', cur, rfl, _⟩
  · omega
  · exact h g' c' w' h2 h3

/-- The program's PutBig, and where its row lies. -/
theorem implPutL (sa : Option Addr) (len cap n k m : Nat) (K : Int) (hK : K = (k : Int)) (zs ys : List Int) (w : World) (hs : Seg w sa len zs) (hl : len ≤ 1099511627776) (hn : n ≤ 9223372036854775807) (h1 : 1 ≤ k) (h8 : k ≤ 8) (hm : len + k = m) (hys : zs ++ pbl n k k = ys) :
    Calls Tryd.prog 35 #[.slice sa len cap, .int .i64 n, .int .i64 K] w fun e w' => (∃ g c, e = .returned (.slice (some ⟨g, 0, none⟩) m c) ∧ Owns w' w.heap.size (some ⟨g, 0, none⟩) m c ys) ∧ Below w.heap.size w w' := by
  subst hK
  refine (implPut_yes sa len cap n k zs w hs hl hn h1 h8).mono ?_
  rintro e w' ⟨a', c', rfl, ho, hbl⟩
  rw [hm, hys] at ho
  obtain ⟨g, rfl, _, _⟩ := owns_at ho (by omega)
  exact ⟨⟨g, c', by rw [hm], ho⟩, hbl⟩

set_option maxRecDepth 10000 in
set_option maxHeartbeats 1600000 in
theorem implPutR_any (e q k : Int) (id : ByteArray) (n : Int) (a : Option Addr) (d ca : Nat) (zs : List Int) (w : World) (hs : Seg w a d zs) (hi : id.size ≤ maxLen) (hd : d ≤ 1099511627776) (ht : RecT w) :
    Calls Tryd.prog 13 #[.agg #[.int .i64 e, .int .i64 q, .int .i64 k, .string id, .int .i64 n, .slice a d ca]] w fun r w' => r = .returned (.string (putT e q k id n zs)) ∧ Below w.heap.size w w' := by
  obtain ⟨w0, hw0⟩ : ∃ w0, w.alloc (.cells #[.int .i64 e, .int .i64 q, .int .i64 k, .string id, .int .i64 n, .slice a d ca] 27) = w0 := ⟨_, rfl⟩
  have HE : Hid (w.alloc (.cells #[.int .i64 e, .int .i64 q, .int .i64 k, .string id, .int .i64 n, .slice a d ca] 27) = w0) := hw0
  have HQ : Hid (BoxN w0 w.heap.size 27 [.int .i64 e, .int .i64 q, .int .i64 k, .string id, .int .i64 n, .slice a d ca]) := by show BoxN _ _ _ _; rw [← hw0]; exact BoxN.new _ _ _
  have HB : Hid (Below w.heap.size w w0) := by show Below _ _ _; rw [← hw0]; exact (Below.refl _ _).alloc (Nat.le_refl _) _
  have HS : Hid (Seg w0 a d zs) := hs.below HB.out
  have HL : Hid (zs.length = d) := hs.1
  have ht0 : RecT w0 := ht.below HB.out
  clear hw0 hs ht
  obtain ⟨c0, c1, c2, c3, c4, c5⟩ := (show _ ∧ _ ∧ _ ∧ _ ∧ _ ∧ _ from ⟨HQ.out.cell 0 rfl, HQ.out.cell 1 rfl, HQ.out.cell 2 rfl, HQ.out.cell 3 rfl, HQ.out.cell 4 rfl, HQ.out.cell 5 rfl⟩)
  go_enter Tryd.func13, Tryd.ntmps13
  go_upto_region 1 with fail
  rw [HE.out]
  clear HE
  go_wp2_with fail
  refine (implRok_any e q k id n a d ca w0 hi hd ht0).mono ?_
  rintro r y0 ⟨rfl, hb1⟩
  have HB0 : Hid (Below w.heap.size w y0) := HB.out.trans (hb1.mono HB.out.size)
  have HS0 : Hid (∀ W, Below y0.heap.size y0 W → Seg W a d zs) := fun W h => (HS.out.below hb1).below h
  have HQ0 : Hid (∀ W, Below y0.heap.size y0 W → BoxN W w.heap.size 27 [.int .i64 e, .int .i64 q, .int .i64 k, .string id, .int .i64 n, .slice a d ca]) := fun W h => (HQ.out.stays hb1).stays h
  clear c0 c1 c2 c3 c4 c5 hb1 HQ HS HB ht0
  cases hok : okRec e q k id n d
  · have HF : Hid (putT e q k id n zs = ⟨#[]⟩) := by show _ = _; rw [putT, HL.out, hok]; rfl
    clear hok
    go_wp2_with fail
    go_ret
    exact ⟨by rw [HF.out]; rfl, HB0.out⟩
  obtain ⟨he, hq, hk, hid, hn, hd2⟩ := okRec_iff hok
  obtain ⟨E, rfl⟩ := Int.eq_ofNat_of_zero_le he.1
  obtain ⟨Q, rfl⟩ := Int.eq_ofNat_of_zero_le hq.1
  obtain ⟨K, rfl⟩ := Int.eq_ofNat_of_zero_le (show 0 ≤ k by omega)
  obtain ⟨M, rfl⟩ := Int.eq_ofNat_of_zero_le hn.1
  have HF : Hid (putT E Q K id M zs = txU (sumB (recB E Q K id M zs))) := by show _ = _; rw [putT, HL.out, hok]; rfl
  have hzd := HL.out
  obtain ⟨i0, ji, jz0, jz1, jz2⟩ := info_parts Tryd.info5
  clear hok
  have H0 : Hid (Below y0.heap.size y0 y0) := Below.refl _ _
  have c0 := (HQ0.out _ H0.out).cell 0 rfl
  go_wp2_with fail
  refine (implPutL none 0 0 E 3 3 3 rfl [] (pbl E 3 3) _ ⟨rfl, by simp, .inl rfl⟩ (by omega) (by omega) (by omega) (by omega) rfl rfl).mono ?_
  rintro r y1 ⟨⟨g1, cc1, rfl, own⟩, hb⟩
  have HO1 : Hid (Owns y1 y0.heap.size (some ⟨g1, 0, none⟩) 3 cc1 (pbl E 3 3)) := owns_low own H0.out.size
  have H1 : Hid (Below y0.heap.size y0 y1) := H0.out.trans (hb.mono H0.out.size)
  clear own hb H0 c0
  have c1 := (HQ0.out _ H1.out).cell 1 rfl
  go_wp2_with fail
  refine (implPutL (some ⟨g1, 0, none⟩) 3 cc1 Q 2 5 2 rfl (pbl E 3 3) (pbl E 3 3 ++ pbl Q 2 2) _ HO1.out.seg (by omega) (by omega) (by omega) (by omega) rfl rfl).mono ?_
  rintro r y2 ⟨⟨g2, cc2, rfl, own⟩, hb⟩
  have HO2 : Hid (Owns y2 y0.heap.size (some ⟨g2, 0, none⟩) 5 cc2 (pbl E 3 3 ++ pbl Q 2 2)) := owns_low own H1.out.size
  have H2 : Hid (Below y0.heap.size y0 y2) := H1.out.trans (hb.mono H1.out.size)
  clear own hb H1 HO1 c1
  have c2 := (HQ0.out _ H2.out).cell 2 rfl
  go_wp2_with fail
  refine (implPutL (some ⟨g2, 0, none⟩) 5 cc2 K 1 6 1 rfl (pbl E 3 3 ++ pbl Q 2 2) (pbl E 3 3 ++ pbl Q 2 2 ++ pbl K 1 1) _ HO2.out.seg (by omega) (by omega) (by omega) (by omega) rfl rfl).mono ?_
  rintro r y3 ⟨⟨g3, cc3, rfl, own⟩, hb⟩
  have HO3 : Hid (Owns y3 y0.heap.size (some ⟨g3, 0, none⟩) 6 cc3 (pbl E 3 3 ++ pbl Q 2 2 ++ pbl K 1 1)) := owns_low own H2.out.size
  have H3 : Hid (Below y0.heap.size y0 y3) := H2.out.trans (hb.mono H2.out.size)
  clear own hb H2 HO2 c2
  have c3 := (HQ0.out _ H3.out).cell 3 rfl
  go_wp2_with fail
  refine (implPutL (some ⟨g3, 0, none⟩) 6 cc3 id.size 1 7 1 rfl (pbl E 3 3 ++ pbl Q 2 2 ++ pbl K 1 1) (pbl E 3 3 ++ pbl Q 2 2 ++ pbl K 1 1 ++ pbl id.size 1 1) _ HO3.out.seg (by omega) (by omega) (by omega) (by omega) rfl rfl).mono ?_
  rintro r y4 ⟨⟨g4, cc4, rfl, own⟩, hb⟩
  have HO4 : Hid (Owns y4 y0.heap.size (some ⟨g4, 0, none⟩) 7 cc4 (pbl E 3 3 ++ pbl Q 2 2 ++ pbl K 1 1 ++ pbl id.size 1 1)) := owns_low own H3.out.size
  have H4 : Hid (Below y0.heap.size y0 y4) := H3.out.trans (hb.mono H3.out.size)
  clear own hb H3 HO3 c3
  have c3 := (HQ0.out _ H4.out).cell 3 rfl
  have HSz : Hid (y0.heap.size ≤ y4.heap.size) := H4.out.size
  go_wp2_with (at_builtin; refine wpl_append_app rfl _ _ 22 9 rfl y0.heap.size 5 i0 (.int .u8 0) 1 1 Tryd.underlying22 ji jz0 jz1 jz2 rfl (by decide) g4 7 cc4 _ rfl HO4.out.1 _ id.size (byteCells id) rfl (Src.ofString _ Tryd.underlying9 id) (by unfold maxLen; omega) (by omega) HSz.out (7 + id.size) rfl (by omega) ((headR E Q K id).map (Value.int .u8)) (by rw [byteCells_txI, ← List.map_append]; rfl) ?_; intro g5 cc5 y5 hown hg; refine Hid.out ?_)
  refine hidden ?_
  have HO5 : Hid (Owns y5 y0.heap.size (some ⟨g5, 0, none⟩) (7 + id.size) cc5 (headR E Q K id)) := ⟨hown, headR_range _ _ _ _⟩
  have H5 : Hid (Below y0.heap.size y0 y5) := H4.out.grown hg H4.out.size (fun q e => by injection e with e; have := (HO4.out.lt g4 rfl).1; omega)
  clear hown hg H4 HO4 c3 HSz
  have c4 := (HQ0.out _ H5.out).cell 4 rfl
  go_wp2_with fail
  refine (implPutL (some ⟨g5, 0, none⟩) (7 + id.size) cc5 M 4 (11 + id.size) 4 rfl (headR E Q K id) (headR E Q K id ++ pbl M 4 4) _ HO5.out.seg (by omega) (by omega) (by omega) (by omega) (by omega) rfl).mono ?_
  rintro r y6 ⟨⟨g6, cc6, rfl, own⟩, hb⟩
  have HO6 : Hid (Owns y6 y0.heap.size (some ⟨g6, 0, none⟩) (11 + id.size) cc6 (headR E Q K id ++ pbl M 4 4)) := owns_low own H5.out.size
  have H6 : Hid (Below y0.heap.size y0 y6) := H5.out.trans (hb.mono H5.out.size)
  clear own hb H5 HO5 c4
  have c5 := (HQ0.out _ H6.out).cell 5 rfl
  go_wp2_with fail
  refine (implPutL (some ⟨g6, 0, none⟩) (11 + id.size) cc6 d 1 (12 + id.size) 1 rfl (headR E Q K id ++ pbl M 4 4) (headR E Q K id ++ pbl M 4 4 ++ pbl zs.length 1 1) _ HO6.out.seg (by omega) (by omega) (by omega) (by omega) (by omega) (by rw [hzd])).mono ?_
  rintro r y7 ⟨⟨g7, cc7, rfl, own⟩, hb⟩
  have HO7 : Hid (Owns y7 y0.heap.size (some ⟨g7, 0, none⟩) (12 + id.size) cc7 (headR E Q K id ++ pbl M 4 4 ++ pbl zs.length 1 1)) := owns_low own H6.out.size
  have H7 : Hid (Below y0.heap.size y0 y7) := H6.out.trans (hb.mono H6.out.size)
  clear own hb H6 HO6 c5
  have c5 := (HQ0.out _ H7.out).cell 5 rfl
  have HSz : Hid (y0.heap.size ≤ y7.heap.size) := H7.out.size
  go_wp2_with (at_builtin; refine wpl_append_app rfl _ _ 22 22 rfl y0.heap.size 5 i0 (.int .u8 0) 1 1 Tryd.underlying22 ji jz0 jz1 jz2 rfl (by decide) g7 (12 + id.size) cc7 _ rfl HO7.out.1 _ d (zs.map (Value.int .u8)) rfl (HS0.out _ H7.out).src (by unfold maxLen; omega) (by omega) HSz.out (12 + id.size + d) rfl (by omega) ((recB E Q K id M zs).map (Value.int .u8)) (by rw [← List.map_append]; rfl) ?_; intro g8 cc8 y8 hown hg; refine Hid.out ?_)
  refine hidden ?_
  have HO8 : Hid (Owns y8 y0.heap.size (some ⟨g8, 0, none⟩) (12 + id.size + d) cc8 (recB E Q K id M zs)) := ⟨hown, recB_range _ _ _ _ _ _ (HS0.out _ H7.out).2.1⟩
  have H8 : Hid (Below y0.heap.size y0 y8) := H7.out.grown hg H7.out.size (fun q e => by injection e with e; have := (HO7.out.lt g7 rfl).1; omega)
  clear hown hg H7 HO7 c5 HSz
  generalize hL : recB E Q K id M zs = L at *
  have HL2 : Hid (recB E Q K id M zs = L) := hL
  clear hL
  go_wp2_with fail
  refine (implCrc_any _ _ cc8 L y8 HO8.out.seg (by omega)).mono ?_
  rintro r y9 ⟨rfl, rfl⟩
  have hcr : crcL L ^^^ 4294967295 < 4294967296 := xor_lt32 _ _ (crcL_lt L HO8.out.2) (by omega)
  go_wp2_with fail
  refine (implPutL (some ⟨g8, 0, none⟩) (12 + id.size + d) cc8 (crcL L ^^^ 4294967295) 4 (16 + id.size + d) 4 rfl L (sumB L) _ HO8.out.seg (by omega) (by omega) (by omega) (by omega) (by omega) rfl).mono ?_
  rintro r y10 ⟨⟨g10, cc10, rfl, own10⟩, hb10⟩
  have hcv := conv_txt (c := cc10) own10.seg
  have HB10 : Hid (Below w.heap.size w y10) := HB0.out.trans ((H8.out.trans (hb10.mono H8.out.size)).mono HB0.out.size)
  generalize hZ : sumB L = Z at *
  have HZ : Hid (sumB L = Z) := hZ
  clear own10 hb10 hZ
  go_wp2_with fail
  go_ret
  exact ⟨by rw [HF.out]; rfl, HB10.out⟩

end Go.Proofs.YtenkpgnkkkgdmasDoor
