/- Reading bits one by one: what stays when a bit is read, and when there is no text; no program in it. Small facts on texts, words, rows and on the tables of Huffman's code; no program in it. An append onto a row of the call's own of whatever may be appended, a text's bytes too: as an operation. No program in it. -/
import Derived.Test.YtghakpcagacdaacM04
import Derived.Test.YtghakpcagacdaacM01
import Derived.Laws.Bits128
import Derived.Laws.IdiomStrings
import Derived.Laws.BytesArg
import Derived.Deep.QuietTactic
import Derived.BigQuiet
import Derived.Deep.AppendSrc
import Derived.Laws.AppendOwn
import Derived.WalkKit
namespace Go.Proofs.Ytghakpcagacdaac
open Go.RowKit
set_option linter.unusedVariables false

theorem bitsN_get (n x : Nat) : ∀ i, i < n → (bitsN n x)[i]? = some (x / 2 ^ (n - 1 - i) % 2 == 1) := by
  induction n with
  | zero => intro i h; omega
  | succ n ih =>
    intro i h
    cases i with
    | zero => simp [bitsN]
    | succ i =>
      have e : n + 1 - 1 - (i + 1) = n - 1 - i := by omega
      rw [bitsN, List.getElem?_cons_succ, ih i (by omega), e]

theorem byteBits_get (zs : List Int) : ∀ i, i < 8 * zs.length → (byteBits zs)[i]? = some ((zs.getD (i / 8) 0).toNat / 2 ^ (7 - i % 8) % 2 == 1) := by
  induction zs with
  | nil => intro i h; simp at h
  | cons z zs ih =>
    intro i h
    have e : byteBits (z :: zs) = bitsN 8 z.toNat ++ byteBits zs := rfl
    rw [e]
    by_cases h8 : i < 8
    · rw [List.getElem?_append_left (by rw [bitsN_len]; exact h8), bitsN_get 8 _ i h8]
      have e1 : i / 8 = 0 := by omega
      have e2 : i % 8 = i := by omega
      have e3 : 8 - 1 - i = 7 - i := by omega
      rw [e1, e2, e3]
      rfl
    · rw [List.getElem?_append_right (by rw [bitsN_len]; omega), bitsN_len, ih (i - 8) (by rw [List.length_cons] at h; omega)]
      have e1 : i / 8 = (i - 8) / 8 + 1 := by omega
      have e2 : (i - 8) % 8 = i % 8 := by omega
      rw [e1, e2]
      simp

/-- The bit i of a list of bytes, as a number. -/
def bitAt (zs : List Int) (i : Nat) : Nat := (zs.getD (i / 8) 0).toNat / 2 ^ (7 - i % 8) % 2

theorem bitAt_le (zs : List Int) (i : Nat) : bitAt zs i ≤ 1 := by unfold bitAt; omega

theorem take_bit (zs : List Int) (i : Nat) (h : i < 8 * zs.length) : (byteBits zs).take (i + 1) = (byteBits zs).take i ++ bitsN 1 (bitAt zs i) := by
  rw [List.take_add_one, byteBits_get zs i h]
  congr 1
  simp [bitsN, bitAt]

theorem push_bit (N A b : Nat) (hb : b ≤ 1) : bitsN (N + 1) (A * 2 + b) = bitsN N A ++ bitsN 1 b := by
  have := bitsN_join N 1 A b (by omega)
  simpa using this

theorem free_nil : Free [] := by
  intro c h
  have h1 := h.length_le
  have h2 := lenOf_range c
  rw [codeBits, bitsN_len] at h1
  simp at h1
  omega

/-- Where no code is just these bits, none is their beginning. -/
theorem free_push (N A b : Nat) (hA : A * 2 + b < 2 ^ (N + 1)) (hb : b ≤ 1) (hf : Free (bitsN N A)) (hn : ∀ c : UInt8, ¬ (lenOf c = N + 1 ∧ codeOfB c = A * 2 + b)) : Free (bitsN (N + 1) (A * 2 + b)) := by
  intro c h
  have hl : lenOf c ≤ N + 1 := by
    have := h.length_le
    simpa [codeBits, bitsN_len] using this
  by_cases he : lenOf c = N + 1
  · have e := h.eq_of_length (by rw [codeBits, bitsN_len, bitsN_len, he])
    rw [codeBits, he] at e
    have hc := codeOf_lt c
    rw [he] at hc
    exact hn c ⟨he, bitsN_inj _ _ _ hc hA e⟩
  · rw [push_bit N A b hb] at h
    exact hf c (List.prefix_of_prefix_length_le h (List.prefix_append _ _) (by rw [codeBits, bitsN_len, bitsN_len]; omega))

/-- A free list of 30 bits stays free with one bit more. -/
theorem free_long (N A b : Nat) (hN : 30 ≤ N) (hb : b ≤ 1) (hf : Free (bitsN N A)) (r : List Bool) : Free (bitsN (N + 1) (A * 2 + b) ++ r) := by
  intro c h
  have hl := lenOf_range c
  rw [push_bit N A b hb, List.append_assoc] at h
  exact hf c (List.prefix_of_prefix_length_le h (List.prefix_append _ _) (by rw [codeBits, bitsN_len, bitsN_len]; omega))

theorem no_text (zs : List Int) (u : List UInt8) (x : List Bool) (hx : Free x) (he : byteBits zs = textBits u ++ x) (hn : ∀ p, p < 8 → x ≠ List.replicate p true) : ∀ l, ¬ HuffOf l zs := by
  rintro l ⟨_, p, hp, e⟩
  exact hn p hp (sync l u _ _ (free_ones p) hx (e.symm.trans he)).2.symm

theorem found (N A b : Nat) (c : UInt8) (h1 : lenOf c = N + 1) (h2 : codeOfB c = A * 2 + b) : bitsN (N + 1) (A * 2 + b) = codeBits c := by rw [codeBits, h1, h2]

end Go.Proofs.Ytghakpcagacdaac

namespace Go.Proofs.Ytghakpcagacdaac
open Go.RowKit
set_option linter.unusedVariables false

theorem str_len (s : ByteArray) : s.data.toList.length = s.size := Array.length_toList
theorem str_take_snoc (s : ByteArray) (k : Nat) (h : k < s.size) : s.data.toList.take (k + 1) = s.data.toList.take k ++ [s[k]] := by
  rw [List.take_succ_eq_append_getElem (by simpa using h)]; rfl

theorem or_joinH (q B n : Nat) (hn : n < 2 ^ B) (hq : q * 2 ^ B < 9223372036854775808) (hB : B ≤ 62) : bits .or .i64 ((q * 2 ^ B : Nat) : Int) (n : Int) = ((q * 2 ^ B + n : Nat) : Int) := by
  have h2 : 2 ^ B ≤ 2 ^ 62 := Nat.pow_le_pow_right (by decide) hB
  rw [i64_or_nat _ _ hq (by omega)]
  have := Nat.shiftLeft_add_eq_or_of_lt (b := n) (i := B) hn q
  rw [Nat.shiftLeft_eq] at this
  rw [← this]

theorem own_lower {w : World} {base b' n : Nat} {e : TypeId} {v : Value} {xs : List Value} (h : w.ownsRow base e 1 v n xs) (hb : b' ≤ base) : w.ownsRow b' e 1 v n xs := by
  refine ⟨h.1, ?_⟩
  rcases h.2 with h0 | ⟨g, cap, cur, he, hg, r⟩
  · exact .inl h0
  · exact .inr ⟨g, cap, cur, he, by omega, r⟩

theorem wrap64_small (n : Nat) (h : n < 9223372036854775808) : wrap64 (n : Int) = (n : Int) := by unfold wrap64; omega

theorem lens_at (c : UInt8) : lensI.getD c.toNat 0 = (lenOf c : Int) := by
  have hc : c.toNat < 256 := c.toNat_lt
  have := lens_range c.toNat (by omega)
  unfold lenOf
  omega
theorem codes_at (c : UInt8) : codesI.getD c.toNat 0 = (codeOfB c : Int) := by
  have hc : c.toNat < 256 := c.toNat_lt
  have := codes_range c.toNat (by omega)
  unfold codeOfB
  omega

set_option maxRecDepth 10000 in
theorem mask_big (B : Nat) (h : B ≤ 30) : wrap64 (wrap64 ((2 : Int) ^ B) - 1) = ((2 ^ B - 1 : Nat) : Int) := by
  have : ∀ B : Nat, B < 31 → wrap64 (wrap64 ((2 : Int) ^ B) - 1) = ((2 ^ B - 1 : Nat) : Int) := by decide +kernel
  exact this B (by omega)

/-- Bytes as whole numbers. -/
def asInts (u : List UInt8) : List Int := u.map fun c => (c.toNat : Int)

theorem asInts_snoc (u : List UInt8) (c : UInt8) : asInts (u ++ [c]) = asInts u ++ [(c.toNat : Int)] := by simp [asInts]

theorem text_long (u : List UInt8) : u.length ≤ (textBits u).length := by
  induction u with
  | nil => simp
  | cons c u ih =>
    have h := lenOf_range c
    rw [textBits_cons, List.length_append, codeBits, bitsN_len, List.length_cons]
    omega

/-- What CodeLen and CodeOf answer. -/
def lenAns (x : Int) : Int := if 0 ≤ x ∧ x ≤ 256 then lensI.getD x.toNat 0 else 0
def codeAns (x : Int) : Int := if 0 ≤ x ∧ x ≤ 256 then codesI.getD x.toNat 0 else 0

end Go.Proofs.Ytghakpcagacdaac

namespace Go.Proofs.Ytghakpcagacdaac
open Go.RowKit
set_option linter.unusedVariables false

theorem run_room_any {P : Program} (w : World) (t tx ty e : TypeId) (i : TypeInfo) (ht : P.underlying t = some (.slice e)) (hi : P.info? e = some i)
    (g sLen sCap : Nat) (cur : Array Value) (hg : w.heap[g]? = some (.cells cur e (0, 0))) (x : Value) (m : Nat) (news : List Value) (hs : Src P i.size tx x m news w)
    (hroom : sLen + m ≤ sCap) (hfit : sLen * i.size + news.length ≤ cur.size) :
    (Builtin.append_ #[t, tx] ty #[.slice (some ⟨g, 0, none⟩) sLen sCap, x]).run P w =
      .ok (.slice (some ⟨g, 0, none⟩) (sLen + m) sCap) (w.setRow g (cur.toList.take (sLen * i.size) ++ news ++ cur.toList.drop (sLen * i.size + news.length)).toArray) := by
  have hst := run_storeCells_at P g (sLen * i.size) e news 0 cur w hg (by simpa using hfit) hs.one
  simp only [Nat.add_zero] at hst
  rcases hs.kind with ⟨e', hk⟩ | hk <;> simp [Builtin.append_, run_underlying ht, run_underlying hk, sizeOf, typeInfo, hi, hs.len, hroom, hs.cells, Addr.add_lit, hst]

theorem run_append_any {P : Program} (w : World) (base : Nat) (t tx ty e : TypeId) (i : TypeInfo) (z : Value) (size bytes : Nat) (ht : P.underlying t = some (.slice e)) (hi : P.info? e = some i) (hz : i.zero = some z)
    (hsize : i.size = size) (hby : i.bytes = bytes) (hzs : z.cells.size = size) (hsz : 0 < size)
    (g n cap : Nat) (xs : List Value) (hown : w.ownsRow base e size (.slice (some ⟨g, 0, none⟩) n cap) n xs)
    (x : Value) (m : Nat) (news : List Value) (hs : Src P size tx x m news w)
    (h63 : n + m ≤ maxLen) (hbytes : (n + m) * bytes ≤ 140737488355328) (hbase : base ≤ w.heap.size) :
    ∃ v' w', (Builtin.append_ #[t, tx] ty #[.slice (some ⟨g, 0, none⟩) n cap, x]).run P w = .ok v' w' ∧ w'.ownsRow base e size v' (n + m) (xs ++ news) ∧ w.grownBy w' (some g) := by
  subst hsize
  subst hby
  have hsmall : n + m ≤ 9223372036854775807 := by simp only [maxLen] at h63; omega
  have hl := hs.newsLen
  have hlen : (xs ++ news).length = (n + m) * i.size := by rw [List.length_append, hown.1, hl, Nat.add_mul]
  rcases hown.2 with ⟨h, _⟩ | ⟨g', cap', cur, heq, hbg, hg, hnc, hcm, hcs, htake⟩
  · cases h
  · injection heq with e1 e2 e3
    injection e1 with e1
    injection e1 with e1
    subst e1
    subst e3
    by_cases hroom : n + m ≤ cap
    · have hfit : n * i.size + news.length ≤ cur.size := by rw [hl, hcs, ← Nat.add_mul]; exact Nat.mul_le_mul_right _ hroom
      have hr := run_room_any w t tx ty e i ht hi g n cap cur hg x m news hs hroom hfit
      refine ⟨_, _, hr, ⟨hlen, .inr ⟨g, cap, _, rfl, hbg, setRow_heap w g cur _ e _ hg, hroom, hcm, ?_, ?_⟩⟩, ⟨rfl, rfl, rfl, by simp, fun k _ hk => setRow_other w g k _ (fun e => hk (by simp [e]))⟩⟩
      · simp only [List.size_toArray, List.length_append, List.length_take, List.length_drop, Array.length_toList]
        omega
      · rw [htake, ← hlen]
        exact List.take_left
    · have holds : ∀ j u, xs[j]? = some u → w.cell? ((⟨g, 0, none⟩ : Addr).add j) = some u := hown.cells (g := g) rfl
      have hold := run_firstCells_some (P := P) w.drew i.size n ⟨g, 0, none⟩ n cap xs hown.1 (by simpa using holds)
      have hr := run_append_grow_src (P := P) w t tx ty e i z ht hi hz (some ⟨g, 0, none⟩) n cap xs hold x m news hs (by omega) (by omega) (growslice_fits (by omega) hbytes)
      have hge := grownCap_ge w (n + m) cap e
      have hcm' : grownCap w (n + m) cap e ≤ maxLen := grownCap_le_maxLen w (n + m) cap e h63
      refine ⟨_, _, hr, ⟨hlen, .inr ⟨w.heap.size, _, _, rfl, hbase, heap_alloc_new w.drew _, hge, hcm', ?_, ?_⟩⟩, ⟨rfl, rfl, rfl, by simp, fun k hk _ => heap_alloc_old w.drew _ hk⟩⟩
      · simp only [Array.size_append, List.size_toArray, size_zeroCells, hzs, hlen, ← Nat.add_mul]
        congr 1
        omega
      · simp only [Array.toList_append]
        rw [← hlen]
        exact List.take_left

theorem wpList_append_any {P : Program} {w : World} {ops : Array Oper} {rest : List Oper} {o : Oper} {a : Act} {Q : Exit → Act → World → Prop} (hgd : o.guard = none) (s x : Operand) (t tx : TypeId)
    (ho : o.op = .call { callee := .builtin .append, args := #[s, x], argTypes := #[t, tx] })
    (base : Nat) (e : TypeId) (i : TypeInfo) (z : Value) (size bytes : Nat) (ht : P.underlying t = some (.slice e)) (hi : P.info? e = some i) (hz : i.zero = some z)
    (hsize : i.size = size) (hby : i.bytes = bytes) (hzs : z.cells.size = size) (hsz : 0 < size)
    (g n cap : Nat) (xs : List Value) (hs : a.eval s = .slice (some ⟨g, 0, none⟩) n cap) (hown : w.ownsRow base e size (.slice (some ⟨g, 0, none⟩) n cap) n xs)
    (u : Value) (m : Nat) (news : List Value) (hx : a.eval x = u) (hsrc : Src P size tx u m news w)
    (h63 : n + m ≤ maxLen) (hbytes : (n + m) * bytes ≤ 140737488355328) (hbase : base ≤ w.heap.size)
    (h : ∀ v' w', w'.ownsRow base e size v' (n + m) (xs ++ news) → w.grownBy w' (some g) → wpList P ops Q rest (a.put o.dst v') w') : wpList P ops Q (o :: rest) a w := by
  refine wpList_plain hgd fun K hK => ?_
  obtain ⟨v', w', hr, h2, h3⟩ := run_append_any (P := P) w base t tx o.type e i z size bytes ht hi hz hsize hby hzs hsz g n cap xs hown u m news hsrc h63 hbytes hbase
  unfold Oper.wp execOp
  simp only [ho, resolve, invoke, builtin, Sem.run_bind, Sem.run_pure, Result.andThen_ok, List.map_toArray, List.map_cons, List.map_nil, hs, hx, hr]
  exact hK _ _ (h v' w' h2 h3)

end Go.Proofs.Ytghakpcagacdaac
