/- Small facts on texts, words, rows and on the tables of Huffman's code; no program in it. An append onto a row of the call's own of whatever may be appended, a text's bytes too: as an operation. No program in it. Texts as they stand in a block: what is put, what is got of it; no program in it. The small facts of Own, under the name that the other texts import. The program's small functions of chapter 2: whether bits are right, the full prefix, a copy of bytes. -/
import Derived.Test.YtckpacifimpkgacGreatM02
import Derived.Test.YtckpacifimpkgacGreatM01
import Derived.Laws.Bits128
import Derived.Laws.IdiomStrings
import Derived.Laws.BytesArg
import Derived.Deep.QuietTactic
import Derived.BigQuiet
import Derived.Deep.AppendSrc
import Derived.Laws.AppendOwn
import Derived.WalkKit
import Derived.Lib.SliceRun
namespace Go.Proofs.YtckpacifimpkgacGreat
open Go.RowKit
set_option linter.unusedVariables false

theorem str_len (s : ByteArray) : s.data.toList.length = s.size := Array.length_toList
theorem str_take_snoc (s : ByteArray) (k : Nat) (h : k < s.size) : s.data.toList.take (k + 1) = s.data.toList.take k ++ [s[k]] := by
  rw [List.take_succ_eq_append_getElem (by simpa using h)]; rfl

theorem or_joinH (q B n : Nat) (hn : n < 2 ^ B) (hq : q * 2 ^ B < 9223372036854775808) (hB : B ≤ 62) : bits .or .i64 ((q * 2 ^ B : Nat) : Int) (n : Int) = ((q * 2 ^ B + n : Nat) : Int) := by
  have h2 : 2 ^ B ≤ 2 ^ 62 := Nat.pow_le_pow_right (by decide) hB
  rw [i64_or_nat _ _ hq (by omega)]
  have := Nat.shiftLeft_add_eq_or_of_lt (b := n) (i := B) hn q
  rw [Nat.shiftLeft_eq] at this
  rw [← this]

theorem own_lower {w : World} {base b' n : Nat} {e : TypeId} {v : Value} {xs : List Value} (h : w.ownsRow base e 1 v n xs) (hb : b' ≤ base) : w.ownsRow b' e 1 v n xs := by
  refine ⟨h.1, ?_⟩
  rcases h.2 with h0 | ⟨g, cap, cur, he, hg, r⟩
  · exact .inl h0
  · exact .inr ⟨g, cap, cur, he, by omega, r⟩

theorem wrap64_small (n : Nat) (h : n < 9223372036854775808) : wrap64 (n : Int) = (n : Int) := by unfold wrap64; omega

theorem lens_at (c : UInt8) : lensI.getD c.toNat 0 = (lenOf c : Int) := by
  have hc : c.toNat < 256 := c.toNat_lt
  have := lens_range c.toNat (by omega)
  unfold lenOf
  omega
theorem codes_at (c : UInt8) : codesI.getD c.toNat 0 = (codeOfB c : Int) := by
  have hc : c.toNat < 256 := c.toNat_lt
  have := codes_range c.toNat (by omega)
  unfold codeOfB
  omega

set_option maxRecDepth 10000 in
theorem mask_big (B : Nat) (h : B ≤ 30) : wrap64 (wrap64 ((2 : Int) ^ B) - 1) = ((2 ^ B - 1 : Nat) : Int) := by
  have : ∀ B : Nat, B < 31 → wrap64 (wrap64 ((2 : Int) ^ B) - 1) = ((2 ^ B - 1 : Nat) : Int) := by decide +kernel
  exact this B (by omega)

/-- Bytes as whole numbers. -/
def asInts (u : List UInt8) : List Int := u.map fun c => (c.toNat : Int)

theorem asInts_snoc (u : List UInt8) (c : UInt8) : asInts (u ++ [c]) = asInts u ++ [(c.toNat : Int)] := by simp [asInts]

theorem text_long (u : List UInt8) : u.length ≤ (textBits u).length := by
  induction u with
  | nil => simp
  | cons c u ih =>
    have h := lenOf_range c
    rw [textBits_cons, List.length_append, codeBits, bitsN_len, List.length_cons]
    omega

/-- What CodeLen and CodeOf answer. -/
def lenAns (x : Int) : Int := if 0 ≤ x ∧ x ≤ 256 then lensI.getD x.toNat 0 else 0
def codeAns (x : Int) : Int := if 0 ≤ x ∧ x ≤ 256 then codesI.getD x.toNat 0 else 0

end Go.Proofs.YtckpacifimpkgacGreat

namespace Go.Proofs.YtckpacifimpkgacGreat
open Go.RowKit
set_option linter.unusedVariables false

theorem run_room_any {P : Program} (w : World) (t tx ty e : TypeId) (i : TypeInfo) (ht : P.underlying t = some (.slice e)) (hi : P.info? e = some i)
    (g sLen sCap : Nat) (cur : Array Value) (hg : w.heap[g]? = some (.cells cur e (0, 0))) (x : Value) (m : Nat) (news : List Value) (hs : Src P i.size tx x m news w)
    (hroom : sLen + m ≤ sCap) (hfit : sLen * i.size + news.length ≤ cur.size) :
    (Builtin.append_ #[t, tx] ty #[.slice (some ⟨g, 0, none⟩) sLen sCap, x]).run P w =
      .ok (.slice (some ⟨g, 0, none⟩) (sLen + m) sCap) (w.setRow g (cur.toList.take (sLen * i.size) ++ news ++ cur.toList.drop (sLen * i.size + news.length)).toArray) := by
  have hst := run_storeCells_at P g (sLen * i.size) e news 0 cur w hg (by simpa using hfit) hs.one
  simp only [Nat.add_zero] at hst
  rcases hs.kind with ⟨e', hk⟩ | hk <;> simp [Builtin.append_, run_underlying ht, run_underlying hk, sizeOf, typeInfo, hi, hs.len, hroom, hs.cells, Addr.add_lit, hst]

theorem run_append_any {P : Program} (w : World) (base : Nat) (t tx ty e : TypeId) (i : TypeInfo) (z : Value) (size bytes : Nat) (ht : P.underlying t = some (.slice e)) (hi : P.info? e = some i) (hz : i.zero = some z)
    (hsize : i.size = size) (hby : i.bytes = bytes) (hzs : z.cells.size = size) (hsz : 0 < size)
    (g n cap : Nat) (xs : List Value) (hown : w.ownsRow base e size (.slice (some ⟨g, 0, none⟩) n cap) n xs)
    (x : Value) (m : Nat) (news : List Value) (hs : Src P size tx x m news w)
    (h63 : n + m ≤ maxLen) (hbytes : (n + m) * bytes ≤ 140737488355328) (hbase : base ≤ w.heap.size) :
    ∃ v' w', (Builtin.append_ #[t, tx] ty #[.slice (some ⟨g, 0, none⟩) n cap, x]).run P w = .ok v' w' ∧ w'.ownsRow base e size v' (n + m) (xs ++ news) ∧ w.grownBy w' (some g) := by
  subst hsize
  subst hby
  have hsmall : n + m ≤ 9223372036854775807 := by simp only [maxLen] at h63; omega
  have hl := hs.newsLen
  have hlen : (xs ++ news).length = (n + m) * i.size := by rw [List.length_append, hown.1, hl, Nat.add_mul]
  rcases hown.2 with ⟨h, _⟩ | ⟨g', cap', cur, heq, hbg, hg, hnc, hcm, hcs, htake⟩
  · cases h
  · injection heq with e1 e2 e3
    injection e1 with e1
    injection e1 with e1
    subst e1
    subst e3
    by_cases hroom : n + m ≤ cap
    · have hfit : n * i.size + news.length ≤ cur.size := by rw [hl, hcs, ← Nat.add_mul]; exact Nat.mul_le_mul_right _ hroom
      have hr := run_room_any w t tx ty e i ht hi g n cap cur hg x m news hs hroom hfit
      refine ⟨_, _, hr, ⟨hlen, .inr ⟨g, cap, _, rfl, hbg, setRow_heap w g cur _ e _ hg, hroom, hcm, ?_, ?_⟩⟩, ⟨rfl, rfl, rfl, by simp, fun k _ hk => setRow_other w g k _ (fun e => hk (by simp [e]))⟩⟩
      · simp only [List.size_toArray, List.length_append, List.length_take, List.length_drop, Array.length_toList]
        omega
      · rw [htake, ← hlen]
        exact List.take_left
    · have holds : ∀ j u, xs[j]? = some u → w.cell? ((⟨g, 0, none⟩ : Addr).add j) = some u := hown.cells (g := g) rfl
      have hold := run_firstCells_some (P := P) w.drew i.size n ⟨g, 0, none⟩ n cap xs hown.1 (by simpa using holds)
      have hr := run_append_grow_src (P := P) w t tx ty e i z ht hi hz (some ⟨g, 0, none⟩) n cap xs hold x m news hs (by omega) (by omega) (growslice_fits (by omega) hbytes)
      have hge := grownCap_ge w (n + m) cap e
      have hcm' : grownCap w (n + m) cap e ≤ maxLen := grownCap_le_maxLen w (n + m) cap e h63
      refine ⟨_, _, hr, ⟨hlen, .inr ⟨w.heap.size, _, _, rfl, hbase, heap_alloc_new w.drew _, hge, hcm', ?_, ?_⟩⟩, ⟨rfl, rfl, rfl, by simp, fun k hk _ => heap_alloc_old w.drew _ hk⟩⟩
      · simp only [Array.size_append, List.size_toArray, size_zeroCells, hzs, hlen, ← Nat.add_mul]
        congr 1
        omega
      · simp only [Array.toList_append]
        rw [← hlen]
        exact List.take_left

theorem wpList_append_any {P : Program} {w : World} {ops : Array Oper} {rest : List Oper} {o : Oper} {a : Act} {Q : Exit → Act → World → Prop} (hgd : o.guard = none) (s x : Operand) (t tx : TypeId)
    (ho : o.op = .call { callee := .builtin .append, args := #[s, x], argTypes := #[t, tx] })
    (base : Nat) (e : TypeId) (i : TypeInfo) (z : Value) (size bytes : Nat) (ht : P.underlying t = some (.slice e)) (hi : P.info? e = some i) (hz : i.zero = some z)
    (hsize : i.size = size) (hby : i.bytes = bytes) (hzs : z.cells.size = size) (hsz : 0 < size)
    (g n cap : Nat) (xs : List Value) (hs : a.eval s = .slice (some ⟨g, 0, none⟩) n cap) (hown : w.ownsRow base e size (.slice (some ⟨g, 0, none⟩) n cap) n xs)
    (u : Value) (m : Nat) (news : List Value) (hx : a.eval x = u) (hsrc : Src P size tx u m news w)
    (h63 : n + m ≤ maxLen) (hbytes : (n + m) * bytes ≤ 140737488355328) (hbase : base ≤ w.heap.size)
    (h : ∀ v' w', w'.ownsRow base e size v' (n + m) (xs ++ news) → w.grownBy w' (some g) → wpList P ops Q rest (a.put o.dst v') w') : wpList P ops Q (o :: rest) a w := by
  refine wpList_plain hgd fun K hK => ?_
  obtain ⟨v', w', hr, h2, h3⟩ := run_append_any (P := P) w base t tx o.type e i z size bytes ht hi hz hsize hby hzs hsz g n cap xs hown u m news hsrc h63 hbytes hbase
  unfold Oper.wp execOp
  simp only [ho, resolve, invoke, builtin, Sem.run_bind, Sem.run_pure, Result.andThen_ok, List.map_toArray, List.map_cons, List.map_nil, hs, hx, hr]
  exact hK _ _ (h v' w' h2 h3)

end Go.Proofs.YtckpacifimpkgacGreat

namespace Go.Proofs.YtckpacifimpkgacGreat
open Go.RowKit
set_option linter.unusedVariables false

theorem gpf_app (f : Nat) : ∀ (l r : List Int) (s n p : Int), (gpf f l s n p).2.2 = true → gpf f (l ++ r) s n p = gpf f l s n p := by
  induction f with
  | zero => intro l r s n p h; simp [gpf] at h
  | succ f ih =>
    intro l r s n p h
    cases l with
    | nil => simp [gpf] at h
    | cons c l =>
      rw [List.cons_append, gpf, gpf]
      rw [gpf] at h
      by_cases hc : c < 128
      · rw [if_pos hc, if_pos hc]
      · rw [if_neg hc] at h
        rw [if_neg hc, if_neg hc]
        exact ih _ _ _ _ _ h

theorem gpf_bound (f : Nat) : ∀ (l : List Int) (s n p m q : Int), (∀ x ∈ l, 0 ≤ x ∧ x ≤ 255) → 0 ≤ s → 0 ≤ n → gpf f l s n p = (m, q, true) → 0 ≤ m ∧ m ≤ 16777216 ∧ p < q ∧ q ≤ p + l.length := by
  induction f with
  | zero => intro l s n p m q _ _ _ h; simp [gpf] at h
  | succ f ih =>
    intro l s n p m q hl hs hn h
    cases l with
    | nil => simp [gpf] at h
    | cons c l =>
      rw [gpf] at h
      have hc0 := hl c (by simp)
      have hm0 : 0 ≤ c % 128 * s := Int.mul_nonneg (by omega) hs
      by_cases hc : c < 128
      · rw [if_pos hc] at h
        by_cases hle : n + c % 128 * s ≤ 16777216
        · rw [if_pos hle] at h
          injection h with h1 h2
          injection h2 with h2 h3
          subst h1 h2
          refine ⟨by omega, hle, by omega, ?_⟩
          rw [List.length_cons]
          omega
        · rw [if_neg hle] at h
          simp at h
      · rw [if_neg hc] at h
        obtain ⟨h1, h2, h3, h4⟩ := ih l _ _ _ m q (fun x hx => hl x (List.mem_cons_of_mem _ hx)) (by omega) (by omega) h
        refine ⟨h1, h2, by omega, ?_⟩
        rw [List.length_cons]
        omega

theorem getPfx_app (zs r : List Int) (i b : Int) (h : (getPfx zs i b).2.2 = true) : getPfx (zs ++ r) i b = getPfx zs i b := by
  unfold getPfx at h ⊢
  by_cases hc : 1 ≤ b ∧ b ≤ 8 ∧ 0 ≤ i ∧ i < (zs.length : Int)
  · rw [if_pos hc] at h
    rw [if_pos hc, if_pos (by rw [List.length_append]; omega)]
    have e1 : (zs ++ r).getD i.toNat 0 = zs.getD i.toNat 0 := by
      rw [List.getD_eq_getElem?_getD, List.getD_eq_getElem?_getD, List.getElem?_append_left (by omega)]
    have e2 : (zs ++ r).drop (i.toNat + 1) = zs.drop (i.toNat + 1) ++ r := List.drop_append_of_le_length (by omega)
    rw [e1, e2]
    by_cases hs : zs.getD i.toNat 0 % 2 ^ b.toNat < 2 ^ b.toNat - 1
    · rw [if_pos hs, if_pos hs]
    · rw [if_neg hs] at h
      rw [if_neg hs, if_neg hs]
      exact gpf_app _ _ _ _ _ _ h
  · rw [if_neg hc] at h
    simp at h

theorem getPfx_bound (zs : List Int) (i b m q : Int) (hz : ∀ x ∈ zs, 0 ≤ x ∧ x ≤ 255) (h : getPfx zs i b = (m, q, true)) : 0 ≤ m ∧ m ≤ 16777216 ∧ 0 ≤ i ∧ i < q ∧ q ≤ zs.length := by
  unfold getPfx at h
  by_cases hc : 1 ≤ b ∧ b ≤ 8 ∧ 0 ≤ i ∧ i < (zs.length : Int)
  · rw [if_pos hc] at h
    have hp : 0 < (2 : Int) ^ b.toNat := Int.pow_pos (by decide)
    have hp8 : (2 : Int) ^ b.toNat ≤ 256 := by
      have : (2 : Nat) ^ b.toNat ≤ 2 ^ 8 := Nat.pow_le_pow_right (by decide) (by omega)
      have e : ((2 : Int) ^ b.toNat) = ((2 ^ b.toNat : Nat) : Int) := by simp
      rw [e]
      omega
    by_cases hs : zs.getD i.toNat 0 % 2 ^ b.toNat < 2 ^ b.toNat - 1
    · rw [if_pos hs] at h
      injection h with h1 h2
      injection h2 with h2 h3
      subst h1 h2
      have := Int.emod_nonneg (zs.getD i.toNat 0) (Int.ne_of_gt hp)
      refine ⟨this, by omega, hc.2.2.1, by omega, by omega⟩
    · rw [if_neg hs] at h
      obtain ⟨h1, h2, h3, h4⟩ := gpf_bound 4 _ 1 _ _ m q (fun x hx => hz x (List.mem_of_mem_drop hx)) (by decide) (by omega) h
      refine ⟨h1, h2, hc.2.2.1, by omega, ?_⟩
      rw [List.length_drop] at h4
      omega
  · rw [if_neg hc] at h
    simp at h

theorem asInts_range (u : List UInt8) : ∀ x ∈ asInts u, 0 ≤ x ∧ x ≤ 255 := by
  intro x hx
  obtain ⟨c, _, rfl⟩ := List.mem_map.1 hx
  have := c.toNat_lt
  omega

theorem asInts_len (u : List UInt8) : (asInts u).length = u.length := by simp [asInts]

theorem asInts_inj {u v : List UInt8} (h : asInts u = asInts v) : u = v := by
  induction u generalizing v with
  | nil => cases v with
    | nil => rfl
    | cons c v => simp [asInts] at h
  | cons a u ih => cases v with
    | nil => simp [asInts] at h
    | cons c v =>
      simp only [asInts, List.map_cons, List.cons.injEq] at h
      obtain ⟨h1, h2⟩ := h
      rw [ih h2, UInt8.toNat_inj.1 (Int.ofNat_inj.1 h1)]

theorem byteCells_ints (s : ByteArray) : byteCells s = (asInts s.data.toList).map (Value.int .u8) := by
  simp [byteCells, asInts]

theorem text_eq {s t : ByteArray} (h : s.data.toList = t.data.toList) : s = t := by
  have := Array.toList_inj.1 h
  cases s; cases t; simp_all

/-- The bytes of a text in a block. -/
def StrOf (s : ByteArray) (q : List Int) : Prop :=
  (((bitLen s.data.toList + 7) / 8 < s.size) ∧ ∃ o, HuffOf s.data.toList o ∧ q = pfx 7 128 o.length ++ o) ∨ (¬ ((bitLen s.data.toList + 7) / 8 < s.size) ∧ q = pfx 7 0 s.size ++ asInts s.data.toList)

theorem StrOf.one {s : ByteArray} {q r : List Int} (h : StrOf s q) (g : StrOf s r) : q = r := by
  rcases h with ⟨h0, o, h1, rfl⟩ | ⟨h0, rfl⟩ <;> rcases g with ⟨g0, u, g1, rfl⟩ | ⟨g0, rfl⟩
  · rw [h1.one g1]
  · exact absurd h0 g0
  · exact absurd g0 h0
  · rfl

theorem StrOf.range {s : ByteArray} {q : List Int} (h : StrOf s q) : ∀ x ∈ q, 0 ≤ x ∧ x ≤ 255 := by
  intro x hx
  rcases h with ⟨h0, o, h1, rfl⟩ | ⟨h0, rfl⟩
  · rcases List.mem_append.1 hx with hx | hx
    · exact pfx_range 7 128 _ (by decide) (by decide) (by decide) x hx
    · exact h1.1 x hx
  · rcases List.mem_append.1 hx with hx | hx
    · exact pfx_range 7 0 _ (by decide) (by decide) (by decide) x hx
    · exact asInts_range _ x hx

/-- How long the bytes of a small number are. -/
theorem grp_small (k v : Nat) : ∀ j, v < 128 ^ (j + 1) → (grp k v).length ≤ j + 1 := by
  induction k generalizing v with
  | zero => intro j _; simp [grp]
  | succ k ih =>
    intro j hv
    rw [grp]
    split
    · rename_i h
      cases j with
      | zero => rw [Nat.zero_add, Nat.pow_one] at hv; omega
      | succ j =>
        have := ih (v / 128) j (by rw [Nat.pow_succ] at hv; exact Nat.div_lt_of_lt_mul (by rw [Nat.mul_comm]; exact hv))
        simp
        omega
    · simp

theorem StrOf.len {s : ByteArray} {q : List Int} (h : StrOf s q) : q.length ≤ s.size + 6 := by
  rcases h with ⟨h0, o, h1, rfl⟩ | ⟨h0, rfl⟩
  · have := pfx_len 7 128 o.length
    have h2 := h1.len
    rw [List.length_append]
    omega
  · have := pfx_len 7 0 s.size
    rw [List.length_append, asInts_len, str_len]
    omega

theorem StrOf.pos {s : ByteArray} {q : List Int} (h : StrOf s q) : 0 < q.length := by
  have hp : ∀ F n, 0 < (pfx 7 F n).length := fun F n => by unfold pfx; split <;> simp
  rcases h with ⟨h0, o, h1, rfl⟩ | ⟨h0, rfl⟩
  · have := hp 128 o.length
    rw [List.length_append]
    omega
  · have := hp 0 s.size
    rw [List.length_append]
    omega

theorem StrOf.short {s : ByteArray} {q : List Int} (h : StrOf s q) (hs : s.size < 2097152) : q.length ≤ s.size + 5 := by
  have hp : ∀ F n, n < 2097152 → (pfx 7 F n).length ≤ 5 := by
    intro F n hn
    unfold pfx
    split
    · simp
    · have := grp_small 5 (n - (2 ^ 7 - 1)) 2 (by have : 128 ^ (2 + 1) = 2097152 := by decide
                                                  omega)
      rw [List.length_cons]
      omega
  rcases h with ⟨h0, o, h1, rfl⟩ | ⟨h0, rfl⟩
  · have h2 := h1.len
    have := hp 128 o.length (by omega)
    rw [List.length_append]
    omega
  · have := hp 0 s.size hs
    rw [List.length_append, asInts_len, str_len]
    omega

/-- There is a text t of these bytes at this place, and p is behind it. -/
def GoodS (zs : List Int) (i : Int) (t : ByteArray) (p : Int) : Prop :=
  ∃ n q : Nat, getPfx zs i 7 = ((n : Int), (q : Int), true) ∧ q + n ≤ zs.length ∧ p = ((q + n : Nat) : Int) ∧ t.size ≤ 4000 ∧
    ((zs.getD i.toNat 0 < 128 ∧ asInts t.data.toList = (zs.drop q).take n) ∨ (128 ≤ zs.getD i.toNat 0 ∧ HuffOf t.data.toList ((zs.drop q).take n)))

theorem GoodS.one {zs : List Int} {i p r : Int} {s t : ByteArray} (h : GoodS zs i s p) (g : GoodS zs i t r) : s = t ∧ p = r := by
  obtain ⟨n, q, h1, h2, rfl, h4, h5⟩ := h
  obtain ⟨m, k, g1, g2, rfl, g4, g5⟩ := g
  rw [h1] at g1
  injection g1 with e1 e2
  injection e2 with e2 _
  obtain rfl : n = m := by omega
  obtain rfl : q = k := by omega
  refine ⟨?_, rfl⟩
  rcases h5 with ⟨a1, a2⟩ | ⟨a1, a2⟩ <;> rcases g5 with ⟨b1, b2⟩ | ⟨b1, b2⟩
  · exact text_eq (asInts_inj (a2.trans b2.symm))
  · omega
  · omega
  · exact text_eq (a2.text b2)

/-- What GetString answers: the text and the place, or nothing. -/
def GetS (zs : List Int) (i : Int) (t : ByteArray) (p : Int) (b : Bool) : Prop :=
  (b = true ∧ GoodS zs i t p) ∨ (b = false ∧ t = ⟨#[]⟩ ∧ p = 0 ∧ ∀ s r, ¬ GoodS zs i s r)

theorem GetS.one {zs : List Int} {i p r : Int} {s t : ByteArray} {b c : Bool} (h : GetS zs i s p b) (g : GetS zs i t r c) : s = t ∧ p = r ∧ b = c := by
  rcases h with ⟨rfl, h⟩ | ⟨rfl, rfl, rfl, h⟩ <;> rcases g with ⟨rfl, g⟩ | ⟨rfl, rfl, rfl, g⟩
  · exact ⟨(h.one g).1, (h.one g).2, rfl⟩
  · exact absurd h (g _ _)
  · exact absurd g (h _ _)
  · exact ⟨rfl, rfl, rfl⟩

theorem GoodS.app {zs : List Int} {i p : Int} {t : ByteArray} (h : GoodS zs i t p) (r : List Int) : GoodS (zs ++ r) i t p := by
  obtain ⟨n, q, h1, h2, h3, h4, h5⟩ := h
  have hb : 0 ≤ i ∧ i < (zs.length : Int) := by
    unfold getPfx at h1
    split at h1
    · rename_i hc
      exact ⟨hc.2.2.1, hc.2.2.2⟩
    · simp at h1
  refine ⟨n, q, ?_, by rw [List.length_append]; omega, h3, h4, ?_⟩
  · rw [getPfx_app zs r i 7 (by rw [h1]), h1]
  · have e1 : (zs ++ r).getD i.toNat 0 = zs.getD i.toNat 0 := by
      rw [List.getD_eq_getElem?_getD, List.getD_eq_getElem?_getD, List.getElem?_append_left (by omega)]
    have e2 : ((zs ++ r).drop q).take n = (zs.drop q).take n := by
      rw [List.drop_append_of_le_length (by omega), List.take_append_of_le_length (by rw [List.length_drop]; omega)]
    rw [e1, e2]
    exact h5

/-- A text comes back of its bytes, wherever they stand. -/
theorem StrOf.back {s : ByteArray} {q : List Int} (h : StrOf s q) (hs : s.size ≤ 4000) (zs r : List Int) : GoodS (zs ++ q ++ r) (zs.length : Int) s ((zs.length + q.length : Nat) : Int) := by
  refine GoodS.app ?_ r
  rcases h with ⟨hlt, o, h1, rfl⟩ | ⟨hlt, rfl⟩
  · have h2 := h1.len
    have hp := pfx_back zs 7 128 o.length (by decide) (by decide) (by omega)
    have hh := pfx_head zs 7 128 o.length
    have hl : 0 < (pfx 7 128 o.length).length := by unfold pfx; split <;> simp
    rw [← List.append_assoc]
    refine ⟨o.length, (zs ++ pfx 7 128 o.length).length, ?_, by simp only [List.length_append]; omega, ?_, hs, .inr ⟨?_, ?_⟩⟩
    · have e : ((7 : Nat) : Int) = 7 := rfl
      rw [e] at hp
      rw [getPfx_app _ _ _ _ (by rw [hp]), hp]
    · simp; omega
    · rw [Int.toNat_natCast, List.getD_eq_getElem?_getD, List.getElem?_append_left (by simp; omega), ← List.getD_eq_getElem?_getD, hh]
      omega
    · rw [List.drop_left, List.take_length]
      exact h1
  · have hp := pfx_back zs 7 0 s.size (by decide) (by decide) (by omega)
    have hh := pfx_head zs 7 0 s.size
    have hl : 0 < (pfx 7 0 s.size).length := by unfold pfx; split <;> simp
    rw [← List.append_assoc]
    refine ⟨s.size, (zs ++ pfx 7 0 s.size).length, ?_, by simp only [List.length_append, asInts_len, str_len]; omega, ?_, hs, .inl ⟨?_, ?_⟩⟩
    · have e : ((7 : Nat) : Int) = 7 := rfl
      rw [e] at hp
      rw [getPfx_app _ _ _ _ (by rw [hp]), hp]
    · simp [asInts_len]; omega
    · rw [Int.toNat_natCast, List.getD_eq_getElem?_getD, List.getElem?_append_left (by simp; omega), ← List.getD_eq_getElem?_getD, hh]
      omega
    · rw [List.drop_left, List.take_of_length_le (by rw [asInts_len, str_len]; exact Nat.le_refl _)]

/-- A list of bytes as the second argument of an append. -/
theorem Src.ofSeg {P : Program} {w : World} {a : Option Addr} {n cap : Nat} {zs : List Int} {t e : TypeId} (hk : P.underlying t = some (.slice e)) (h : Seg w a n zs) (ha : a = none → n = 0) : Src P 1 t (.slice a n cap) n (zs.map (Value.int .u8)) w := by
  cases a with
  | none =>
    obtain rfl := ha rfl
    obtain rfl : zs = [] := List.eq_nil_of_length_eq_zero h.1
    exact Src.ofNil w hk cap
  | some ad =>
    rcases h.2.2 with h0 | ⟨b, off, e1, _, _⟩
    · subst h0
      obtain rfl : zs = [] := List.eq_nil_of_length_eq_zero h.1
      exact Src.ofSlice w hk ad 0 cap [] rfl (by simp) (by simp)
    · injection e1 with e1
      subst e1
      exact Src.ofSlice w hk ⟨b, off, none⟩ n cap _ (by rw [List.length_map, h.1, Nat.mul_one]) (cells_ints h) (ints_one zs)

theorem Owns.some {w : World} {base n cap : Nat} {a : Option Addr} {zs : List Int} (h : Owns w base a n cap zs) (hn : 0 < n) : ∃ g, a = some ⟨g, 0, none⟩ ∧ base ≤ g ∧ g < w.heap.size := by
  obtain ⟨h1, _⟩ := h
  have hlt := h1.lt
  rcases h1.2 with ⟨e, _⟩ | ⟨g, c, cur, e, hb, hg, _⟩
  · injection e with e1 e2
    omega
  · injection e with e1
    subst e1
    exact ⟨g, rfl, (hlt g rfl)⟩

theorem Owns.cap {w : World} {base n cap : Nat} {a : Option Addr} {zs : List Int} (h : Owns w base a n cap zs) : n ≤ cap := by
  obtain ⟨h1, _⟩ := h
  rcases h1.2 with ⟨e, _⟩ | ⟨g, c, cur, e, _, _, hc, _⟩
  · injection e with _ e1 e2
    omega
  · injection e with _ _ e3
    omega

theorem Owns.none {w : World} {base n cap : Nat} {a : Option Addr} {zs : List Int} (h : Owns w base a n cap zs) : a = none → n = 0 := by
  rintro rfl
  obtain ⟨h1, _⟩ := h
  rcases h1.2 with ⟨e, _⟩ | ⟨g, c, cur, e, _⟩
  · injection e
  · injection e with e1
    cases e1

end Go.Proofs.YtckpacifimpkgacGreat



namespace Go.Proofs.YtckpacifimpkgacGreat
open Go.RowKit
set_option linter.unusedVariables false

set_option maxHeartbeats 400000 in
theorem bitsOk_yes (x : Int) (w : World) (h1 : 1 ≤ x) (h2 : x ≤ 8) : Calls Tryz.prog 57 #[.int .i64 x] w fun e w' => e = .returned (.bool true) ∧ w' = w := by
  go_enter Tryz.func57, Tryz.ntmps57
  go_wp2
  go_ret
  exact ⟨rfl, rfl⟩

set_option maxHeartbeats 400000 in
theorem bitsOk_no (x : Int) (w : World) (h : x < 1 ∨ 8 < x) : Calls Tryz.prog 57 #[.int .i64 x] w fun e w' => e = .returned (.bool false) ∧ w' = w := by
  by_cases h1 : x < 1
  · clear h
    go_enter Tryz.func57, Tryz.ntmps57
    go_wp2
    go_ret
    exact ⟨rfl, rfl⟩
  · have h2 : 8 < x := by omega
    clear h
    go_enter Tryz.func57, Tryz.ntmps57
    go_wp2
    go_ret
    exact ⟨ret_bool (by simp; omega), rfl⟩

set_option maxHeartbeats 400000 in
theorem full_any (B : Nat) (w : World) (h1 : 1 ≤ B) (h8 : B ≤ 8) : Calls Tryz.prog 58 #[.int .i64 B] w fun e w' => e = .returned (.int .i64 ((2 ^ B - 1 : Nat) : Int)) ∧ w' = w := by
  have hk1 : (1 : Int) ≤ (B : Int) := by omega
  have hk8 : (B : Int) ≤ 8 := by omega
  have hmask := mask_form B h1 h8
  go_enter Tryz.func58, Tryz.ntmps58
  go_wp2
  go_ret
  exact ⟨ret_int hmask, rfl⟩

set_option maxHeartbeats 400000 in
theorem clone_any (b off len cap : Nat) (zs : List Int) (w : World) (hs : Seg w (some ⟨b, off, none⟩) len zs) (hl : len ≤ 1099511627776) :
    Calls Tryz.prog 74 #[.slice (some ⟨b, off, none⟩) len cap] w fun e w' => ∃ a' cap', e = .returned (.slice a' len cap') ∧ Owns w' w.heap.size a' len cap' zs ∧ Below w.heap.size w w' := by
  obtain ⟨i0, hi, hz0, hz1, hz2⟩ := info_parts Tryz.info5
  have HS : Hid (Seg w (some ⟨b, off, none⟩) len zs) := hs
  have hzl : zs.length = len := hs.1
  have hS1 : Hid (Seg (w.alloc (.cells #[] 5)) (some ⟨b, off, none⟩) len zs) := hs.below ((Below.refl _ _).alloc (Nat.le_refl _) _)
  have hO1 : Hid ((w.alloc (.cells #[] 5)).ownsRow w.heap.size 5 1 (.slice (some ⟨w.heap.size, 0, none⟩) 0 0) 0 []) := World.ownsRow_lit w #[] 0 (Nat.le_refl _) (Nat.zero_le _) rfl
  clear hs
  have qT : ∀ (w : World) (a : Option Addr) (n c n' c' : Nat), (binOp .eql 22 (.slice a n c) (.slice none n' c')).run Tryz.prog w = .ok (.bool a.isNone) w := fun w a n c n' c' => Lib.run_eql_slice_nil w _ _ a n c n' c' Tryz.underlying22
  go_enter Tryz.func74, Tryz.ntmps74
  go_wp2_with (at_builtin; refine wpList_append_own _ rfl _ _ 22 rfl w.heap.size 5 i0 (.int .u8 0) 1 1 Tryz.underlying22 hi hz0 hz1 hz2 rfl (by decide) (.slice (some ⟨w.heap.size, 0, none⟩) 0 0) 0 [] rfl hO1.out ⟨b, off, none⟩ len cap (zs.map (Value.int .u8)) rfl (by simp [hzl]) (cells_ints hS1.out) (ints_one zs) (by unfold maxLen; omega) (by omega) (by simp) ?_; intro v1 w1 hown1 hgrow1 _; refine Hid.out ?_)
  refine hidden ?_
  have HO : Hid (w1.ownsRow w.heap.size 5 1 v1 len (zs.map (Value.int .u8))) := by
    show World.ownsRow _ _ _ _ _ _ _
    simpa using hown1
  have HB : Hid (Below w.heap.size w w1) := ((Below.refl _ _).alloc (Nat.le_refl _) _).grown hgrow1 (by simp) (by simp [Value.ownBlock])
  clear hown1 hgrow1 hO1 hS1
  obtain ⟨a', cap', rfl⟩ := shape_of_owns HO.out
  go_wp2_with fail
  go_ret
  exact ⟨a', cap', rfl, ⟨HO.out, HS.out.2.1⟩, HB.out⟩

end Go.Proofs.YtckpacifimpkgacGreat
