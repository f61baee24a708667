import Derived.Laws.BitsLemmas
import Derived.Laws.Bits64
import Derived.RowKit
import Derived.Laws.Strings
import Derived.KernelRfl
import Derived.Test.YtfmljlflnpmceaaGreatDoorRows
import Derived.WalkKit
import Derived.WalkSpells
import Derived.WalkLawsBesides
import Derived.Lib.AppendStr
import Derived.Lib.AppendZerosOnto
import Derived.Laws.AppendOwnNone
import Derived.Lib.Strings
import Derived.Lib.Walk
import Derived.Lib.BufferWrite
import Derived.Lib.UnsafeStr
import Derived.Lib.Hide
import Derived.Laws.MakeOwn
/- Frames as bytes: numbers of several bytes; Go's bit operations as remainders. -/
namespace Go.Proofs.YtfmljlflnpmceaaGreatDoor.Fm
open Go.RowKit
set_option linter.unusedVariables false
set_option linter.unusedSimpArgs false

/-- The number that bytes are, the highest first. -/
def numL (l : List UInt8) : Nat := l.foldl (fun v b => v * 256 + b.toNat) 0
def numS (s : ByteArray) : Nat := numL s.data.toList

theorem numL_snoc (l : List UInt8) (b : UInt8) : numL (l ++ [b]) = numL l * 256 + b.toNat := by simp [numL]

theorem numL_lt (l : List UInt8) : numL l < 256 ^ l.length := by
  have h : ∀ (l : List UInt8) (a : Nat), l.foldl (fun v b => v * 256 + b.toNat) a < (a + 1) * 256 ^ l.length := by
    intro l
    induction l with
    | nil => intro a; simp
    | cons b l ih =>
      intro a
      have h1 := ih (a * 256 + b.toNat)
      have h2 : (a * 256 + b.toNat + 1) * 256 ^ l.length ≤ ((a + 1) * 256) * 256 ^ l.length := Nat.mul_le_mul_right _ (by have := b.toNat_lt; omega)
      rw [List.foldl_cons, List.length_cons, Nat.pow_succ]
      calc _ < _ := h1
        _ ≤ _ := h2
        _ = _ := by rw [Nat.mul_assoc, Nat.mul_comm 256]
  simpa [numL] using h l 0

theorem take_num (s : ByteArray) (k : Nat) (h : k < s.size) : numL (s.data.toList.take (k + 1)) = numL (s.data.toList.take k) * 256 + s[k].toNat := by
  have hl : k < s.data.toList.length := by simpa using h
  rw [List.take_succ_eq_append_getElem hl, numL_snoc]
  rfl

theorem wraps_i64_63 (n : Int) (h₀ : 0 ≤ n) (h₁ : n < 2 ^ 63) : IntKind.i64.wrap n = n := by rw [IntKind.wrap_i64]; omega

/-- of any number: its lower bits -/
theorem and_any (n : Int) (p : Nat) (hp : p ≤ 62) : bits .and .i64 n ((2 ^ p - 1 : Nat) : Int) = n % ((2 ^ p : Nat) : Int) := by
  have hpp : 2 ^ p < 2 ^ 63 := Nat.pow_lt_pow_right (by decide) (by omega)
  have hpos : 0 < 2 ^ p := Nat.two_pow_pos p
  have hd : 2 ^ p ∣ 2 ^ 64 := Nat.pow_dvd_pow 2 (by omega)
  have hb : (BitVec.ofInt 64 ((2 ^ p - 1 : Nat) : Int)).toNat = 2 ^ p - 1 := by
    rw [BitVec.ofInt_natCast, BitVec.toNat_ofNat]; exact Nat.mod_eq_of_lt (by omega)
  have ha : (BitVec.ofInt 64 n).toNat = (n % ((2 ^ 64 : Nat) : Int)).toNat := BitVec.toNat_ofInt n
  have key : (n % ((2 ^ 64 : Nat) : Int)).toNat % 2 ^ p = (n % ((2 ^ p : Nat) : Int)).toNat := by
    have h1 : 0 ≤ n % ((2 ^ 64 : Nat) : Int) := Int.emod_nonneg _ (by decide)
    have h2 : 0 ≤ n % ((2 ^ p : Nat) : Int) := Int.emod_nonneg _ (by omega)
    apply Int.ofNat.inj
    show (((n % ((2 ^ 64 : Nat) : Int)).toNat % 2 ^ p : Nat) : Int) = (((n % ((2 ^ p : Nat) : Int)).toNat : Nat) : Int)
    rw [Int.natCast_emod, Int.toNat_of_nonneg h1, Int.toNat_of_nonneg h2]
    exact Int.emod_emod_of_dvd n (Int.natCast_dvd_natCast.2 hd)
  have h2 : 0 ≤ n % ((2 ^ p : Nat) : Int) := Int.emod_nonneg _ (by omega)
  have h3 : n % ((2 ^ p : Nat) : Int) < ((2 ^ p : Nat) : Int) := Int.emod_lt_of_pos _ (by omega)
  show IntKind.i64.wrap (((BitVec.ofInt 64 n) &&& (BitVec.ofInt 64 ((2 ^ p - 1 : Nat) : Int))).toNat : Int) = _
  rw [BitVec.toNat_and, ha, hb, Nat.and_two_pow_sub_one_eq_mod, key, Int.toNat_of_nonneg h2]
  exact wraps_i64_63 _ h2 (by omega)

theorem and31 (n : Int) : bits .and .i64 n 2147483647 = n % 2147483648 := and_any n 31 (by decide)

/-- a byte behind a number -/
theorem or_byte (x b : Nat) (hx : x < 2 ^ 40) (hb : b < 256) : bits .or .i64 ((x * 256 : Nat) : Int) (b : Int) = ((x * 256 + b : Nat) : Int) := by
  rw [(bits_nat .i64 63 (by decide) wraps_i64_63 (x * 256) b (by omega) (by omega)).2]
  have := Nat.shiftLeft_add_eq_or_of_lt (show b < 2 ^ 8 by omega) x
  rw [Nat.shiftLeft_eq] at this
  rw [← this]

/-- the highest of 32 bits beside a number of 31 -/
theorem or_high (x : Nat) (hx : x < 2147483648) : bits .or .i64 (x : Int) 2147483648 = ((x + 2147483648 : Nat) : Int) := by
  have h := (bits_nat .i64 63 (by decide) wraps_i64_63 x 2147483648 (by omega) (by omega)).2
  rw [show ((2147483648 : Nat) : Int) = 2147483648 from rfl] at h
  rw [h]
  have := Nat.shiftLeft_add_eq_or_of_lt (show x < 2 ^ 31 by omega) 1
  rw [Nat.shiftLeft_eq] at this
  rw [Nat.or_comm, show (2147483648 : Nat) = 1 * 2 ^ 31 by decide, ← this, Nat.add_comm]

theorem and_high (x : Nat) (hx : x < 4294967296) : bits .and .i64 (x : Int) 2147483648 = (if 2147483648 ≤ x then 2147483648 else 0 : Int) := by
  have h := (bits_nat .i64 63 (by decide) wraps_i64_63 x 2147483648 (by omega) (by omega)).1
  rw [show ((2147483648 : Nat) : Int) = 2147483648 from rfl] at h
  rw [h]
  have : x &&& 2147483648 = if 2147483648 ≤ x then 2147483648 else 0 := by
    have ht : x.testBit 31 = decide (2 ^ 31 ≤ x) := by
      rw [Nat.testBit_eq_decide_div_mod_eq]
      by_cases hh : 2 ^ 31 ≤ x
      · simp only [hh, decide_true, decide_eq_true_eq]; omega
      · simp only [hh, decide_false, decide_eq_false_iff_not]; omega
    rw [show (2147483648 : Nat) = 2 ^ 31 by decide]
    apply Nat.eq_of_testBit_eq
    intro i
    rw [Nat.testBit_and, Nat.testBit_two_pow]
    by_cases hi : 31 = i
    · subst hi
      rw [ht]
      by_cases hh : 2 ^ 31 ≤ x
      · rw [if_pos hh, Nat.testBit_two_pow]; simp [hh]
      · rw [if_neg hh]; simp [hh]
    · by_cases hh : 2 ^ 31 ≤ x
      · rw [if_pos hh, Nat.testBit_two_pow]; simp [hi]
      · rw [if_neg hh]; simp [hi]
  rw [this]
  split <;> rfl
end Go.Proofs.YtfmljlflnpmceaaGreatDoor.Fm
/- Rows of bytes that the calls make and append to. -/
namespace Go.Proofs.YtfmljlflnpmceaaGreatDoor.Fm
open Go.RowKit
set_option linter.unusedVariables false
set_option linter.unusedSimpArgs false

theorem info5 : (Tryz.prog.info? 5).map (fun i => (i.zero, i.size, i.bytes)) = some (some (.int .u8 0), 1, 1) := by kernel_rfl

/-- bytes, as the cells of a row -/
def bs (l : List UInt8) : List Value := l.map fun b => Value.int .u8 (b.toNat : Int)
theorem bs_append (a b : List UInt8) : bs (a ++ b) = bs a ++ bs b := by simp [bs]
theorem bs_length (a : List UInt8) : (bs a).length = a.length := by simp [bs]
theorem bs_one (a : List UInt8) : ∀ u ∈ bs a, u.oneCell' = true := by
  intro u hu
  obtain ⟨b, _, rfl⟩ := List.mem_map.1 hu
  rfl
theorem bs_str (s : ByteArray) : Lib.strCells s = bs s.data.toList := by simp [Lib.strCells, bs]

/-- The slice holds these bytes, in a row from its beginning. -/
def Row (w : World) (o : Value) (l : List UInt8) : Prop := w.ownsRow 0 5 1 o l.length (bs l)

/-- From w to w' nothing has turned but v's row, and v' is that row, or a new one. -/
structure Gr (w w' : World) (v v' : Value) : Prop where
  os : w'.os = w.os
  tape : w'.tape = w.tape
  output : w'.output = w.output
  size : w.heap.size ≤ w'.heap.size
  block : ∀ k, k < w.heap.size → v.ownBlock ≠ some k → w'.heap[k]? = w.heap[k]?
  own : ∀ k, v'.ownBlock = some k → v.ownBlock = some k ∨ w.heap.size ≤ k

theorem Gr.refl (w : World) (v : Value) : Gr w w v v := ⟨rfl, rfl, rfl, Nat.le_refl _, fun _ _ _ => rfl, fun _ h => .inl h⟩
theorem Gr.trans {a b c : World} {u v x : Value} (h : Gr a b u v) (k : Gr b c v x) : Gr a c u x :=
  ⟨k.os.trans h.os, k.tape.trans h.tape, k.output.trans h.output, Nat.le_trans h.size k.size,
    fun i hi hu => (k.block i (Nat.lt_of_lt_of_le hi h.size) (fun e => (h.own i e).elim hu fun hh => by omega)).trans (h.block i hi hu),
    fun i hi => (k.own i hi).elim (fun e => h.own i e) fun hh => .inr (Nat.le_trans h.size hh)⟩
theorem Gr.below {a b : World} (h : Below a.heap.size a b) (v : Value) : Gr a b v v :=
  ⟨h.os, h.tape, h.output, h.size, fun k hk _ => h.block k hk, fun _ h => .inl h⟩
theorem Gr.alloc (w : World) (o : Obj) (v : Value) : Gr w (w.alloc o) v v := Gr.below ((Below.refl _ w).alloc (Nat.le_refl _) o) v
theorem Gr.drew (w : World) (v : Value) : Gr w w.drew v v := Gr.below (Below.refl _ w).drew v
/-- where it began with no row, all that was there is as it was -/
theorem Gr.fresh {a b : World} {v : Value} (h : Gr a b (.slice none 0 0) v) : Below a.heap.size a b :=
  ⟨h.os, h.tape, h.output, h.size, fun k hk => h.block k hk (by simp [Value.ownBlock])⟩
theorem Gr.new {a b : World} {v : Value} (h : Gr a b (.slice none 0 0) v) : ∀ k, v.ownBlock = some k → a.heap.size ≤ k :=
  fun k hk => (h.own k hk).elim (fun e => by simp [Value.ownBlock] at e) id
theorem Gr.of_below {a b : World} {v : Value} (h : Below a.heap.size a b) (hv : ∀ k, v.ownBlock = some k → a.heap.size ≤ k) : Gr a b (.slice none 0 0) v :=
  ⟨h.os, h.tape, h.output, h.size, fun k hk _ => h.block k hk, fun k hk => .inr (hv k hk)⟩

theorem Row.below {w w' : World} {o : Value} {l : List UInt8} (h : Row w o l) (hb : Below w.heap.size w w') : Row w' o l := by
  refine ⟨h.1, ?_⟩
  rcases h.2 with hn | ⟨g, cap, cur, rfl, hbs, hgg, rest⟩
  · exact .inl hn
  · refine .inr ⟨g, cap, cur, rfl, hbs, ?_, rest⟩
    rw [hb.block g (Array.getElem?_eq_some_iff.1 hgg).1]
    exact hgg

/-- a row that another one's growth leaves alone -/
theorem Row.other {w w' : World} {o u v : Value} {l : List UInt8} (h : Row w o l) (hg : Gr w w' u v) (hne : ∀ k, o.ownBlock = some k → u.ownBlock ≠ some k) : Row w' o l := by
  refine ⟨h.1, ?_⟩
  rcases h.2 with hn | ⟨g, cap, cur, rfl, hbs, hgg, rest⟩
  · exact .inl hn
  · refine .inr ⟨g, cap, cur, rfl, hbs, ?_, rest⟩
    rw [hg.block g (Array.getElem?_eq_some_iff.1 hgg).1 (hne g rfl)]
    exact hgg

theorem Row.lt {w : World} {o : Value} {l : List UInt8} (h : Row w o l) : ∀ k, o.ownBlock = some k → k < w.heap.size := fun k hk => (World.ownsRow.lt h k hk).2
theorem Row.slice {w : World} {o : Value} {l : List UInt8} (h : Row w o l) : ∃ base cap, o = .slice base l.length cap := by
  rcases h.2 with ⟨rfl, hn⟩ | ⟨g, cap, cur, rfl, _⟩
  · exact ⟨none, 0, by rw [hn]⟩
  · exact ⟨_, cap, rfl⟩
theorem Row.nil (w : World) : Row w (.slice none 0 0) [] := World.ownsRow_nil w 0 5 1
theorem Row.alloc {w : World} {o : Value} {l : List UInt8} (h : Row w o l) (x : Obj) : Row (w.alloc x) o l := World.ownsRow.alloc h x

/-- append of a slice's bytes -/
theorem row_append (w : World) (o : Value) (l : List UInt8) (hR : Row w o l) (a : Addr) (c : Nat) (news : List UInt8) (hc : ∀ j u, (bs news)[j]? = some u → w.cell? (a.add j) = some u)
    (hlen : l.length + news.length ≤ 140737488355328) :
    ∃ o' w', (Builtin.append_ #[49, 49] 49 #[o, .slice (some a) news.length c]).run Tryz.prog w = .ok o' w' ∧ Row w' o' (l ++ news) ∧ Gr w w' o o' := by
  obtain ⟨i0, hi0, hz0, hz1, hz2⟩ := info_parts info5
  have hbl : (bs news).length = news.length * i0.size := by rw [bs_length, hz1, Nat.mul_one]
  obtain ⟨v', w', hrun, ho, hg, hnil⟩ := run_append_own (P := Tryz.prog) w 0 49 49 5 i0 _ 1 1 Tryz.underlying49 hi0 hz0 hz1 hz2 rfl (by omega) o l.length (bs l) hR a news.length c (bs news) (by rw [bs_length, Nat.mul_one]) hc (bs_one news) (by unfold maxLen; omega) (by omega) (Nat.zero_le _)
  refine ⟨v', w', hrun, by unfold Row; rw [bs_append, List.length_append]; exact ho, hg.os, hg.tape, hg.output, hg.size, fun k hk hne => hg.block k hk (fun e => hne e.symm), fun k hk => ?_⟩
  rcases hR.2 with ⟨rfl, h0⟩ | ⟨g, cap, cur, rfl, _, hgg, hnc, _, hcs, _⟩
  · by_cases hm : news.length = 0
    · rw [hnil.2 ⟨rfl, hm⟩] at hk
      simp [Value.ownBlock] at hk
    · have hr := run_append_nil (P := Tryz.prog) w 49 49 5 i0 _ Tryz.underlying49 hi0 hz0 a news.length c (bs news) hbl hc (by omega) (by omega) (by rw [hz2]; omega)
      rw [hrun] at hr
      injection hr with hr _
      subst hr
      simp [Value.ownBlock] at hk
      exact .inr (by omega)
  · by_cases hroom : l.length + news.length ≤ cap
    · have hr := run_append_room (P := Tryz.prog) w 49 49 5 i0 Tryz.underlying49 hi0 g l.length cap cur hgg a news.length c (bs news) hbl hc (bs_one news) hroom (by rw [hcs, hbl, hz1]; omega)
      rw [hrun] at hr
      injection hr with hr _
      subst hr
      exact .inl hk
    · have hr := run_append_grow (P := Tryz.prog) w 49 49 5 i0 _ Tryz.underlying49 hi0 hz0 ⟨g, 0, none⟩ l.length cap (bs l) (by rw [bs_length, hz1, Nat.mul_one]) (World.ownsRow.cells hR (g := g) rfl) a news.length c (bs news) hbl hc (by omega) (by omega) (growslice_fits (by omega) (by rw [hz2]; omega))
      rw [hrun] at hr
      injection hr with hr _
      subst hr
      simp [Value.ownBlock] at hk
      exact .inr (by omega)

theorem row_append_none (w : World) (o : Value) (l : List UInt8) (hR : Row w o l) :
    (Builtin.append_ #[49, 49] 49 #[o, .slice none 0 0]).run Tryz.prog w = .ok o w := by
  obtain ⟨i0, hi0, hz0, hz1, hz2⟩ := info_parts info5
  exact run_append_owned_none (P := Tryz.prog) (w := w) 0 49 49 5 i0 1 Tryz.underlying49 hi0 o l.length (bs l) hR

/-- append of another row -/
theorem row_append_row (w : World) (o p : Value) (l news : List UInt8) (hR : Row w o l) (hp : Row w p news) (hlen : l.length + news.length ≤ 140737488355328) :
    ∃ o' w', (Builtin.append_ #[49, 49] 49 #[o, p]).run Tryz.prog w = .ok o' w' ∧ Row w' o' (l ++ news) ∧ Gr w w' o o' := by
  have hp' := hp
  rcases hp.2 with ⟨rfl, h0⟩ | ⟨g, cap, cur, rfl, _, hgg, hnc, _, hcs, _⟩
  · obtain rfl := List.eq_nil_of_length_eq_zero h0
    exact ⟨o, w, row_append_none w o l hR, by rw [List.append_nil]; exact hR, Gr.refl _ _⟩
  · exact row_append w o l hR ⟨g, 0, none⟩ cap news (World.ownsRow.cells hp' (g := g) rfl) hlen

/-- append of a string's bytes -/
theorem row_append_str (w : World) (o : Value) (l : List UInt8) (hR : Row w o l) (s : ByteArray) (hlen : l.length + s.size ≤ 140737488355328) :
    ∃ o' w', (Builtin.append_ #[49, 9] 49 #[o, .string s]).run Tryz.prog w = .ok o' w' ∧ Row w' o' (l ++ s.data.toList) ∧ Gr w w' o o' := by
  obtain ⟨i0, hi0, hz0, hz1, hz2⟩ := info_parts info5
  have hss : s.data.toList.length = s.size := by simp
  obtain ⟨v', w', hrun, ho, hg, hnil⟩ := Lib.run_append_own_string (P := Tryz.prog) w 0 49 9 49 5 i0 Tryz.underlying49 Tryz.underlying9 hi0 hz0 hz1 hz2 o l.length (bs l) hR s (by unfold maxLen; omega) (by omega) (Nat.zero_le _)
  refine ⟨v', w', hrun, by unfold Row; rw [bs_append, List.length_append, ← bs_str, hss]; exact ho, hg.os, hg.tape, hg.output, hg.size, fun k hk hne => hg.block k hk (fun e => hne e.symm), fun k hk => ?_⟩
  rcases hR.2 with ⟨rfl, h0⟩ | ⟨g, cap, cur, rfl, _, hgg, hnc, _, hcs, _⟩
  · by_cases hm : s.size = 0
    · rw [hnil.2 ⟨rfl, hm⟩] at hk
      simp [Value.ownBlock] at hk
    · have hr := run_append_nil_string (P := Tryz.prog) w 49 9 49 5 i0 _ Tryz.underlying49 Tryz.underlying9 hi0 hz0 s (by omega) (by omega) (by rw [hz2]; omega)
      rw [hrun] at hr
      injection hr with hr _
      subst hr
      simp [Value.ownBlock] at hk
      exact .inr (by omega)
  · by_cases hroom : l.length + s.size ≤ cap
    · have hr := Lib.run_append_room_string (P := Tryz.prog) w 49 9 49 5 i0 Tryz.underlying49 Tryz.underlying9 hi0 hz1 g l.length cap cur hgg s hroom (by rw [hcs]; omega)
      rw [hrun] at hr
      injection hr with hr _
      subst hr
      exact .inl hk
    · have hr := Lib.run_append_grow_string (P := Tryz.prog) w 49 9 49 5 i0 _ Tryz.underlying49 Tryz.underlying9 hi0 hz0 ⟨g, 0, none⟩ l.length cap (bs l) (by rw [bs_length, hz1, Nat.mul_one]) (World.ownsRow.cells hR (g := g) rfl) s (by omega) (by omega) (growslice_fits (by omega) (by rw [hz2]; omega))
      rw [hrun] at hr
      injection hr with hr _
      subst hr
      simp [Value.ownBlock] at hk
      exact .inr (by omega)

theorem zeroCells_bs (k : Nat) : Builtin.zeroCells (Value.int IntKind.u8 0).cells k = (bs (List.replicate k 0)).toArray := by
  apply Array.ext'
  simp only [Builtin.zeroCells, bs, List.map_replicate]
  apply List.ext_getElem
  · simp [Value.cells]
  · intro i h1 h2
    simp [Value.cells, Nat.mod_one]

/-- append of zeros, to a row that is there -/
theorem row_append_zeros (w : World) (o : Value) (l : List UInt8) (hR : Row w o l) (hne : o ≠ .slice none 0 0) (k : Nat) (hk255 : k ≤ 255) (hlen : l.length + k ≤ 140737488355328) :
    ∃ o' w', (Builtin.append_ #[49, 5] 49 #[o, .int .u8 (k : Int)]).run Tryz.prog w = .ok o' w' ∧ Row w' o' (l ++ List.replicate k 0) ∧ Gr w w' o o' := by
  obtain ⟨i0, hi0, hz0, hz1, hz2⟩ := info_parts info5
  have hll : (l ++ List.replicate k (0 : UInt8)).length = l.length + k := by simp
  have hR' := hR
  rcases hR.2 with ⟨rfl, h0⟩ | ⟨g, cap, cur, rfl, _, hgg, hnc, hcm, hcs, htk⟩
  · exact absurd rfl hne
  · rw [Nat.mul_one] at hcs htk
    by_cases hroom : l.length + k ≤ cap
    · have hw : IntKind.i64.wrap (k : Int) = k := by rw [IntKind.wrap_i64]; omega
      have hneg : ¬ ((k : Int) < 0) := by omega
      have h48i : ¬ (281474976710656 < (k : Int) * 1) := by omega
      have hst := run_storeCells_at Tryz.prog g l.length 5 (bs (List.replicate k 0)) 0 cur w hgg (by rw [bs_length, List.length_replicate]; omega) (bs_one _)
      simp only [Nat.add_zero] at hst
      refine ⟨.slice (some ⟨g, 0, none⟩) (l.length + k) cap, w.setRow g (cur.toList.take l.length ++ bs (List.replicate k 0) ++ cur.toList.drop (l.length + (bs (List.replicate k (0 : UInt8))).length)).toArray, ?_, ?_, rfl, rfl, rfl, by simp, fun j _ hj => setRow_other w g j _ (fun e => hj (by simp [Value.ownBlock, e])), fun j hj => .inl hj⟩
      · by_cases hk0 : k = 0
        · subst hk0
          have hw0 : IntKind.i64.wrap 0 = 0 := by rw [IntKind.wrap_i64]; rfl
          simp [bs, Builtin.append_, run_underlying Tryz.underlying49, run_underlying Tryz.underlying5, sizeOf, typeInfo, zeroValue, hi0, hz0, hz1, hz2, asInt, asIntOf, hnc, storeCells, hw0] at hst ⊢
          exact hst
        · simp [Builtin.append_, run_underlying Tryz.underlying49, run_underlying Tryz.underlying5, sizeOf, typeInfo, zeroValue, hi0, hz0, hz1, hz2, asInt, asIntOf, hw, hneg, h48i, hroom, hk0, zeroCells_bs, Addr.add_lit, hst]
          intro h
          omega
      · unfold Row
        rw [hll, bs_append]
        refine ⟨by simp [bs_length], .inr ⟨g, cap, _, rfl, Nat.zero_le _, setRow_heap w g cur _ 5 _ hgg, hroom, hcm, ?_, ?_⟩⟩
        · simp only [List.size_toArray, List.length_append, List.length_take, List.length_drop, Array.length_toList, bs_length, List.length_replicate]
          omega
        · rw [htk, Nat.mul_one, List.toList_toArray, List.append_assoc, ← List.append_assoc]
          exact List.take_left' (by simp [bs_length])
    · have hold : (Builtin.firstCells i0.size l.length (.slice (some ⟨g, 0, none⟩) l.length cap)).run Tryz.prog w.drew = .ok (bs l).toArray w.drew :=
        run_firstCells_some (P := Tryz.prog) w.drew i0.size l.length ⟨g, 0, none⟩ l.length cap (bs l) (by rw [bs_length, hz1, Nat.mul_one]) (by simpa using World.ownsRow.cells hR' (g := g) rfl)
      have hr := Lib.run_append_grow_zeros (P := Tryz.prog) w 49 5 49 5 i0 _ .u8 .u8 Tryz.underlying49 Tryz.underlying5 hi0 hz0 (some ⟨g, 0, none⟩) l.length cap (bs l) hold k (by omega) (by omega) (by omega) (by omega) (by rw [hz2]; omega) (growslice_fits (by omega) (by rw [hz2]; omega))
      refine ⟨_, _, hr, ?_, rfl, rfl, rfl, by simp, fun j hj _ => heap_alloc_old w.drew _ hj, fun j hj => by simp [Value.ownBlock] at hj; exact .inr (by omega)⟩
      have hge := grownCap_ge w (l.length + k) cap 5
      have hcm' : grownCap w (l.length + k) cap 5 ≤ maxLen := grownCap_le_maxLen w (l.length + k) cap 5 (by unfold maxLen; omega)
      unfold Row
      rw [hll, bs_append]
      refine ⟨by simp [bs_length], .inr ⟨w.heap.size, _, _, rfl, Nat.zero_le _, heap_alloc_new w.drew _, hge, hcm', ?_, ?_⟩⟩
      · simp only [Array.size_append, List.size_toArray, size_zeroCells, bs_length]
        simp only [Value.cells, List.size_toArray, List.length_cons, List.length_nil]
        omega
      · rw [zeroCells_bs k]
        simp only [Array.toList_append, List.toList_toArray]
        exact List.take_left' (by simp [bs_length])

/-- append, as one step of a region that draws, by the equation of its run. -/
theorem step_append_run {P : Program} {ops : Array Oper} {o : Oper} {a : Act} {w : World} {K : Act → World → Prop} {Q : Exit → Act → World → Prop} {R : Prop}
    (hg : o.guard = none) (s x : Operand) (t tn : TypeId) (ho : o.op = .call { callee := .builtin .append, args := #[s, x], argTypes := #[t, tn] })
    {vs vx v' : Value} {w' : World} (hr : (Builtin.append_ #[t, tn] o.type #[vs, vx]).run P w = .ok v' w') (hs : a.eval s = vs) (hx : a.eval x = vx)
    (hK : K (a.put o.dst v') w') : if Region.wanted o (yielded ops a.tmps) = true then Oper.wp P o a w K Q else R := by
  have hw : Region.wanted o (yielded ops a.tmps) = true := by simp [Region.wanted, hg]
  rw [if_pos hw]
  exact Lib.wp_append_run w s x t tn ho vs vx hs hx v' w' hr hK

end Go.Proofs.YtfmljlflnpmceaaGreatDoor.Fm
namespace Go.Proofs.YtfmljlflnpmceaaGreatDoor.Fm
open Go.RowKit
set_option linter.unusedVariables false
set_option linter.unusedSimpArgs false

set_option maxRecDepth 100000 in
set_option maxHeartbeats 800000 in
theorem number_any (s : ByteArray) (w : World) (hs : s.size ≤ 4) :
    Calls Tryz.prog 69 #[.string s] w fun e w' => e = .returned (.int .i64 (numS s : Int)) ∧ w' = w := by
  go_enter Tryz.func69, Tryz.ntmps69
  go_wp2
  go_loop [3, 7] (fun v i => ∃ k x : Nat, k ≤ s.size ∧ i = .int .i64 (k : Int) ∧ v = .int .i64 (x : Int) ∧ Hid (x = numL (s.data.toList.take k))) (fun _ i => s.size - (intOf i).toNat)
  case atStart => exact ⟨0, 0, by omega, rfl, rfl, rfl⟩
  case round =>
    obtain ⟨k, x, hk, rfl, rfl, H⟩ := hrel
    by_cases hlt : k < s.size
    · have hx : x < 16777216 := by
        have h1 := numL_lt (s.data.toList.take k)
        have h2 : (s.data.toList.take k).length ≤ 3 := by rw [List.length_take]; omega
        have h3 : 256 ^ (s.data.toList.take k).length ≤ 256 ^ 3 := Nat.pow_le_pow_right (by decide) h2
        have := H.out
        omega
      have hb : s[k].toNat < 256 := s[k].toNat_lt
      have ho := or_byte x s[k].toNat (by omega) hb
      have HN : Hid (x * 256 + s[k].toNat = numL (s.data.toList.take (k + 1))) := by
        show _ = _
        rw [take_num s k hlt, ← H.out]
      generalize hy : x * 256 + s[k].toNat = y at ho HN
      rw [Int.natCast_mul, show ((256 : Nat) : Int) = 256 from rfl] at ho
      clear hy H
      go_wp2
      go_round
      case rel => exact ⟨k + 1, y, by omega, by simp, by first | rfl | rw [ho], HN⟩
      case measure => simp [intOf]; omega
    · obtain rfl : k = s.size := by omega
      have HN : Hid (x = numS s) := by
        show _ = _
        rw [H.out, numS, List.take_of_length_le (by simp)]
      clear H
      go_wp2
      go_ret
      have h := HN.out
      subst h
      exact ⟨rfl, rfl⟩

/-- so many bytes of a number, the highest first -/
def be (n : Nat) (v : Int) : List UInt8 := (List.range n).map fun i => UInt8.ofNat ((v / ((256 ^ (n - 1 - i) : Nat) : Int) % 256).toNat)
theorem be_length (n : Nat) (v : Int) : (be n v).length = n := by simp [be]
theorem be_byte (n i : Nat) (v : Int) (h : i < n) : (be n v).take (i + 1) = (be n v).take i ++ [UInt8.ofNat ((v / ((256 ^ (n - 1 - i) : Nat) : Int) % 256).toNat)] := by
  rw [List.take_succ_eq_append_getElem (by rw [be_length]; exact h)]
  simp [be]
theorem u8_int (x : Int) : ((UInt8.ofNat (x % 256).toNat).toNat : Int) = x % 256 := by
  have h1 : 0 ≤ x % 256 := by omega
  have h2 : x % 256 < 256 := by omega
  rw [UInt8.toNat_ofNat']
  omega

/-- one byte more -/
theorem put_one {w wr : World} {o o0 : Value} {l m : List UInt8} (hR : Row wr o (l ++ m)) (hG : Gr w wr o0 o) (b : UInt8) (hl : l.length + m.length + 1 ≤ 140737488355328) :
    ∃ o' w', (Builtin.append_ #[49, 49] 49 #[o, .slice (some ⟨wr.heap.size, 0, none⟩) 1 1]).run Tryz.prog (wr.alloc (.cells #[.int .u8 (b.toNat : Int)] 5)) = .ok o' w' ∧ Row w' o' (l ++ (m ++ [b])) ∧ Gr w w' o0 o' := by
  have h := row_append (wr.alloc (.cells #[.int .u8 (b.toNat : Int)] 5)) o (l ++ m) (hR.alloc _) ⟨wr.heap.size, 0, none⟩ 1 [b] (by
    intro j u hj
    match j, hj with
    | 0, hj => simp [bs] at hj; subst hj; simp [Addr.add]) (by simp; omega)
  obtain ⟨o', w', h1, h2, h3⟩ := h
  exact ⟨o', w', h1, by rw [← List.append_assoc]; exact h2, (hG.trans (Gr.alloc _ _ _)).trans h3⟩

set_option maxRecDepth 100000 in
set_option maxHeartbeats 1600000 in
theorem putNumber2 (w : World) (o : Value) (l : List UInt8) (v : Int) (hR : Row w o l) (hl : l.length + 4 ≤ 140737488355328) :
    Calls Tryz.prog 68 #[o, .int .i64 v, .int .i64 2] w fun e w' => ∃ o', e = .returned o' ∧ Row w' o' (l ++ be 2 v) ∧ Gr w w' o o' := by
  have H0 : Hid (Row w o l) := hR
  clear hR
  go_enter Tryz.func68, Tryz.ntmps68
  go_wp2
  go_loopw [0, 9] (fun x i wr => ∃ k : Nat, k ≤ 2 ∧ i = .int .i64 (k : Int) ∧ Row wr x (l ++ (be 2 v).take k) ∧ Gr w wr o x) (fun _ i _ => 2 - (intOf i).toNat)
  case atStart => exact ⟨0, by omega, rfl, by simpa using H0.out, Gr.refl _ _⟩
  case round =>
    obtain ⟨k, hk, rfl, hRow, hG⟩ := hrel
    by_cases hlt : k < 2
    · obtain ⟨b, hb, hbe⟩ : ∃ b : UInt8, (b.toNat : Int) = v / ((256 ^ (2 - 1 - k) : Nat) : Int) % 256 ∧ Hid ((be 2 v).take (k + 1) = (be 2 v).take k ++ [b]) := ⟨_, u8_int _, be_byte 2 k v hlt⟩
      obtain ⟨o', w', hrun, hRow', hG'⟩ := put_one hRow hG b (by rw [List.length_take]; omega)
      rw [← hbe.out] at hRow'
      rw [hb] at hrun
      replace hrun : Hid _ := hrun
      clear hb hRow hG hbe
      obtain rfl | rfl : k = 0 ∨ k = 1 := by omega
      · have e1 : v / ((256 ^ (2 - 1 - 0) : Nat) : Int) % 256 = v / 256 % 256 := rfl
        rw [e1] at hrun
        go_wp2_with (at_builtin; refine Lib.wpList_append_run _ rfl (.tmp 12) (.tmp 21) 49 49 rfl _ _ rfl rfl _ _ hrun.out ?_)
        go_wp2
        go_roundw
        case rel => exact ⟨0 + 1, by omega, rfl, hRow', hG'⟩
        case measure => simp [intOf]
      · have e1 : v / ((256 ^ (2 - 1 - 1) : Nat) : Int) % 256 = v % 256 := by simp
        rw [e1] at hrun
        go_wp2_with (at_builtin; refine Lib.wpList_append_run _ rfl (.tmp 12) (.tmp 21) 49 49 rfl _ _ rfl rfl _ _ hrun.out ?_)
        go_wp2
        go_roundw
        case rel => exact ⟨1 + 1, by omega, rfl, hRow', hG'⟩
        case measure => simp [intOf]
    · obtain rfl : k = 2 := by omega
      rw [List.take_of_length_le (by rw [be_length]; omega)] at hRow
      go_wp2
      go_ret
      exact ⟨_, rfl, hRow, hG⟩

set_option maxRecDepth 100000 in
set_option maxHeartbeats 1600000 in
theorem putNumber3 (w : World) (o : Value) (l : List UInt8) (v : Int) (hR : Row w o l) (hl : l.length + 4 ≤ 140737488355328) :
    Calls Tryz.prog 68 #[o, .int .i64 v, .int .i64 3] w fun e w' => ∃ o', e = .returned o' ∧ Row w' o' (l ++ be 3 v) ∧ Gr w w' o o' := by
  have H0 : Hid (Row w o l) := hR
  clear hR
  go_enter Tryz.func68, Tryz.ntmps68
  go_wp2
  go_loopw [0, 9] (fun x i wr => ∃ k : Nat, k ≤ 3 ∧ i = .int .i64 (k : Int) ∧ Row wr x (l ++ (be 3 v).take k) ∧ Gr w wr o x) (fun _ i _ => 3 - (intOf i).toNat)
  case atStart => exact ⟨0, by omega, rfl, by simpa using H0.out, Gr.refl _ _⟩
  case round =>
    obtain ⟨k, hk, rfl, hRow, hG⟩ := hrel
    by_cases hlt : k < 3
    · obtain ⟨b, hb, hbe⟩ : ∃ b : UInt8, (b.toNat : Int) = v / ((256 ^ (3 - 1 - k) : Nat) : Int) % 256 ∧ Hid ((be 3 v).take (k + 1) = (be 3 v).take k ++ [b]) := ⟨_, u8_int _, be_byte 3 k v hlt⟩
      obtain ⟨o', w', hrun, hRow', hG'⟩ := put_one hRow hG b (by rw [List.length_take]; omega)
      rw [← hbe.out] at hRow'
      rw [hb] at hrun
      replace hrun : Hid _ := hrun
      clear hb hRow hG hbe
      obtain rfl | rfl | rfl : k = 0 ∨ k = 1 ∨ k = 2 := by omega
      · have e1 : v / ((256 ^ (3 - 1 - 0) : Nat) : Int) % 256 = v / 65536 % 256 := rfl
        rw [e1] at hrun
        go_wp2_with (at_builtin; refine Lib.wpList_append_run _ rfl (.tmp 12) (.tmp 21) 49 49 rfl _ _ rfl rfl _ _ hrun.out ?_)
        go_wp2
        go_roundw
        case rel => exact ⟨0 + 1, by omega, rfl, hRow', hG'⟩
        case measure => simp [intOf]
      · have e1 : v / ((256 ^ (3 - 1 - 1) : Nat) : Int) % 256 = v / 256 % 256 := rfl
        rw [e1] at hrun
        go_wp2_with (at_builtin; refine Lib.wpList_append_run _ rfl (.tmp 12) (.tmp 21) 49 49 rfl _ _ rfl rfl _ _ hrun.out ?_)
        go_wp2
        go_roundw
        case rel => exact ⟨1 + 1, by omega, rfl, hRow', hG'⟩
        case measure => simp [intOf]
      · have e1 : v / ((256 ^ (3 - 1 - 2) : Nat) : Int) % 256 = v % 256 := by simp
        rw [e1] at hrun
        go_wp2_with (at_builtin; refine Lib.wpList_append_run _ rfl (.tmp 12) (.tmp 21) 49 49 rfl _ _ rfl rfl _ _ hrun.out ?_)
        go_wp2
        go_roundw
        case rel => exact ⟨2 + 1, by omega, rfl, hRow', hG'⟩
        case measure => simp [intOf]
    · obtain rfl : k = 3 := by omega
      rw [List.take_of_length_le (by rw [be_length]; omega)] at hRow
      go_wp2
      go_ret
      exact ⟨_, rfl, hRow, hG⟩

set_option maxRecDepth 100000 in
set_option maxHeartbeats 1600000 in
theorem putNumber4 (w : World) (o : Value) (l : List UInt8) (v : Int) (hR : Row w o l) (hl : l.length + 4 ≤ 140737488355328) :
    Calls Tryz.prog 68 #[o, .int .i64 v, .int .i64 4] w fun e w' => ∃ o', e = .returned o' ∧ Row w' o' (l ++ be 4 v) ∧ Gr w w' o o' := by
  have H0 : Hid (Row w o l) := hR
  clear hR
  go_enter Tryz.func68, Tryz.ntmps68
  go_wp2
  go_loopw [0, 9] (fun x i wr => ∃ k : Nat, k ≤ 4 ∧ i = .int .i64 (k : Int) ∧ Row wr x (l ++ (be 4 v).take k) ∧ Gr w wr o x) (fun _ i _ => 4 - (intOf i).toNat)
  case atStart => exact ⟨0, by omega, rfl, by simpa using H0.out, Gr.refl _ _⟩
  case round =>
    obtain ⟨k, hk, rfl, hRow, hG⟩ := hrel
    by_cases hlt : k < 4
    · obtain ⟨b, hb, hbe⟩ : ∃ b : UInt8, (b.toNat : Int) = v / ((256 ^ (4 - 1 - k) : Nat) : Int) % 256 ∧ Hid ((be 4 v).take (k + 1) = (be 4 v).take k ++ [b]) := ⟨_, u8_int _, be_byte 4 k v hlt⟩
      obtain ⟨o', w', hrun, hRow', hG'⟩ := put_one hRow hG b (by rw [List.length_take]; omega)
      rw [← hbe.out] at hRow'
      rw [hb] at hrun
      replace hrun : Hid _ := hrun
      clear hb hRow hG hbe
      obtain rfl | rfl | rfl | rfl : k = 0 ∨ k = 1 ∨ k = 2 ∨ k = 3 := by omega
      · have e1 : v / ((256 ^ (4 - 1 - 0) : Nat) : Int) % 256 = v / 16777216 % 256 := rfl
        rw [e1] at hrun
        go_wp2_with (at_builtin; refine Lib.wpList_append_run _ rfl (.tmp 12) (.tmp 21) 49 49 rfl _ _ rfl rfl _ _ hrun.out ?_)
        go_wp2
        go_roundw
        case rel => exact ⟨0 + 1, by omega, rfl, hRow', hG'⟩
        case measure => simp [intOf]
      · have e1 : v / ((256 ^ (4 - 1 - 1) : Nat) : Int) % 256 = v / 65536 % 256 := rfl
        rw [e1] at hrun
        go_wp2_with (at_builtin; refine Lib.wpList_append_run _ rfl (.tmp 12) (.tmp 21) 49 49 rfl _ _ rfl rfl _ _ hrun.out ?_)
        go_wp2
        go_roundw
        case rel => exact ⟨1 + 1, by omega, rfl, hRow', hG'⟩
        case measure => simp [intOf]
      · have e1 : v / ((256 ^ (4 - 1 - 2) : Nat) : Int) % 256 = v / 256 % 256 := rfl
        rw [e1] at hrun
        go_wp2_with (at_builtin; refine Lib.wpList_append_run _ rfl (.tmp 12) (.tmp 21) 49 49 rfl _ _ rfl rfl _ _ hrun.out ?_)
        go_wp2
        go_roundw
        case rel => exact ⟨2 + 1, by omega, rfl, hRow', hG'⟩
        case measure => simp [intOf]
      · have e1 : v / ((256 ^ (4 - 1 - 3) : Nat) : Int) % 256 = v % 256 := by simp
        rw [e1] at hrun
        go_wp2_with (at_builtin; refine Lib.wpList_append_run _ rfl (.tmp 12) (.tmp 21) 49 49 rfl _ _ rfl rfl _ _ hrun.out ?_)
        go_wp2
        go_roundw
        case rel => exact ⟨3 + 1, by omega, rfl, hRow', hG'⟩
        case measure => simp [intOf]
    · obtain rfl : k = 4 := by omega
      rw [List.take_of_length_le (by rw [be_length]; omega)] at hRow
      go_wp2
      go_ret
      exact ⟨_, rfl, hRow, hG⟩

theorem putNumber_any (w : World) (o : Value) (l : List UInt8) (v : Int) (n : Nat) (hn : n = 2 ∨ n = 3 ∨ n = 4) (hR : Row w o l) (hl : l.length + 4 ≤ 140737488355328) :
    Calls Tryz.prog 68 #[o, .int .i64 v, .int .i64 (n : Int)] w fun e w' => ∃ o', e = .returned o' ∧ Row w' o' (l ++ be n v) ∧ Gr w w' o o' := by
  rcases hn with rfl | rfl | rfl
  · exact putNumber2 w o l v hR hl
  · exact putNumber3 w o l v hR hl
  · exact putNumber4 w o l v hR hl
end Go.Proofs.YtfmljlflnpmceaaGreatDoor.Fm
/- Frames in memory; strings.Clone; what takes a payload apart. -/
namespace Go.Proofs.YtfmljlflnpmceaaGreatDoor.Fm
open Go.RowKit
set_option linter.unusedVariables false
set_option linter.unusedSimpArgs false

/-- A frame without its params. -/
structure Fr where
  ty : Int
  fl : Int
  st : Int
  data : ByteArray
  pad : Int
  dep : Int
  excl : Bool
  wt : Int
  code : Int
  last : Int

def Fr.zero : Fr := ⟨0, 0, 0, ⟨#[]⟩, 0, 0, false, 0, 0, 0⟩

/-- its cells, with the slice of its params -/
def fv (f : Fr) (p : Value) : Array Value :=
  #[.int .i64 f.ty, .int .i64 f.fl, .int .i64 f.st, .string f.data, .int .i64 f.pad, .int .i64 f.dep, .bool f.excl, .int .i64 f.wt, .int .i64 f.code, .int .i64 f.last, p]

/-- Block g holds a frame. -/
def FB (w : World) (g : Nat) (f : Fr) (p : Value) : Prop := w.heap[g]? = some (.cells (fv f p) 31 (0, 0))

/-- All blocks but g are as they were. -/
structure Kp (g : Nat) (w w' : World) : Prop where
  os : w'.os = w.os
  tape : w'.tape = w.tape
  output : w'.output = w.output
  size : w.heap.size ≤ w'.heap.size
  block : ∀ k, k < w.heap.size → k ≠ g → w'.heap[k]? = w.heap[k]?

theorem Kp.refl (g : Nat) (w : World) : Kp g w w := ⟨rfl, rfl, rfl, Nat.le_refl _, fun _ _ _ => rfl⟩
theorem Kp.trans {g : Nat} {a b c : World} (h : Kp g a b) (k : Kp g b c) : Kp g a c :=
  ⟨k.os.trans h.os, k.tape.trans h.tape, k.output.trans h.output, Nat.le_trans h.size k.size, fun i hi hu => (k.block i (Nat.lt_of_lt_of_le hi h.size) hu).trans (h.block i hi hu)⟩
theorem Kp.of_below {g : Nat} {a b : World} (h : Below a.heap.size a b) : Kp g a b := ⟨h.os, h.tape, h.output, h.size, fun k hk _ => h.block k hk⟩
theorem Kp.below {g : Nat} {a b : World} {B : Nat} (h : Kp g a b) (hB : B ≤ a.heap.size) (hg : B ≤ g) : Below B a b :=
  ⟨h.os, h.tape, h.output, h.size, fun k hk => h.block k (Nat.lt_of_lt_of_le hk hB) (by omega)⟩

theorem setCell_block (w : World) (b off : Nat) (v : Value) (c : Array Value) (t : TypeId) (fz : Nat × Nat) (h : w.heap[b]? = some (.cells c t fz)) :
    (w.setCell ⟨b, off, none⟩ v).heap[b]? = some (.cells (c.setIfInBounds off v) t fz) := by
  simp [World.setCell, Array.getElem?_modify, h]
theorem setCell_other (w : World) (b k off : Nat) (v : Value) (h : k ≠ b) : (w.setCell ⟨b, off, none⟩ v).heap[k]? = w.heap[k]? := by
  simp [World.setCell, Array.getElem?_modify, Ne.symm h]
theorem Kp.setCell (w : World) (g off : Nat) (v : Value) : Kp g w (w.setCell ⟨g, off, none⟩ v) := ⟨rfl, rfl, rfl, by simp [World.setCell], fun k _ hk => setCell_other _ _ _ _ _ hk⟩

theorem FB.lt {w : World} {g : Nat} {f : Fr} {p : Value} (h : FB w g f p) : g < w.heap.size := (Array.getElem?_eq_some_iff.1 h).1
theorem FB.below {w w' : World} {g : Nat} {f : Fr} {p : Value} (h : FB w g f p) (hb : Below w.heap.size w w') : FB w' g f p := (hb.block g h.lt).trans h
theorem FB.cell {w : World} {g : Nat} {f : Fr} {p : Value} (h : FB w g f p) (i : Nat) : w.cell? ⟨g, i, none⟩ = (fv f p)[i]? := by
  unfold FB at h
  simp [World.cell?, h]
theorem FB.frozen {w : World} {g : Nat} {f : Fr} {p : Value} (h : FB w g f p) (i : Nat) : w.frozen? ⟨g, i, none⟩ = false := by
  unfold FB at h
  simp [World.frozen?, h]

/-- the byte with number i -/
def byteAt (b : ByteArray) (i : Nat) : Nat := if h : i < b.size then b[i].toNat else 0
theorem byteAt_eq (b : ByteArray) (i : Nat) (h : i < b.size) : byteAt b i = b[i].toNat := by simp [byteAt, h]
theorem byteAt_lt (b : ByteArray) (i : Nat) : byteAt b i < 256 := by
  unfold byteAt
  split
  · exact UInt8.toNat_lt _
  · omega
theorem numS_lt4 (b : ByteArray) (h : b.size ≤ 4) : numS b < 4294967296 := by
  have h1 := numL_lt b.data.toList
  have h2 : b.data.toList.length ≤ 4 := by simpa using h
  have h3 : 256 ^ b.data.toList.length ≤ 256 ^ 4 := Nat.pow_le_pow_right (by decide) h2
  unfold numS
  omega

/-- what the five bytes of a priority say -/
def prioS (f : Fr) (b : ByteArray) : Fr := { f with dep := ((numS (b.extract 0 4) % 2147483648 : Nat) : Int), excl := decide (2147483648 ≤ numS (b.extract 0 4)), wt := (byteAt b 4 : Int) + 1 }
def lastS (f : Fr) (b : ByteArray) : Fr := { f with last := ((numS b % 2147483648 : Nat) : Int) }
def codeS (f : Fr) (b : ByteArray) : Fr := { f with code := (numS b : Int) }
def dataS (f : Fr) (b : ByteArray) : Fr := { f with data := b }

set_option maxHeartbeats 4000000 in
set_option maxRecDepth 100000 in
theorem slClone_any (s : ByteArray) (w : World) (hlim : s.size ≤ 281474976710656) :
    Calls Tryz.prog 137 #[.string s] w fun e w' => e = .returned (.string s) ∧ Below w.heap.size w w' := by
  by_cases h0 : s.size = 0
  · have hs : s = ⟨#[]⟩ := by
      apply ByteArray.ext
      exact Array.eq_empty_of_size_eq_zero h0
    subst hs
    go_enter Tryz.func137, Tryz.ntmps137
    go_wp2
    go_ret
    exact ⟨rfl, Below.refl _ _⟩
  · obtain ⟨i0, hi, hz0, hz1, hz2⟩ := info_parts info5
    have hinfo : (Tryz.prog.info? 5).map (·.size) = some 1 := by rw [hi]; simp [hz1]
    have hco : Tryz.prog.cellsOf 5 = 1 := by simp [Program.cellsOf, hi, hz1]
    obtain ⟨M, hM⟩ : ∃ M, M = madeCells (Value.int .u8 0).cells (((s.size : Nat) : Int).toNat * i0.size) := ⟨_, rfl⟩
    have hMs : M.size = s.size := by rw [hM, size_madeCells, hz1]; simp
    have hmk : ∀ W : World, (Instr.makeSlice 49 (.int .i64 (s.size : Int)) (.int .i64 (s.size : Int))).run Tryz.prog W = .ok (.slice (some ⟨W.heap.size, 0, none⟩) s.size s.size) (W.alloc (.cells M 5)) := fun W => by
      have h := run_make (P := Tryz.prog) W 49 5 i0 (.int .u8 0) Tryz.underlying49 hi hz0 .i64 .i64 (s.size : Int) (s.size : Int) (by omega) (by omega) (by rw [hz2]; omega) (by omega)
      rw [← hM] at h
      simpa using h
    clear hM
    have hcp := Lib.run_copy_row_string (P := Tryz.prog) (w.alloc (.cells M 5)) 49 9 3 5 w.heap.size 0 s.size s.size s M 5 Tryz.underlying49 hinfo (heap_alloc_new w _) (Nat.le_refl _) (by omega)
    obtain ⟨Y, hY⟩ : ∃ Y, Y = (M.toList.take 0 ++ Lib.byteCells s.data.toList ++ M.toList.drop (0 + s.size)).toArray := ⟨_, rfl⟩
    rw [← hY] at hcp
    have hYl : Y.toList = Lib.byteCells s.data.toList := by
      rw [hY, List.toList_toArray, List.take_zero, List.nil_append, List.drop_of_length_le (by rw [Array.length_toList]; omega), List.append_nil]
    have hYs : Y.size = s.size := by rw [← Array.length_toList, hYl, Lib.byteCells_length, ← Lib.size_eq]
    have hgY : ((w.alloc (.cells M 5)).setRow w.heap.size Y).heap[w.heap.size]? = some (.cells Y 5 (0, 0)) := setRow_heap _ _ M _ 5 (0, 0) (heap_alloc_new w _)
    have hne : s.data.toList ≠ [] := fun e => h0 (by rw [Lib.size_eq, e]; rfl)
    have hUS := Lib.run_unsafeString_row (P := Tryz.prog) ((w.alloc (.cells M 5)).setRow w.heap.size Y) 161 3 9 5 Tryz.underlying161 hco w.heap.size Y.size (by unfold World.shape?; rw [hgY]) s.data.toList hne (by rw [← Lib.size_eq]; omega) (by rw [← Lib.size_eq]; omega)
      (fun j x hx => Lib.cells_of_row hgY Y.size j _ (by rw [List.take_of_length_le (by rw [Array.length_toList]; exact Nat.le_refl _), hYl]; simp [Lib.byteCells, hx]))
    rw [← Lib.size_eq] at hUS
    clear hY
    go_enter Tryz.func137, Tryz.ntmps137
    go_wp2
    go_ret
    have hb1 : Below w.heap.size w (w.alloc (.cells M 5)) := (Below.refl _ w).alloc (Nat.le_refl _) _
    have hb2 : Below w.heap.size (w.alloc (.cells M 5)) ((w.alloc (.cells M 5)).setRow w.heap.size Y) := ⟨rfl, rfl, rfl, by simp, fun k hk => setRow_other _ _ _ _ (by omega)⟩
    exact ⟨rfl, Lib.below_freeze (hb1.trans hb2) (p := ⟨w.heap.size, 0, none⟩) (Nat.le_refl _) _⟩

set_option maxHeartbeats 400000 in
theorem clone_any (s : ByteArray) (w : World) (hlim : s.size ≤ 281474976710656) :
    Calls Tryz.prog 119 #[.string s] w fun e w' => e = .returned (.string s) ∧ Below w.heap.size w w' := by
  go_enter Tryz.func119, Tryz.ntmps119
  go_wp2_with (go_at_call 137; refine (slClone_any s w hlim).mono ?_; rintro e w' ⟨rfl, hb⟩)
  go_ret
  exact ⟨rfl, hb⟩

set_option maxHeartbeats 800000 in
theorem takeData_any (w : World) (g : Nat) (f : Fr) (p : Value) (b : ByteArray) (h : FB w g f p) (hlim : b.size ≤ 281474976710656) :
    Calls Tryz.prog 104 #[.pointer (some ⟨g, 0, none⟩), .string b] w fun e w' => e = .returned (.tuple #[]) ∧ FB w' g (dataS f b) p ∧ Kp g w w' := by
  have hc : Hid (∀ w' : World, Below w.heap.size w w' → w'.cell? ⟨g, 3, none⟩ = some (.string f.data) ∧ w'.frozen? ⟨g, 3, none⟩ = false) := fun w' hb => ⟨(h.below hb).cell 3, (h.below hb).frozen 3⟩
  have hfin : Hid (∀ w' : World, Below w.heap.size w w' → FB (w'.setCell ⟨g, 3, none⟩ (.string b)) g { f with data := b } p ∧ Kp g w (w'.setCell ⟨g, 3, none⟩ (.string b))) := fun w' hb =>
    ⟨by unfold FB; rw [setCell_block _ _ _ _ _ _ _ (h.below hb)]; rfl, (Kp.of_below hb).trans (Kp.setCell _ _ _ _)⟩
  clear h
  go_enter Tryz.func104, Tryz.ntmps104
  go_wp2_with (go_at_call 119; refine (clone_any b w hlim).mono ?_; rintro e w' ⟨rfl, hb⟩; obtain ⟨hc1, hc2⟩ := hc.out w' hb)
  go_end0
  exact ⟨rfl, hfin.out _ hb⟩

set_option maxHeartbeats 800000 in
theorem takeCode_any (w : World) (g : Nat) (f : Fr) (p : Value) (b : ByteArray) (h : FB w g f p) (hs : b.size ≤ 4) :
    Calls Tryz.prog 97 #[.pointer (some ⟨g, 0, none⟩), .string b] w fun e w' => e = .returned (.tuple #[]) ∧ FB w' g (codeS f b) p ∧ Kp g w w' := by
  have hc1 := h.cell 8
  have hc2 := h.frozen 8
  simp only [fv, List.getElem?_toArray, List.getElem?_cons_succ, List.getElem?_cons_zero] at hc1
  have hfin : Hid (FB (w.setCell ⟨g, 8, none⟩ (.int .i64 (numS b : Int))) g { f with code := numS b } p ∧ Kp g w (w.setCell ⟨g, 8, none⟩ (.int .i64 (numS b : Int)))) :=
    ⟨by unfold FB; rw [setCell_block _ _ _ _ _ _ _ h]; rfl, Kp.setCell _ _ _ _⟩
  clear h
  go_enter Tryz.func97, Tryz.ntmps97
  go_wp2_with (go_at_call 69; refine (number_any b w hs).mono ?_; rintro e w' ⟨rfl, rfl⟩)
  go_end0
  exact ⟨rfl, hfin.out⟩

set_option maxHeartbeats 800000 in
theorem takeLast_any (w : World) (g : Nat) (f : Fr) (p : Value) (b : ByteArray) (h : FB w g f p) (hs : b.size ≤ 4) :
    Calls Tryz.prog 108 #[.pointer (some ⟨g, 0, none⟩), .string b] w fun e w' => e = .returned (.tuple #[]) ∧ FB w' g (lastS f b) p ∧ Kp g w w' := by
  have hc1 := h.cell 9
  have hc2 := h.frozen 9
  simp only [fv, List.getElem?_toArray, List.getElem?_cons_succ, List.getElem?_cons_zero] at hc1
  have hand := and31 (numS b : Int)
  have hfin : Hid (FB (w.setCell ⟨g, 9, none⟩ (.int .i64 ((numS b : Int) % 2147483648))) g { f with last := ((numS b % 2147483648 : Nat) : Int) } p ∧ Kp g w (w.setCell ⟨g, 9, none⟩ (.int .i64 ((numS b : Int) % 2147483648)))) :=
    ⟨by unfold FB; rw [setCell_block _ _ _ _ _ _ _ h]; rfl, Kp.setCell _ _ _ _⟩
  clear h
  go_enter Tryz.func108, Tryz.ntmps108
  go_wp2_with (go_at_call 69; refine (number_any b w hs).mono ?_; rintro e w' ⟨rfl, rfl⟩)
  go_end0
  exact ⟨rfl, hfin.out⟩

set_option maxHeartbeats 1600000 in
theorem takePriority_any (w : World) (g : Nat) (f : Fr) (p : Value) (b : ByteArray) (h : FB w g f p) (hs : b.size = 5) :
    Calls Tryz.prog 95 #[.pointer (some ⟨g, 0, none⟩), .string b] w fun e w' => e = .returned (.tuple #[]) ∧
      FB w' g (prioS f b) p ∧ Kp g w w' := by
  have hc1 := h.cell 5
  have hc2 := h.cell 6
  have hc3 := h.cell 7
  have hf1 := h.frozen 5
  have hf2 := h.frozen 6
  have hf3 := h.frozen 7
  simp only [fv, List.getElem?_toArray, List.getElem?_cons_succ, List.getElem?_cons_zero] at hc1 hc2 hc3
  have hse : (b.extract 0 4).size ≤ 4 := by rw [ByteArray.size_extract]; omega
  have hlt := numS_lt4 _ hse
  have hand := and31 (numS (b.extract 0 4) : Int)
  have hhi : (bits .and .i64 (numS (b.extract 0 4) : Int) 2147483648 != 0) = decide (2147483648 ≤ numS (b.extract 0 4)) := by
    rw [and_high _ hlt]
    split <;> simp [*]
  unfold prioS
  rw [byteAt_eq b 4 (by omega)]
  have hfin : Hid (FB (((w.setCell ⟨g, 5, none⟩ (.int .i64 ((numS (b.extract 0 4) : Int) % 2147483648))).setCell ⟨g, 6, none⟩ (.bool (decide (2147483648 ≤ numS (b.extract 0 4))))).setCell ⟨g, 7, none⟩ (.int .i64 ((b[4].toNat : Int) + 1))) g { f with dep := ((numS (b.extract 0 4) % 2147483648 : Nat) : Int), excl := decide (2147483648 ≤ numS (b.extract 0 4)), wt := (b[4].toNat : Int) + 1 } p ∧
      Kp g w (((w.setCell ⟨g, 5, none⟩ (.int .i64 ((numS (b.extract 0 4) : Int) % 2147483648))).setCell ⟨g, 6, none⟩ (.bool (decide (2147483648 ≤ numS (b.extract 0 4))))).setCell ⟨g, 7, none⟩ (.int .i64 ((b[4].toNat : Int) + 1)))) := by
    refine ⟨?_, ((Kp.setCell _ _ _ _).trans (Kp.setCell _ _ _ _)).trans (Kp.setCell _ _ _ _)⟩
    unfold FB
    rw [setCell_block _ _ _ _ _ _ _ (setCell_block _ _ _ _ _ _ _ (setCell_block _ _ _ _ _ _ _ h))]
    rfl
  clear h
  have hb : b[4].toNat < 256 := UInt8.toNat_lt _
  go_enter Tryz.func95, Tryz.ntmps95
  go_wp2_with (go_at_call 69; refine (number_any (b.extract 0 4) w hse).mono ?_; rintro e w' ⟨rfl, rfl⟩)
  go_end0
  exact ⟨rfl, hfin.out⟩

set_option maxHeartbeats 1600000 in
theorem takeHeaders_any (w : World) (g : Nat) (f : Fr) (p : Value) (b : ByteArray) (h : FB w g f p) (hs : 5 ≤ b.size) (hlim : b.size ≤ 281474976710656) :
    Calls Tryz.prog 92 #[.pointer (some ⟨g, 0, none⟩), .string b] w fun e w' => e = .returned (.tuple #[]) ∧ FB w' g (dataS (prioS f (b.extract 0 5)) (b.extract 5 b.size)) p ∧ Kp g w w' := by
  have hse : (b.extract 0 5).size = 5 := by rw [ByteArray.size_extract]; omega
  have hse2 : (b.extract 5 b.size).size ≤ 281474976710656 := by rw [ByteArray.size_extract]; omega
  go_enter Tryz.func92, Tryz.ntmps92
  go_wp2_with (first | (go_at_call 95; refine (takePriority_any w g f p (b.extract 0 5) h hse).mono ?_; rintro e w1 ⟨rfl, hF, hK⟩) | (go_at_call 104; refine (takeData_any w1 g _ p (b.extract 5 b.size) hF hse2).mono ?_; rintro e w2 ⟨rfl, hF2, hK2⟩))
  go_end0
  exact ⟨rfl, hF2, hK.trans hK2⟩

set_option maxHeartbeats 1600000 in
theorem takePromise_any (w : World) (g : Nat) (f : Fr) (p : Value) (b : ByteArray) (h : FB w g f p) (hs : 4 ≤ b.size) (hlim : b.size ≤ 281474976710656) :
    Calls Tryz.prog 102 #[.pointer (some ⟨g, 0, none⟩), .string b] w fun e w' => e = .returned (.tuple #[]) ∧ FB w' g (dataS (lastS f (b.extract 0 4)) (b.extract 4 b.size)) p ∧ Kp g w w' := by
  have hse : (b.extract 0 4).size ≤ 4 := by rw [ByteArray.size_extract]; omega
  have hse2 : (b.extract 4 b.size).size ≤ 281474976710656 := by rw [ByteArray.size_extract]; omega
  go_enter Tryz.func102, Tryz.ntmps102
  go_wp2_with (first | (go_at_call 108; refine (takeLast_any w g f p (b.extract 0 4) h hse).mono ?_; rintro e w1 ⟨rfl, hF, hK⟩) | (go_at_call 104; refine (takeData_any w1 g _ p (b.extract 4 b.size) hF hse2).mono ?_; rintro e w2 ⟨rfl, hF2, hK2⟩))
  go_end0
  exact ⟨rfl, hF2, hK.trans hK2⟩

set_option maxHeartbeats 1600000 in
theorem takeGoAway_any (w : World) (g : Nat) (f : Fr) (p : Value) (b : ByteArray) (h : FB w g f p) (hs : 8 ≤ b.size) (hlim : b.size ≤ 281474976710656) :
    Calls Tryz.prog 106 #[.pointer (some ⟨g, 0, none⟩), .string b] w fun e w' => e = .returned (.tuple #[]) ∧ FB w' g (dataS (codeS (lastS f (b.extract 0 4)) (b.extract 4 8)) (b.extract 8 b.size)) p ∧ Kp g w w' := by
  have hse : (b.extract 0 4).size ≤ 4 := by rw [ByteArray.size_extract]; omega
  have hse3 : (b.extract 4 8).size ≤ 4 := by rw [ByteArray.size_extract]; omega
  have hse2 : (b.extract 8 b.size).size ≤ 281474976710656 := by rw [ByteArray.size_extract]; omega
  go_enter Tryz.func106, Tryz.ntmps106
  go_wp2_with (first | (go_at_call 108; refine (takeLast_any w g f p (b.extract 0 4) h hse).mono ?_; rintro e w1 ⟨rfl, hF, hK⟩) | (go_at_call 97; refine (takeCode_any w1 g _ p (b.extract 4 8) hF hse3).mono ?_; rintro e w2 ⟨rfl, hF2, hK2⟩) | (go_at_call 104; refine (takeData_any w2 g _ p (b.extract 8 b.size) hF2 hse2).mono ?_; rintro e w3 ⟨rfl, hF3, hK3⟩))
  go_end0
  exact ⟨rfl, hF3, (hK.trans hK2).trans hK3⟩

end Go.Proofs.YtfmljlflnpmceaaGreatDoor.Fm
