/- Texts of this claim, one behind the other: JLv, JFm, JFrame. -/
import Derived.Test.YtgpfognglpfmoaaGreatDoorZ28
import Derived.Test.YtgpfognglpfmoaaGreatDoorZ20
import Derived.Test.YtgpfognglpfmoaaGreatDoorRows
import Derived.Deep.Slices
import Derived.ProofKit
import Derived.OpenShut
import Derived.ShutString
import Derived.ChangeOld
import Derived.LaidMore
import Derived.Stop.Joined
set_option linter.unusedSimpArgs false
set_option linter.unusedVariables false
section
/- A journal: Open of a disk that has a journal; lives. -/
namespace Go.Proofs.YtgpfognglpfmoaaGreatDoor
set_option maxRecDepth 8192
set_option linter.unusedSimpArgs false
set_option linter.unusedVariables false
open Go.RowKit Go.Maps

section
variable {w : World} {p s m area E : Nat} {B : List UInt8} {C : Ca} {rs : List (UInt8 × List UInt8)}
/-- What Open leaves. -/
def Opened (w : World) (p s m area E : Nat) (rs : List (UInt8 × List UInt8)) (B : List UInt8) (C : Ca) (e : Ending) (w' : World) : Prop :=
  ∃ J L v, e = .returned (.tuple #[pt0 J, .int .i64 0]) ∧ Jd w' J p s m L v area (E + 1) rs rs.length (begB B C (E + 1) area rs) (noC C.length) ∧ Hz (begB B C (E + 1) area rs) (noC C.length) area (E + 1) ∧
    w.heap.size ≤ J ∧ w.heap.size ≤ L ∧ (∀ k, v.ownBlock = some k → w.heap.size ≤ k) ∧ Kp (fun k => k = s ∨ k = m) w w'
theorem Open_hz (hd : Dk w p s m B C) (hz : Hz B C area E) (hE : E ≤ 4294967294) (h1 : 1 ≤ area) (h2 : area ≤ 256) (hs : 2 + 2 * area ≤ C.length) :
    Calls Tryz.prog 9 #[ptr p] w fun e w' => ∃ rs tail, rdS B C (2 + E % 2 * area) area = recsB (fstC E) rs ++ tail ∧ Vrs rs ∧ readErr (endR (fstC E) rs) tail ≠ 0 ∧ Opened w p s m area E rs B C e w' := by
  obtain ⟨hc, hh⟩ := hz.hds.cnts (by omega) h1 h2
  refine (Open_v hd hh hc hE h1 h2 hs).mono ?_
  rintro e w' ⟨J, L, v, rs, tail, he, hr, hv, ht, hj, h3, h4, h5, h6⟩
  have hl : (recsB (fstC (E + 1)) rs).length ≤ area * 256 := hj.hf
  exact ⟨rs, tail, hr, hv, ht, J, L, v, he, hj, hz.begin_ hd.hC hd.hB hs hl, h3, h4, h5, h6⟩
theorem Open_same (hd : Dk w p s m B C) (hz : Hz B C area E) (hA : rdS B C (2 + E % 2 * area) area = pad (area * 256) (recsB (fstC E) rs)) (hv : Vrs rs) (hE : E ≤ 4294967294) (h1 : 1 ≤ area) (h2 : area ≤ 256) (hs : 2 + 2 * area ≤ C.length) :
    Calls Tryz.prog 9 #[ptr p] w (Opened w p s m area E rs B C) := by
  refine (Open_hz hd hz hE h1 h2 hs).mono ?_
  rintro e w' ⟨rs', tail, hr, hv', ht, ho⟩
  rw [hA] at hr
  obtain ⟨rfl, _⟩ := recs_one rs rs' (fstC E) _ tail hv hv' hr (noughts_err _ _) ht
  exact ho
end

theorem len_abc (S : List UInt8) : (recsB S ([] ++ [((1 : UInt8), ([97, 98, 99] : List UInt8))])).length = 13 := by
  simp only [List.nil_append, recsB, List.length_append, recB_length, List.length_nil, List.length_cons]
  rw [numB_lit]
theorem Vr_abc : Vr 1 [97, 98, 99] := ⟨by decide, by decide⟩

theorem bl_stp {w0 w w' : World} {F F' : Nat → Prop} (h : Below w0.heap.size w0 w) (hF : ∀ k, F k → w0.heap.size ≤ k) (s : Stp F F' w w') : Below w0.heap.size w0 w' ∧ ∀ k, F' k → w0.heap.size ≤ k :=
  ⟨h.trans (s.1.below h.size hF), fun k hk => by
    rcases s.2 k hk with e | e
    · exact hF k e
    · have := h.size; omega⟩
theorem Rd.mark (w : World) (l : List UInt8) (fr : Nat × Nat) : Rd (w.alloc (.cells (cs8 l).toArray 5 fr)) (w.alloc (.cells (cs8 l).toArray 5 fr)).heap.size (some ⟨w.heap.size, 0, none⟩) l.length l.length l :=
  Rd.of_block (heap_alloc_new w _) (by simp)

set_option maxHeartbeats 1600000 in
theorem lives_any (w : World) : Calls Tryz.prog 15 #[] w fun e w' => e = .returned (.bool true) ∧ Below w.heap.size w w' := by
  have HN := Lib.hid (new_any w 6 (by omega) (by omega))
  rw [show ((6 : Nat) : Int) = 6 from rfl] at HN
  go_enter Tryz.func15, Tryz.ntmps15
  go_wp2_with fail
  refine HN.out.mono ?_
  rintro e w1 ⟨p, s, m, rfl, hd1, hi1, hb1⟩
  have hC6 : (noC 6).length = 6 := noC_len 6
  have HD1 := Lib.hid hd1
  have HF := Lib.hid (Format_j (area := 2) hd1 (by omega) (by omega) (by rw [hC6]; omega))
  have HH1 := Lib.hid hi1
  have HB1 := Lib.hid hb1
  rw [show ((2 : Nat) : Int) = 2 from rfl] at HF
  have HZ2 := Lib.hid (Hz.format (area := 2) hd1.hC hd1.hB (by rw [hC6]; omega))
  rw [hC6] at HF HZ2
  clear hd1 hi1 hb1 HN
  go_wp2_with fail
  refine HF.out.mono ?_
  rintro e w2 ⟨J, L, rfl, hj2, hJ2, hL2, hk2⟩
  generalize begB (zs (6 * 256)) ((noC 6).set 1 (some (List.replicate 256 0))) 0 2 [] = B2 at *
  have hw1 := HB1.out.size
  have hlo : ∀ k, k = s ∨ k = m → w.heap.size ≤ k := fun k hk => by obtain ⟨h1, h2, h3⟩ := HH1.out; omega
  have HB2 := Lib.hid (bl_dk (p := p) (s := s) (m := m) HB1.out hk2 hlo)
  have HLO := Lib.hid hlo
  have hcv := fun W : World => Lib.run_convert_bytes_const W 31 5 #[.int .u8 97, .int .u8 98, .int .u8 99] 3 3 Tryz.underlying31 Tryz.underlying5
  simp only [List.size_toArray, List.length_cons, List.length_nil, Nat.zero_add, Nat.reduceAdd] at hcv
  have hrd : Rd (w2.alloc (.cells #[.int .u8 97, .int .u8 98, .int .u8 99] 5 (3, 4))) (w2.alloc (.cells #[.int .u8 97, .int .u8 98, .int .u8 99] 5 (3, 4))).heap.size (some ⟨w2.heap.size, 0, none⟩) 3 3 [97, 98, 99] := Rd.mark w2 [97, 98, 99] (3, 4)
  have hb3 := bl_alloc (bl0 w2) (.cells #[.int .u8 97, .int .u8 98, .int .u8 99] 5 (3, 4))
  have HAP := Lib.hid (Append_j (hj2.old hb3) 1 [97, 98, 99] hrd Vr_abc (fun ad e h => by injection e with e; subst e; have := hj2.lt _ h; simp at this))
  have HB3 := Lib.hid hb3
  have HF2 := Lib.hid (show ∀ k, jF J p s m L (.slice none 0 0) k → w.heap.size ≤ k from fun k hk => by
    obtain ⟨h1, h2, h3⟩ := HH1.out
    rcases hk with hk | hk | hk
    · omega
    · omega
    · cases hk)
  have HA2 := Lib.hid hj2.hA
  clear hj2 hk2 hlo hrd hb3 HF HD1 HB1
  go_wp2_with fail
  refine HAP.out.mono ?_
  rintro e w4 ⟨v4, hst4, hor⟩
  obtain ⟨-, rfl, hj4⟩ : (recsB (fstC 0) ([] ++ [((1 : UInt8), ([97, 98, 99] : List UInt8))])).length ≤ 2 * 256 ∧ e = .returned (.int .i64 0) ∧ Jd w4 J p s m L v4 2 0 ([] ++ [(1, [97, 98, 99])]) 0 B2 (apC (noC 6) 0 2 [] ([] ++ [(1, [97, 98, 99])])) := by
    rcases hor with ⟨h, _⟩ | h
    · rw [len_abc] at h; omega
    · exact h
  have HST4 := Lib.hid hst4
  have HLE := Lib.hid (Left_j hj4)
  rw [len_abc, show ((2 * 256 - 13 : Nat) : Int) = 499 from rfl] at HLE
  clear hor hj4 hst4 HAP
  go_wp2_with fail
  refine HLE.out.mono ?_
  rintro e w5 ⟨v5, rfl, hj5, hst5⟩
  have hbc := bl_call HB2.out HB3.out
  obtain ⟨hb4, hf4⟩ := bl_stp hbc HF2.out (Stp.trans (Stp.trans (Stp.old (Below.refl _ _)) HST4.out) hst5)
  have HB5 := Lib.hid hb4
  have HF5 := Lib.hid hf4
  have HCR := Lib.hid (crash_any hj5.hd (k := []) (Bi.nil w5 w5.heap.size 0 none) (Nat.le_refl _) (by omega))
  rw [crash_none, settle_none, apC_length, hC6] at HCR
  clear hj5 hst5 hbc hb4 hf4 HST4 HB3 HB2 HLE
  go_wp2_with fail
  refine HCR.out.mono ?_
  rintro e w6 ⟨rfl, hd6, hk6⟩
  have HB6 := Lib.hid (bl_dk (p := p) (s := s) (m := m) HB5.out hk6 HLO.out)
  have HOP := Lib.hid (Open_same hd6 HZ2.out HA2.out (fun r hr => by cases hr) (by omega) (by omega) (by omega) (by rw [hC6]; omega))
  clear hd6 hk6 HCR HB5
  go_wp2_with fail
  refine HOP.out.mono ?_
  rintro e w7 ⟨J7, L7, v7, rfl, hj7, -, hJ7, hL7, hv7, hk7⟩
  have HB7 := Lib.hid (bl_dk (p := p) (s := s) (m := m) HB6.out hk7 HLO.out)
  have HRE := Lib.hid (Records_j hj7)
  have HJ7 := Lib.hid hj7
  clear hj7 hk7 hv7 HOP HB6
  go_wp2_with fail
  refine HRE.out.mono ?_
  rintro e w8 ⟨A8, n8, c8, l8, rfl, hl8, hr8, -, hb8⟩
  obtain rfl : n8 = 0 := by rw [← hr8.1, ← List.length_map (f := Rv.r), hl8]; rfl
  have HB8 := Lib.hid (bl_call HB7.out hb8)
  have HEP := Lib.hid (Epoch_j (HJ7.out.old hb8))
  rw [show ((0 + 1 : Nat) : Int) = 1 from rfl] at HEP
  clear hl8 hr8 hb8 HRE HB7 HJ7
  go_wp2_with (go_at_call 16; refine HEP.out.mono ?_; rintro e w' ⟨rfl, hw⟩; subst w')
  go_ret
  exact ⟨rfl, HB8.out⟩
end Go.Proofs.YtgpfognglpfmoaaGreatDoor
end
section
/- Calls that are gone through: how a slice of them reads; are they few. -/
namespace Go.Proofs.YtgpfognglpfmoaaGreatDoor
set_option linter.unusedSimpArgs false
set_option linter.unusedVariables false
open Go.RowKit Go.Maps

/-- A call. -/
structure Act_ where
  kind : Int
  k : UInt8
  d : List UInt8
  n : Int
  keep : List Bool
/-- A call, and where its parts lie. -/
structure Av where
  a : Act_
  A : Option Addr
  c : Nat
  K : Option Addr
  kc : Nat
/-- Its cells. -/
def Av.cells (x : Av) : List Value := [.int .i64 x.a.kind, .int .u8 (x.a.k.toNat : Int), .slice x.A x.a.d.length x.c, .int .i64 x.a.n, .slice x.K x.a.keep.length x.kc]
/-- Its parts read, below block top. -/
def Av.ok (w : World) (top : Nat) (x : Av) : Prop := Rd w top x.A x.a.d.length x.c x.a.d ∧ Bi w top x.K x.a.keep.length x.kc x.a.keep ∧ -9223372036854775808 ≤ x.a.kind ∧ x.a.kind ≤ 9223372036854775807 ∧ -9223372036854775808 ≤ x.a.n ∧ x.a.n ≤ 9223372036854775807
/-- The slice (A, n, c) reads, in w, as the calls l, and lies below block top. -/
def Ai (w : World) (top : Nat) (A : Option Addr) (n c : Nat) (l : List Av) : Prop :=
  l.length = n ∧ n ≤ c ∧ (∀ x ∈ l, x.ok w top) ∧ (0 < n → ∃ ad, A = some ad ∧ ad.block < top ∧ ∀ (j : Nat) x, l[j]? = some x → ∀ (i : Nat) v, x.cells[i]? = some v → w.cell? (ad.add (j * 5 + i)) = some v)
section
variable {w w' : World} {top n c : Nat} {A : Option Addr} {l : List Av}
theorem Av.ok.below {x : Av} (h : x.ok w top) (hb : Below top w w') : x.ok w' top := ⟨Rd.below h.1 hb, Bi.below h.2.1 hb, h.2.2⟩
theorem Ai.below (h : Ai w top A n c l) (hb : Below top w w') : Ai w' top A n c l :=
  ⟨h.1, h.2.1, fun x hx => (h.2.2.1 x hx).below hb, fun hn => by
    obtain ⟨ad, e, ht, hc⟩ := h.2.2.2 hn
    exact ⟨ad, e, ht, fun j x hx i v hv => (hb.cell (by rw [add_block]; exact ht)).trans (hc j x hx i v hv)⟩⟩
theorem Ai.at_ (h : Ai w top A n c l) {k : Nat} (hk : k < n) : ∃ ad x, A = some ad ∧ l[k]? = some x ∧ x ∈ l ∧ x.ok w top ∧ w.cell? (ad.add (k * 5)) = some (.int .i64 x.a.kind) ∧ w.cell? ⟨(ad.add (k * 5)).block, (ad.add (k * 5)).off + 1, none⟩ = some (.int .u8 (x.a.k.toNat : Int)) ∧
    w.cell? ⟨(ad.add (k * 5)).block, (ad.add (k * 5)).off + 2, none⟩ = some (.slice x.A x.a.d.length x.c) ∧ w.cell? ⟨(ad.add (k * 5)).block, (ad.add (k * 5)).off + 3, none⟩ = some (.int .i64 x.a.n) ∧ w.cell? ⟨(ad.add (k * 5)).block, (ad.add (k * 5)).off + 4, none⟩ = some (.slice x.K x.a.keep.length x.kc) := by
  obtain ⟨ad, e, ht, hc⟩ := h.2.2.2 (by omega)
  have hl : k < l.length := by have := h.1; omega
  exact ⟨ad, l[k], e, List.getElem?_eq_getElem hl, List.getElem_mem hl, h.2.2.1 _ (List.getElem_mem hl), hc k _ (List.getElem?_eq_getElem hl) 0 _ rfl,
    by have := hc k _ (List.getElem?_eq_getElem hl) 1 _ rfl; rw [← add_add] at this; exact this, by have := hc k _ (List.getElem?_eq_getElem hl) 2 _ rfl; rw [← add_add] at this; exact this,
    by have := hc k _ (List.getElem?_eq_getElem hl) 3 _ rfl; rw [← add_add] at this; exact this, by have := hc k _ (List.getElem?_eq_getElem hl) 4 _ rfl; rw [← add_add] at this; exact this⟩
end
/-- A small call. -/
def Act_.few (a : Act_) : Prop := a.d.length ≤ 700 ∧ a.keep.length ≤ 100
/-- Few calls. -/
def few (l : List Av) : Prop := l.length ≤ 40 ∧ ∀ x ∈ l, x.a.few
instance (a : Act_) : Decidable a.few := inferInstanceAs (Decidable (_ ∧ _))
instance (l : List Av) : Decidable (few l) := inferInstanceAs (Decidable (_ ∧ _))

theorem few_more {l : List Av} {i : Nat} {x : Av} (h : ∀ x ∈ l.take i, x.a.few) (hx : l[i]? = some x) (hk : x.a.few) : ∀ x ∈ l.take (i + 1), x.a.few := by
  intro y hy
  rw [List.take_add_one, hx] at hy
  rcases List.mem_append.1 hy with hy | hy
  · exact h y hy
  · simp at hy
    subst hy
    exact hk
set_option maxRecDepth 100000 in
set_option maxHeartbeats 800000 in
theorem small_any (w : World) {top n c : Nat} {A : Option Addr} {l : List Av} (h : Ai w top A n c l) : Calls Tryz.prog 18 #[.slice A n c] w fun e w' => e = .returned (.bool (decide (few l))) ∧ w' = w := by
  have HA := Lib.hid h
  have hlen := Lib.hid h.1
  clear h
  go_enter Tryz.func18, Tryz.ntmps18
  by_cases h41 : n ≤ 40
  · have h41i : ¬ ((n : Int) > 40) := by omega
    go_wp2
    go_loopw [3] (fun v wr => ∃ i : Nat, i ≤ n ∧ v = .int .i64 (i : Int) ∧ Hid (∀ x ∈ l.take i, x.a.few) ∧ wr = w) (fun v _ => n - (RowKit.intOf v).toNat)
    case atStart => exact ⟨0, by omega, rfl, Lib.hid (by simp), rfl⟩
    case round =>
      obtain ⟨i, hin, rfl, HF, rfl⟩ := hrel
      by_cases hlt : i < n
      · obtain ⟨ad, x, rfl, hx, hm, ho, _, _, c2, _, c4⟩ := HA.out.at_ hlt
        have HX := Lib.hid hx
        have HM := Lib.hid hm
        clear hx hm ho
        by_cases hk : x.a.d.length ≤ 700
        · by_cases hk2 : x.a.keep.length ≤ 100
          · go_wp2
            go_roundw
            case rel => exact ⟨i + 1, by omega, by go_num, Lib.hid (few_more HF.out HX.out ⟨hk, hk2⟩), trivial⟩
            case measure => simp [RowKit.intOf]; omega
          · go_wp2
            go_ret
            exact ⟨by rw [show decide (few l) = false from decide_eq_false (fun h => hk2 (h.2 x HM.out).2)]; rfl, rfl⟩
        · go_wp2
          go_ret
          exact ⟨by rw [show decide (few l) = false from decide_eq_false (fun h => hk (h.2 x HM.out).1)]; rfl, rfl⟩
      · obtain rfl : i = n := by omega
        go_wp2
        go_ret
        refine ⟨?_, rfl⟩
        have hl := hlen.out
        have ht : l.take i = l := List.take_of_length_le (by omega)
        have hf := HF.out
        rw [ht] at hf
        rw [show decide (few l) = true from decide_eq_true (show few l from ⟨by omega, hf⟩)]
        rfl
  · have h41i : (n : Int) > 40 := by omega
    go_wp2
    go_ret
    exact ⟨by rw [show decide (few l) = false from decide_eq_false (fun h => by have := h.1; have := hlen.out; omega)]; rfl, rfl⟩

theorem Bi.more {w : World} {top top' n c : Nat} {A : Option Addr} {k : List Bool} (h : Bi w top A n c k) (ht : top ≤ top') : Bi w top' A n c k :=
  ⟨h.1, h.2.1, fun hn => by
    obtain ⟨ad, e, hb, hc⟩ := h.2.2 hn
    exact ⟨ad, e, by omega, hc⟩⟩
theorem Ai.one {x : Av} {w : World} {top : Nat} (h : x.ok w top) (ht : top ≤ w.heap.size) : Ai (w.alloc (.cells x.cells.toArray 54)) (w.heap.size + 1) (some ⟨w.heap.size, 0, none⟩) 1 1 [x] := by
  have hb := bl_alloc (bl0 w) (.cells x.cells.toArray 54)
  refine ⟨rfl, Nat.le_refl _, fun y hy => ?_, fun _ => ⟨_, rfl, Nat.lt_succ_self _, fun j y hy i v hv => ?_⟩⟩
  · obtain rfl := List.mem_singleton.1 hy
    have h2 := h.below (hb.mono ht)
    exact ⟨Rd.more h2.1 (by omega), Bi.more h2.2.1 (by omega), h2.2.2⟩
  · obtain rfl : j = 0 := by
      rcases j with _ | j
      · rfl
      · simp at hy
    simp only [List.getElem?_cons_zero, Option.some.injEq] at hy
    subst hy
    have hc := (Bk.new w x.cells 54).cell (k := i) hv
    have ha : (⟨w.heap.size, 0, none⟩ : Addr).add (0 * 5 + i) = ⟨w.heap.size, i, none⟩ := by unfold Addr.add; split <;> simp_all
    rw [ha]
    exact hc
theorem not_fewer {x : Av} (h : ¬ x.a.few) : decide (few [x]) = false := decide_eq_false (fun e => h (e.2 x (by simp)))
theorem is_few {x : Av} (h : x.a.few) : decide (few [x]) = true := decide_eq_true ⟨by simp, fun y hy => by obtain rfl := List.mem_singleton.1 hy; exact h⟩

set_option maxRecDepth 100000 in
set_option maxHeartbeats 1600000 in
/-- A journal that nobody made. -/
theorem JournalNil_walk (x : Av) (w : World) (h : x.ok w w.heap.size) : Calls Tryz.prog 5 #[.agg x.cells.toArray] w fun e w' => e = .returned (.bool true) ∧ Below w.heap.size w w' := by
  have hb1 := bl_alloc (bl0 w) (.cells x.cells.toArray 54)
  have HB1 := Lib.hid hb1
  have HX := Lib.hid (h.below hb1)
  have HT := Lib.hid (Bk.new w x.cells 54)
  have HLV := Lib.hid (lives_any (w.alloc (.cells x.cells.toArray 54)))
  clear h hb1
  unfold Av.cells at HB1 HX HT HLV ⊢
  go_enter Tryz.func5, Tryz.ntmps5
  go_wp2_with fail
  refine HLV.out.mono ?_
  rintro e w2 ⟨rfl, hb2⟩
  have HB2 := Lib.hid (bl_call HB1.out hb2)
  have HT2 := HT.out.keep hb2
  have hx2 := HX.out.below (hb2.mono (by simp))
  have d0 := HT2.cell (k := 0) rfl
  have d1 := HT2.cell (k := 1) rfl
  have d2 := HT2.cell (k := 2) rfl
  have d3 := HT2.cell (k := 3) rfl
  have d4 := HT2.cell (k := 4) rfl
  have HTX := Lib.hid HT2
  have HX2 := Lib.hid hx2
  clear hb2 HT2 hx2 HT HX HLV HB1
  go_wp2_with fail
  have HS := Lib.hid (small_any (w2.alloc (.cells x.cells.toArray 54)) (Ai.one HX2.out (by have := HB2.out.size; omega)))
  by_cases hf : x.a.few
  · rw [is_few hf] at HS
    refine HS.out.mono ?_
    rintro e w3 ⟨rfl, hw3⟩
    have HB3 := Lib.hid (bl_alloc HB2.out (.cells x.cells.toArray 54))
    have HT3 := Lib.hid (HTX.out.old (.cells x.cells.toArray 54))
    rw [← hw3] at HB3 HT3
    clear hw3 HS d0 d1 d2 d3 d4 HTX HX2 HB2
    have d1 := HT3.out.cell (k := 1) rfl
    have d2 := HT3.out.cell (k := 2) rfl
    go_wp2_with fail
    refine (append_nil w3 _ ⟨_, _, rfl⟩).mono ?_
    rintro e w4 ⟨rfl, hb4⟩
    have HB4 := Lib.hid (bl_call HB3.out hb4)
    have HT4 := Lib.hid (HT3.out.keep hb4)
    clear hb4 HB3 HT3 d1 d2
    have d1 := HT4.out.cell (k := 1) rfl
    have d2 := HT4.out.cell (k := 2) rfl
    go_wp2_with (first | (go_at_call 12; refine (Sync_nil _).mono ?_; rintro e w' ⟨rfl, hw⟩; subst w') | (go_at_call 13; refine (Switch_nil _ _).mono ?_; rintro e w' ⟨rfl, hw⟩; subst w') | (go_at_call 14; refine (Records_nil _).mono ?_; rintro e w' ⟨rfl, hw⟩; subst w') | (go_at_call 16; refine (Epoch_nil _).mono ?_; rintro e w' ⟨rfl, hw⟩; subst w') | (go_at_call 33; refine (Left_nil _).mono ?_; rintro e w' ⟨rfl, hw⟩; subst w') | (go_at_call 11; refine (Synced_nil _).mono ?_; rintro e w' ⟨rfl, hw⟩; subst w'))
    go_ret
    exact ⟨rfl, bl_alloc HB4.out _⟩
  · rw [not_fewer hf] at HS
    refine HS.out.mono ?_
    rintro e w3 ⟨rfl, hw3⟩
    have HB3 := Lib.hid (bl_alloc HB2.out (.cells x.cells.toArray 54))
    rw [← hw3] at HB3
    clear hw3
    go_wp2
    go_ret
    exact ⟨rfl, HB3.out⟩
end Go.Proofs.YtgpfognglpfmoaaGreatDoor
end
section
/- What the last steps of all claims of this seat share. -/
namespace Go.Proofs.YtgpfognglpfmoaaGreatDoor
set_option linter.unusedSimpArgs false
set_option linter.unusedVariables false
set_option maxRecDepth 16384
open Go.ChangeShapes Go.WideShapes Go.ChangeAt Go.RowKit

theorem own : ownKnob Tryz.prog.godebug = none := by kernel_rfl
theorem laidOut : laidOutB Tryz.prog = true := by kernel_rfl

theorem cells3i : Tryz.prog.cellsOf 3 = 1 := by kernel_rfl
theorem cells4 : Tryz.prog.cellsOf 4 = 1 := by kernel_rfl
theorem cells52 : Tryz.prog.cellsOf 52 = 1 := by kernel_rfl
theorem cells54 : Tryz.prog.cellsOf 54 = 5 := by kernel_rfl

theorem rd_of_nil (W : World) : ∃ l, Rd W W.heap.size none 0 0 l := ⟨[], Rd.nil _ _ _ _⟩

/-- A slice of bytes that came in reads as a list of bytes. -/
theorem rd_of {W : World} {x : Addr} {len cap : Nat} {zs : List Int} (hl : len ≤ cap) (hz : zs.length = cap)
    (hcell : ∀ i, i < zs.length → W.cell? (x.add i) = some (.int .u8 (zs.getD i 0))) (hwz : ∀ n ∈ zs, (Lit.int .u8 n).wf = true) :
    ∃ l, Rd W W.heap.size (some x) len cap l := by
  refine ⟨(zs.take len).map fun z => UInt8.ofNat z.toNat, by rw [List.length_map, List.length_take]; omega, hl, fun hn => ⟨x, rfl, ?_, fun j u hu => ?_⟩⟩
  · have h := hcell 0 (by omega)
    have := block_lt_of_cell h
    rwa [add_block] at this
  · rw [List.getElem?_map, List.getElem?_take] at hu
    split at hu
    · rename_i hj
      have hjl : j < zs.length := by omega
      rw [List.getElem?_eq_getElem hjl] at hu
      simp only [Option.map_some, Option.some.injEq] at hu
      subst hu
      rw [hcell j hjl]
      have hb := bounds_u8 (hwz zs[j] (List.getElem_mem _))
      have hg : zs.getD j 0 = zs[j] := by simp [List.getD, List.getElem?_eq_getElem hjl]
      rw [hg, B8]
      have : (UInt8.ofNat (zs[j]).toNat).toNat = (zs[j]).toNat := by simp; omega
      rw [this, Int.toNat_of_nonneg hb.1]
    · simp at hu


theorem cells5' : Tryz.prog.cellsOf 5 = 1 := by kernel_rfl
theorem cells31 : Tryz.prog.cellsOf 31 = 1 := by kernel_rfl
theorem cells33 : Tryz.prog.cellsOf 33 = 2 := by kernel_rfl
section
variable {H : Type} {enc : TypeId × Value → H} {W : World} {base : Nat} {held : Bool}
/-- A record's Data that came in. -/
theorem data_of {fuel : Nat} {cs : List Value} {x : DataW H × List MemPlace} (h : DataW.trod enc Tryz.prog W base (fun _ => true) held fuel 31 cs = some x) :
    ∃ A c d, cs = [.slice A d.length c] ∧ Rd W W.heap.size A d.length c d := by
  rcases open_ints Tryz.underlying31 Tryz.underlying5 (by kernel_rfl) h with ⟨hcs, _⟩ | ⟨x, l, c, zs, hcs, _, hl, hm, hz, _, hcell, hwz⟩
  · exact ⟨none, 0, [], hcs, Rd.nil _ _ _ _⟩
  · obtain ⟨d, hd⟩ := rd_of hl (by simpa using hz) hcell hwz
    have := hd.len
    subst this
    exact ⟨_, _, d, hcs, hd⟩
/-- A record that came in. -/
theorem rec_of {fuel : Nat} {cs : List Value} {x : DataW H × List MemPlace} (h : DataW.trod enc Tryz.prog W base (fun _ => true) held fuel 33 cs = some x) : ∃ v : Rv, cs = v.cells ∧ v.ok W W.heap.size := by
  obtain ⟨xs, n, rfl, _, hl, hxs, hf⟩ := DataW.trod_struct Tryz.underlying33 h
  rw [cells33] at hl
  match cs, hl with
  | [c0, c1], _ =>
    have h0 : DataW.trod enc Tryz.prog W base (fun _ => true) held n 5 (([c0, c1].drop 0).take (Tryz.prog.cellsOf 5)) = xs[0]? := hf 0 _ rfl
    have h1 : DataW.trod enc Tryz.prog W base (fun _ => true) held n 31 (([c0, c1].drop 1).take (Tryz.prog.cellsOf 31)) = xs[1]? := hf 1 _ rfl
    rw [cells5'] at h0
    rw [cells31] at h1
    simp only [List.drop_zero, List.drop_succ_cons, List.take_succ_cons, List.take_zero] at h0 h1
    have s : ∀ i, i < 2 → ∃ y, xs[i]? = some y := fun i hi => ⟨_, List.getElem?_eq_getElem (by rw [hxs]; exact hi)⟩
    obtain ⟨y0, e0⟩ := s 0 (by omega)
    obtain ⟨y1, e1⟩ := s 1 (by omega)
    rw [e0] at h0
    rw [e1] at h1
    obtain ⟨z0, g0, _, w0⟩ := DataW.trod_int Tryz.underlying5 h0
    obtain ⟨A, c, d, g1, hd⟩ := data_of h1
    have hb := bounds_u8 w0
    refine ⟨⟨UInt8.ofNat z0.toNat, d, A, c⟩, ?_, hd⟩
    have t2 : ((UInt8.ofNat z0.toNat).toNat : Int) = z0 := by
      have : (UInt8.ofNat z0.toNat).toNat = z0.toNat := by simp; omega
      rw [this, Int.toNat_of_nonneg hb.1]
    simp only [List.cons.injEq, and_true] at g0 g1
    simp only [Rv.cells, t2, g0, g1]
end
/-- The bool that a cell holds. -/
def boolIn : Value → Bool | .bool b => b | _ => false

section
variable {H : Type} {enc : TypeId × Value → H} {W : World} {base : Nat} {spare : Nat → Bool} {held : Bool}
/-- A slice of bools that came in. -/
theorem bools_of {fuel : Nat} {cs : List Value} {x : DataW H × List MemPlace} (h : DataW.trod enc Tryz.prog W base spare held fuel 52 cs = some x) :
    ∃ A c keep, cs = [.slice A keep.length c] ∧ Bi W W.heap.size A keep.length c keep := by
  rcases Go.Deep.open_slice1 Tryz.underlying52 cells4 h with ⟨rfl, _⟩ | ⟨a, len, cap, m, n, V, D, Pl, rfl, hb, hl, hm, hmm, _, hx⟩
  · exact ⟨none, 0, [], rfl, Bi.nil _ _ _ _⟩
  · have hle : len ≤ m := by rw [hmm]; split <;> omega
    have hlen : ((List.range len).map fun i => boolIn (V i)).length = len := by simp
    have e : ∀ i, i < len → V i = .bool (boolIn (V i)) := fun i hi => by
      obtain ⟨b, hb, _⟩ := DataW.trod_bool Tryz.underlying4 (hx i (by omega)).2
      have hv : V i = .bool b := by simpa using hb
      rw [hv]
      rfl
    refine ⟨some a, cap, (List.range len).map fun i => boolIn (V i), by rw [hlen], by rw [hlen], by rw [hlen]; exact hl, fun hn => ⟨a, rfl, ?_, fun j u hu => ?_⟩⟩
    · have hn : 0 < len := by omega
      have := (hx 0 (by omega)).1
      have := block_lt_of_cell this
      rwa [add_block] at this
    · simp only [List.getElem?_map, Option.map_eq_some_iff] at hu
      obtain ⟨i, hi, rfl⟩ := hu
      have hj := (List.getElem?_eq_some_iff.1 hi).1
      simp only [List.length_range] at hj
      have : i = j := by simpa using (List.getElem?_eq_some_iff.1 hi).2.symm
      subst this
      rw [(hx i (by omega)).1, ← e i hj]
/-- A call that came in. -/
theorem act_of {fuel : Nat} {cs : List Value} {x : DataW H × List MemPlace} (h : DataW.trod enc Tryz.prog W base (fun _ => true) held fuel 54 cs = some x) : ∃ v : Av, cs = v.cells ∧ v.ok W W.heap.size := by
  obtain ⟨xs, n, rfl, _, hl, hxs, hf⟩ := DataW.trod_struct Tryz.underlying54 h
  rw [cells54] at hl
  match cs, hl with
  | [c0, c1, c2, c3, c4], _ =>
    have h0 : DataW.trod enc Tryz.prog W base (fun _ => true) held n 3 (([c0, c1, c2, c3, c4].drop 0).take (Tryz.prog.cellsOf 3)) = xs[0]? := hf 0 _ rfl
    have h1 : DataW.trod enc Tryz.prog W base (fun _ => true) held n 33 (([c0, c1, c2, c3, c4].drop 1).take (Tryz.prog.cellsOf 33)) = xs[1]? := hf 1 _ rfl
    have h3 : DataW.trod enc Tryz.prog W base (fun _ => true) held n 3 (([c0, c1, c2, c3, c4].drop 3).take (Tryz.prog.cellsOf 3)) = xs[2]? := hf 2 _ rfl
    have h4 : DataW.trod enc Tryz.prog W base (fun _ => true) held n 52 (([c0, c1, c2, c3, c4].drop 4).take (Tryz.prog.cellsOf 52)) = xs[3]? := hf 3 _ rfl
    rw [cells3i] at h0 h3
    rw [cells33] at h1
    rw [cells52] at h4
    simp only [List.drop_zero, List.drop_succ_cons, List.take_succ_cons, List.take_zero] at h0 h1 h3 h4
    have s : ∀ i, i < 4 → ∃ y, xs[i]? = some y := fun i hi => ⟨_, List.getElem?_eq_getElem (by rw [hxs]; exact hi)⟩
    obtain ⟨y0, e0⟩ := s 0 (by omega)
    obtain ⟨y1, e1⟩ := s 1 (by omega)
    obtain ⟨y2, e2⟩ := s 2 (by omega)
    obtain ⟨y3, e3⟩ := s 3 (by omega)
    rw [e0] at h0
    rw [e1] at h1
    rw [e2] at h3
    rw [e3] at h4
    obtain ⟨z0, g0, _, w0⟩ := DataW.trod_int Tryz.underlying3 h0
    obtain ⟨z3, g3, _, w3⟩ := DataW.trod_int Tryz.underlying3 h3
    obtain ⟨v, g1, hv⟩ := rec_of h1
    obtain ⟨K, kc, keep, g4, hk⟩ := bools_of h4
    have b0 := bounds_i64 w0
    have b3 := bounds_i64 w3
    refine ⟨⟨⟨z0, v.k, v.d, z3, keep⟩, v.A, v.c, K, kc⟩, ?_, hv, hk, b0.1, b0.2, b3.1, b3.2⟩
    simp only [Rv.cells, List.cons.injEq, and_true] at g0 g1 g3 g4
    simp only [Av.cells, g0, g1.1, g1.2, g3, g4]
theorem open_act {r : Reach} {b0 : Nat} {v : Value} {d : DataW H} {p : List MemPlace} (hv : Value.okWide Tryz.prog W r b0 54 v) (h : DataW.Trod enc Tryz.prog W base (fun _ => true) held 54 v d p) :
    ∃ x : Av, v = .agg x.cells.toArray ∧ x.ok W W.heap.size := by
  unfold Value.okWide at hv
  rw [Tryz.underlying54] at hv
  obtain ⟨cs, rfl, hsz, _⟩ := hv
  obtain ⟨fuel, hf⟩ := h
  obtain ⟨x, hx, ho⟩ := act_of hf
  refine ⟨x, ?_, ho⟩
  rw [← hx]
  rfl
/-- Calls that came in. -/
theorem open_acts {A : Option Addr} {n c : Nat} {d : DataW H} {p : List MemPlace} (h : DataW.Trod enc Tryz.prog W base (fun _ => true) held 43 (.slice A n c) d p) : ∃ l, Ai W W.heap.size A n c l := by
  obtain ⟨fuel, hf⟩ := h
  rcases Go.Deep.open_slice Tryz.underlying43 hf with ⟨hcs, _⟩ | ⟨a, len, cap, m, k, D, Pl, hcs, hb, hl, hm, hmm, _, hx⟩
  · simp [Value.cells] at hcs
    obtain ⟨rfl, rfl, rfl⟩ := hcs
    exact ⟨[], rfl, Nat.le_refl _, by simp, fun h => absurd h (by omega)⟩
  · simp [Value.cells] at hcs
    obtain ⟨rfl, rfl, rfl⟩ := hcs
    rw [cells54] at hx
    have hle : n ≤ m := by rw [hmm]; split <;> omega
    have hex : ∀ i, ∃ v : Av, i < n → (∀ j u, v.cells[j]? = some u → W.cell? (a.add (i * 5 + j)) = some u) ∧ v.ok W W.heap.size := fun i => by
      by_cases hi : i < n
      · obtain ⟨cs', h1, h2⟩ := hx i (by omega)
        obtain ⟨v, hv, ho⟩ := act_of h2
        refine ⟨v, fun _ => ⟨fun j u hu => ?_, ho⟩⟩
        have hj : j < 5 := (List.getElem?_eq_some_iff.1 hu).1
        have := (World.cells?_some h1).2.2 j hj
        rw [hv, hu, add_add] at this
        exact this
      · exact ⟨⟨⟨0, 0, [], 0, []⟩, none, 0, none, 0⟩, fun h => absurd h hi⟩
    have hch := Classical.axiomOfChoice hex
    obtain ⟨F, hF⟩ := hch
    refine ⟨(List.range n).map F, by simp, hl, fun x hx => ?_, fun hn => ⟨a, rfl, ?_, fun j x hx i v hv => ?_⟩⟩
    · obtain ⟨i, hi, rfl⟩ := List.mem_map.1 hx
      exact (hF i (by simpa using hi)).2
    · have := (hF 0 hn).1 0 _ rfl
      have := block_lt_of_cell this
      rwa [add_block] at this
    · simp only [List.getElem?_map, Option.map_eq_some_iff] at hx
      obtain ⟨i', hi, rfl⟩ := hx
      have hj := (List.getElem?_eq_some_iff.1 hi).1
      simp only [List.length_range] at hj
      have : i' = j := by simpa using (List.getElem?_eq_some_iff.1 hi).2.symm
      subst this
      exact (hF i' hj).1 i v hv
end

theorem door_met (os : Os) (args : Array Value) : laidMetH Tryz.prog [("bytes.ErrTooLarge", Rows.laid_bytes_ErrTooLarge)] ((World.doorLaid Tryz.prog 400 os).forCall (fun _ _ => 0) ⟨#[], args, []⟩).memory :=
  laidMetH_of_parts3 (fuel := 8) (laidMet_of_run' 8 (by kernel_rfl) (by kernel_rfl)) (by kernel_rfl) (by kernel_rfl)
end Go.Proofs.YtgpfognglpfmoaaGreatDoor
end
