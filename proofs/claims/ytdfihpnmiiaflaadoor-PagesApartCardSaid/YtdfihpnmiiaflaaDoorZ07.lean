/- Texts of this claim, one behind the other: Pf, Octa, Octb, Num. -/
import Derived.Test.YtdfihpnmiiaflaaDoorZ06
import Derived.Test.YtdfihpnmiiaflaaDoorProg
import Derived.Test.YtdfihpnmiiaflaaDoorZ01
import Derived.Test.YtdfihpnmiiaflaaDoorZ00
import Derived.WalkKit
import Derived.WalkSpells
import Derived.WalkLawsBesides
import Derived.Lib.Hide
import Derived.Deep.DeepFit
set_option linter.unusedSimpArgs false
set_option linter.unusedVariables false
section
/- Lists of slices, cut out of one; where a slice that came in lies. -/
namespace Go.Proofs.YtdfihpnmiiaflaaDoor
open Go.RowKit

/-- A slice that reads, and lies below a block. -/
structure Sl (w : World) (top : Nat) (A : Option Addr) (n c : Nat) (l : List UInt8) : Prop where
  rd : Rd w top A n c l
  low : ∀ a, A = some a → a.block < top
theorem Sl.below {w w' : World} {top n c : Nat} {A : Option Addr} {l : List UInt8} (h : Sl w top A n c l) (hb : Below top w w') : Sl w' top A n c l := ⟨h.rd.below hb, h.low⟩
theorem Sl.more {w : World} {top top' n c : Nat} {A : Option Addr} {l : List UInt8} (h : Sl w top A n c l) (ht : top ≤ top') : Sl w top' A n c l := ⟨h.rd.more ht, fun a ha => Nat.lt_of_lt_of_le (h.low a ha) ht⟩
/-- Where a slice's rest begins. -/
def restAt (A : Option Addr) (c k : Nat) : Option Addr := if c = k then A else A.map (·.add k)
theorem Sl.drop {w : World} {top n c k : Nat} {A : Option Addr} {l : List UInt8} (h : Sl w top A n c l) (hk : k ≤ n) : Sl w top (restAt A c k) (n - k) (c - k) (l.drop k) :=
  ⟨h.rd.drop_ hk, fun a ha => by
    unfold restAt at ha
    split at ha
    · exact h.low a ha
    · obtain ⟨b, hb, rfl⟩ := Option.map_eq_some_iff.1 ha
      rw [add_block]
      exact h.low b hb⟩
theorem Sl.take {w : World} {top n c k : Nat} {A : Option Addr} {l : List UInt8} (h : Sl w top A n c l) (hk : k ≤ n) : Sl w top A k c (l.take k) := ⟨h.rd.take_ hk, h.low⟩

theorem Rl.of {w : World} (L : List (List UInt8)) (cs : List Value) (hn : cs.length = L.length) (h : ∀ (j : Nat) x, L[j]? = some x → ∃ A n c, cs[j]? = some (.slice A n c) ∧ Sl w w.heap.size A n c x) (T : TypeId) :
    Rl (w.alloc (.cells cs.toArray T)) (w.alloc (.cells cs.toArray T)).heap.size (some ⟨w.heap.size, 0, none⟩) cs.length L := by
  have hb : Below w.heap.size w (w.alloc (.cells cs.toArray T)) := (Below.refl _ _).alloc (Nat.le_refl _) _
  have hs : (w.alloc (.cells cs.toArray T)).heap.size = w.heap.size + 1 := by simp
  refine ⟨hn.symm, fun j x hx => ?_⟩
  obtain ⟨A, n, c, hc, hr⟩ := h j x hx
  have h2 := (hr.below hb).more (show w.heap.size ≤ (w.alloc (.cells cs.toArray T)).heap.size by omega)
  refine ⟨_, A, n, c, rfl, by rw [hs]; exact Nat.lt_succ_self _, ?_, h2.rd, h2.low⟩
  have := (Bk.new w cs T).cell hc
  rwa [add_zero_mid]
theorem Rl.two {w : World} {A A2 : Option Addr} {n c n2 c2 : Nat} {l l2 : List UInt8} (h1 : Sl w w.heap.size A n c l) (h2 : Sl w w.heap.size A2 n2 c2 l2) (T : TypeId) :
    Rl (w.alloc (.cells #[.slice A n c, .slice A2 n2 c2] T)) (w.alloc (.cells #[.slice A n c, .slice A2 n2 c2] T)).heap.size (some ⟨w.heap.size, 0, none⟩) 2 [l, l2] :=
  Rl.of [l, l2] [.slice A n c, .slice A2 n2 c2] rfl (fun j x hx => by
    rcases j with _ | _ | j
    · simp only [List.getElem?_cons_zero, Option.some.injEq] at hx; subst hx; exact ⟨_, _, _, rfl, h1⟩
    · simp only [List.getElem?_cons_succ, List.getElem?_cons_zero, Option.some.injEq] at hx; subst hx; exact ⟨_, _, _, rfl, h2⟩
    · simp at hx) T
theorem Rl.three {w : World} {A A2 A3 : Option Addr} {n c n2 c2 n3 c3 : Nat} {l l2 l3 : List UInt8} (h1 : Sl w w.heap.size A n c l) (h2 : Sl w w.heap.size A2 n2 c2 l2) (h3 : Sl w w.heap.size A3 n3 c3 l3) (T : TypeId) :
    Rl (w.alloc (.cells #[.slice A n c, .slice A2 n2 c2, .slice A3 n3 c3] T)) (w.alloc (.cells #[.slice A n c, .slice A2 n2 c2, .slice A3 n3 c3] T)).heap.size (some ⟨w.heap.size, 0, none⟩) 3 [l, l2, l3] :=
  Rl.of [l, l2, l3] [.slice A n c, .slice A2 n2 c2, .slice A3 n3 c3] rfl (fun j x hx => by
    rcases j with _ | _ | _ | j
    · simp only [List.getElem?_cons_zero, Option.some.injEq] at hx; subst hx; exact ⟨_, _, _, rfl, h1⟩
    · simp only [List.getElem?_cons_succ, List.getElem?_cons_zero, Option.some.injEq] at hx; subst hx; exact ⟨_, _, _, rfl, h2⟩
    · simp only [List.getElem?_cons_succ, List.getElem?_cons_zero, Option.some.injEq] at hx; subst hx; exact ⟨_, _, _, rfl, h3⟩
    · simp at hx) T

theorem exec_slice31_lo {o : Oper} {a : Act} {w : World} (x y : Operand) (ho : o.op = .slice 30 x (some y) none none) {A : Option Addr} {n c k : Nat} {i : Int} (hx : a.eval x = .slice A n c) (hy : a.eval y = .int .i64 i) (hk : k ≤ n) (hi : i = k) :
    (execOp a.eval o).run Tryd.prog w = .ok (.value (.slice (restAt A c k) (n - k) (c - k))) w := by
  subst hi
  have h1 : (k : Int) ≤ (n : Int) := by omega
  unfold execOp
  simp only [ho, hx, hy, Option.map_some, Option.map_none]
  simp [Instr.sliceAt, Instr.slice, run_underlying Tryd.underlying30, Instr.sliceBounds, run_sliceBound, h1, Tryd.sizeOf5, restAt, go_sem]
theorem exec_slice31_mid {o : Oper} {a : Act} {w : World} (x y z : Operand) (ho : o.op = .slice 30 x (some y) (some z) none) {A : Option Addr} {n c k m : Nat} {i j : Int} (hx : a.eval x = .slice A n c) (hy : a.eval y = .int .i64 i) (hz : a.eval z = .int .i64 j) (hk : k ≤ m) (hc : m ≤ c) (hi : i = k) (hj : j = m) :
    (execOp a.eval o).run Tryd.prog w = .ok (.value (.slice (restAt A c k) (m - k) (c - k))) w := by
  subst hi
  subst hj
  have h2 : (m : Int) ≤ (c : Int) := by omega
  unfold execOp
  simp only [ho, hx, hy, hz, Option.map_some, Option.map_none]
  simp [Instr.sliceAt, Instr.slice, run_underlying Tryd.underlying30, Instr.sliceBounds, run_sliceBound, h2, Tryd.sizeOf5, restAt, go_sem]
  intro h; omega

set_option maxRecDepth 8192 in
/-- A slice that came in lies among the blocks. -/
theorem slice_low {W : World} {base : Nat} {A : Option Addr} {n c : Nat} (h : Value.okWide Tryd.prog W .any base 30 (.slice A n c)) : ∀ a, A = some a → a.block < W.heap.size := by
  rintro a rfl
  simp only [Value.okWide, Tryd.underlying30, Cell.okWide, Cell.ok] at h
  obtain ⟨_, _, _, _, row, cells, hs, _⟩ := h
  unfold World.shape? at hs
  by_cases hb : a.block < W.heap.size
  · exact hb
  · rw [Array.getElem?_eq_none (by omega)] at hs
    simp at hs
end Go.Proofs.YtdfihpnmiiaflaaDoor
end
section
/- The small functions of octet: sizes, leads. -/
namespace Go.Proofs.YtdfihpnmiiaflaaDoor
open Go.RowKit

theorem bitLen_le64 (n : Nat) (h : n < 18446744073709551616) : Lib.bitLen n ≤ 64 := Lib.bitLen_le n 64 (by omega) (by omega)

def numSize (n : Nat) : Nat := min (max ((Lib.bitLen n + 6) / 7) 1) 9

theorem Oret_int {k : IntKind} {a b : Int} (h : a = b) : Ending.returned (.int k a) = .returned (.int k b) := by rw [h]

set_option maxHeartbeats 400000 in
theorem wordSize_any (n : Int) (w : World) :
    Calls Tryd.prog 59 #[.int .i64 n] w fun e w' => e = .returned (.int .i64 (min (max n 1) 8)) ∧ w = w' := by
  go_enter Tryd.func59, Tryd.ntmps59
  go_wp2
  go_ret
  exact ⟨rfl, rfl⟩

def leadOf (k : Nat) : Nat := 255 - 255 / 2 ^ min (k - 1) 8

theorem lead_bits : ∀ m : Fin 9, bits BinOp.xor IntKind.u8 IntKind.u8.max (255 / 2 ^ m.val) = ((255 - 255 / 2 ^ m.val : Nat) : Int) := by decide +kernel

end Go.Proofs.YtdfihpnmiiaflaaDoor
end
section
/- octet: room, putNumber. -/
namespace Go.Proofs.YtdfihpnmiiaflaaDoor
open Go.RowKit

/-- What every call that answers new bytes leaves. -/
def OGives (w : World) (l : List UInt8) (e : Ending) (w' : World) : Prop := ∃ v, e = .returned v ∧ Ow w' w.heap.size v l ∧ Below w.heap.size w w'

set_option maxHeartbeats 400000 in
theorem room_any {A : Option Addr} {k c : Nat} {l : List UInt8} (n : Int) (w : World) (hr : Rd w w.heap.size A k c l) (hk : k ≤ 4294967296) (h0 : 0 ≤ n) (h1 : n ≤ 4294967296) :
    Calls Tryd.prog 60 #[.slice A k c, .int .i64 n] w (OGives w l) := by
  go_enter Tryd.func60, Tryd.ntmps60
  go_wp2_with (first | (at_make; refine wpList_make rfl _ _ rfl _ rfl rfl (by omega) (by omega) (Nat.le_refl _) ?_; intro v1 w1 ho1 hb1 hz1) | (at_builtin; refine wpList_app rfl _ _ rfl rfl ho1 rfl (hr.below hb1) (by simp; omega) (by omega) ?_; intro v2 w2 ho2 hg2 _))
  go_ret
  refine ⟨_, rfl, ?_, ?_⟩
  · simpa using ho2
  · exact hb1.trans (((Below.refl _ _).grown hg2 (Nat.le_of_lt hz1) (fun k hk => (World.ownsRow.lt ho1 k hk).1)))

/-- The bytes of n from place r - 1 down to 0, the first one with f's bits. -/
def putB (n : Nat) : Nat → Nat → List UInt8
  | _, 0 => []
  | f, r + 1 => UInt8.ofNat (f ||| n / 2 ^ (8 * r) % 256) :: putB n 0 r
/-- A number's bytes. -/
def numB (n : Nat) : List UInt8 := putB n (leadOf (numSize n)) (numSize n)

theorem putB_length (n : Nat) : ∀ r f, (putB n f r).length = r
  | 0, _ => rfl
  | r + 1, f => by simp [putB, putB_length n r]
theorem numSize_bd (n : Nat) : 1 ≤ numSize n ∧ numSize n ≤ 9 := by unfold numSize; omega
theorem leadOf_bd (k : Nat) : leadOf k ≤ 255 := Nat.sub_le _ _

theorem or8 (f : Nat) (x : Int) (hf : f ≤ 255) (h0 : 0 ≤ x) (h1 : x < 256) :
    0 ≤ bits .or .u8 (f : Int) x ∧ bits .or .u8 (f : Int) x < 256 ∧ (bits .or .u8 (f : Int) x).toNat = f ||| x.toNat := by
  obtain ⟨y, rfl⟩ := Int.eq_ofNat_of_zero_le h0
  rw [u8_or_nat f y (by omega) (by omega)]
  have : f ||| y < 2 ^ 8 := Nat.or_lt_two_pow (by omega) (by omega)
  refine ⟨by omega, by omega, by simp⟩

theorem Obyte_at (n i : Int) (h0 : 0 ≤ n) : (n / 2 ^ (8 * i).toNat % 256).toNat = n.toNat / 2 ^ (8 * i).toNat % 256 := by
  obtain ⟨m, rfl⟩ := Int.eq_ofNat_of_zero_le h0
  have : ((m : Int) / 2 ^ (8 * i).toNat % 256) = ((m / 2 ^ (8 * i).toNat % 256 : Nat) : Int) := by simp
  rw [this]
  exact Int.toNat_natCast _

theorem OGives.mk {w w' : World} {l : List UInt8} {v : Value} (h : Ow w' w.heap.size v l) (hb : Below w.heap.size w w') : OGives w l (.returned v) w' := ⟨v, rfl, h, hb⟩

/-- The low r bytes of n, the low one first, from place i on. -/
def OwordB (n : Nat) (k : Nat) : List UInt8 := (List.range k).map fun i => UInt8.ofNat (n / 2 ^ (8 * i) % 256)

set_option maxHeartbeats 400000 in
theorem OWord_any {A : Option Addr} {k c : Nat} {l : List UInt8} (n m : Int) (w : World) (hr : Rd w w.heap.size A k c l) (hk : k ≤ 2147483648) (h0 : 0 ≤ n) (_h1 : n ≤ 18446744073709551615) :
    Calls Tryd.prog 48 #[.slice A k c, .int .u64 n, .int .i64 m] w (OGives w (l ++ OwordB n.toNat (min (max m 1) 8).toNat)) := by
  have hl := hr.len
  obtain ⟨j, hj, hj1, hj8⟩ : ∃ j : Nat, (j : Int) = min (max m 1) 8 ∧ 1 ≤ j ∧ j ≤ 8 := ⟨(min (max m 1) 8).toNat, by omega, by omega, by omega⟩
  rw [← hj]
  have hJ := Lib.hid hj
  clear hj
  go_enter Tryd.func48, Tryd.ntmps48
  go_wp2_with fail
  refine (wordSize_any _ _).mono ?_; rintro e w' ⟨rfl, rfl⟩
  rw [← hJ.out]
  go_wp2_with fail
  refine (room_any _ _ hr (by omega) (by omega) (by omega)).mono ?_; rintro e w1 ⟨v1, rfl, ho1, hb1⟩
  go_wp2
  go_loopw [7, 15] (fun v i wr => ∃ t : Nat, t ≤ j ∧ i = .int .i64 (t : Int) ∧ Ow wr w.heap.size v (l ++ OwordB n.toNat t) ∧ Below w.heap.size w wr) (fun _ i _ => j - (intOf i).toNat)
  case atStart => exact ⟨0, by omega, rfl, by simpa [OwordB] using ho1, hb1⟩
  case round =>
    obtain ⟨t, ht, rfl, ho, hb⟩ := hrel
    by_cases hlt : t < j
    · have hx0 : 0 ≤ n / 2 ^ (8 * (t : Int)).toNat % 256 := Int.emod_nonneg _ (by omega)
      have hx1 : n / 2 ^ (8 * (t : Int)).toNat % 256 < 256 := Int.emod_lt_of_pos _ (by omega)
      have hstep : Hid (l ++ OwordB n.toNat t ++ [UInt8.ofNat (n / 2 ^ (8 * (t : Int)).toNat % 256).toNat] = l ++ OwordB n.toNat (t + 1)) := by
        rw [Obyte_at n t h0, show (8 * (t : Int)).toNat = 8 * t from by omega, OwordB, OwordB, List.range_succ, List.map_append, List.append_assoc]
        exact Lib.hid rfl
      have hw : (OwordB n.toNat t).length = t := by simp [OwordB]
      go_wp2_with (at_builtin; refine wpList_app rfl _ _ rfl rfl (ho.alloc _) rfl (Rd.lit1 wr _ hx0 hx1) (by simp; omega) (by have := hb.size; simp; omega) ?_; intro v2 w2 ho2 hg2 hv2)
      go_roundw
      case rel => exact ⟨t + 1, by omega, by go_num, by rw [← hstep.out]; exact ho2, hb.trans (((Below.refl _ _).alloc hb.size _).grown hg2 (by have := hb.size; simp; omega) (fun k hk => (World.ownsRow.lt ho k hk).1))⟩
      case measure => simp [intOf]; omega
    · go_wp2
      go_ret
      obtain rfl : t = j := by omega
      exact OGives.mk ho hb

set_option maxHeartbeats 400000 in
theorem OOwn_any {A : Option Addr} {k c : Nat} {l : List UInt8} (w : World) (hr : Rd w w.heap.size A k c l) (hk : k ≤ 4294967296) :
    Calls Tryd.prog 18 #[.slice A k c] w (OGives w l) := by
  have hl := hr.len
  go_enter Tryd.func18, Tryd.ntmps18
  go_wp2_with (at_builtin; refine wpList_app rfl _ _ rfl rfl (Ow.lit w #[] [] rfl (by simp)) rfl (hr.below ((Below.refl _ _).alloc (Nat.le_refl _) _)) (by simp; omega) (by simp) ?_; intro v2 w2 ho2 hg2 hv2)
  go_ret
  exact OGives.mk ho2 (((Below.refl _ _).alloc (Nat.le_refl _) _).grown hg2 (by simp) (fun g hg => (World.ownsRow.lt (Ow.lit w #[] [] rfl (by simp)) g hg).1))
end Go.Proofs.YtdfihpnmiiaflaaDoor
end
section
/- Numbers as bytes, in plain words: their sizes, their order, that unlike ones are unlike. -/
namespace Go.Proofs.YtdfihpnmiiaflaaDoor
open Go.RowKit

theorem bitLen_pos (x : Nat) (h : x ≠ 0) (hx : x < 2 ^ 64) : 1 ≤ Lib.bitLen x := by rw [Lib.bitLen_half x h hx]; omega

theorem bitLen_gt (x k : Nat) (h : 2 ^ k ≤ x) (hx : x < 2 ^ 64) : k + 1 ≤ Lib.bitLen x := by
  rw [Lib.bitLen_shift k x h hx]
  have hp : 0 < 2 ^ k := Nat.two_pow_pos k
  have : 1 ≤ x / 2 ^ k := by rw [Nat.le_div_iff_mul_le hp]; omega
  have hl : x / 2 ^ k < 2 ^ 64 := Nat.lt_of_le_of_lt (Nat.div_le_self _ _) hx
  have := bitLen_pos (x / 2 ^ k) (by omega) hl
  omega

theorem numSize_lt (n : Nat) (h : n < 2 ^ 64) (h8 : numSize n ≤ 8) : n < 2 ^ (7 * numSize n) := by
  rcases Nat.lt_or_ge n (2 ^ (7 * numSize n)) with hl | hg
  · exact hl
  · have := bitLen_gt n _ hg h
    have hd : numSize n = min (max ((Lib.bitLen n + 6) / 7) 1) 9 := rfl
    omega
theorem numSize_ge (n : Nat) (h2 : 2 ≤ numSize n) : 2 ^ (7 * (numSize n - 1)) ≤ n := by
  rcases Nat.lt_or_ge n (2 ^ (7 * (numSize n - 1))) with hl | hg
  · have hb := numSize_bd n
    have := Lib.bitLen_le n (7 * (numSize n - 1)) (by omega) hl
    have hd : numSize n = min (max ((Lib.bitLen n + 6) / 7) 1) 9 := rfl
    omega
  · exact hg
theorem numSize_mono (n m : Nat) (hm : m < 2 ^ 64) (h : n ≤ m) : numSize n ≤ numSize m := by
  rcases Nat.lt_or_ge (numSize m) (numSize n) with hl | hg
  · have h1 := numSize_bd n
    have h2 := numSize_bd m
    have h3 := numSize_ge n (by omega)
    have h4 := numSize_lt m hm (by omega)
    have : 2 ^ (7 * numSize m) ≤ 2 ^ (7 * (numSize n - 1)) := Nat.pow_le_pow_right (by decide) (by omega)
    omega
  · exact hg

/-- The head of a number's bytes. -/
def headOf (n : Nat) : Nat := leadOf (numSize n) + n / 2 ^ (8 * (numSize n - 1))

theorem lead_or : ∀ (k : Fin 10) (x : Fin 256), 1 ≤ k.val → x.val < 2 ^ (8 - k.val) → leadOf k.val ||| x.val = leadOf k.val + x.val := by decide +kernel
theorem lead_step : ∀ (k : Fin 10), 1 ≤ k.val → leadOf k.val + 2 ^ (8 - k.val) ≤ 256 := by decide +kernel
theorem lead_next : ∀ (k j : Fin 10), 1 ≤ k.val → k.val < j.val → leadOf k.val + 2 ^ (8 - k.val) ≤ leadOf j.val := by decide +kernel

theorem top_lt (n : Nat) (h : n < 2 ^ 64) : n / 2 ^ (8 * (numSize n - 1)) < 2 ^ (8 - numSize n) := by
  have hb := numSize_bd n
  rcases Nat.lt_or_ge (numSize n) 9 with h8 | h9
  · have hl := numSize_lt n h (by omega)
    rw [Nat.div_lt_iff_lt_mul (Nat.two_pow_pos _), ← Nat.pow_add]
    rwa [show 8 - numSize n + 8 * (numSize n - 1) = 7 * numSize n from by omega]
  · have : numSize n = 9 := by omega
    rw [this, Nat.div_eq_of_lt (by simpa using h)]
    decide

theorem headOf_lt (n : Nat) (h : n < 2 ^ 64) : headOf n < 256 := by
  have hb := numSize_bd n
  have h1 := top_lt n h
  have h2 := lead_step ⟨numSize n, by omega⟩ hb.1
  simp only at h2
  unfold headOf
  omega

theorem numB_eq (n : Nat) (h : n < 2 ^ 64) : numB n = UInt8.ofNat (headOf n) :: putB n 0 (numSize n - 1) := by
  have hb := numSize_bd n
  have h1 := top_lt n h
  have hle : 2 ^ (8 - numSize n) ≤ 2 ^ 7 := Nat.pow_le_pow_right (by decide) (by omega)
  have h2 := lead_or ⟨numSize n, by omega⟩ ⟨n / 2 ^ (8 * (numSize n - 1)), by omega⟩ hb.1 h1
  simp only at h2
  have hx : n / 2 ^ (8 * (numSize n - 1)) % 256 = n / 2 ^ (8 * (numSize n - 1)) := Nat.mod_eq_of_lt (by omega)
  obtain ⟨r, hr⟩ : ∃ r, numSize n = r + 1 := ⟨numSize n - 1, by omega⟩
  unfold numB headOf
  rw [hr, Nat.add_sub_cancel] at h2 hx ⊢
  rw [putB, hx, h2]

theorem putB_less (n m : Nat) : ∀ r, Op.bytesLess (putB n 0 r) (putB m 0 r) = decide (n % 2 ^ (8 * r) < m % 2 ^ (8 * r))
  | 0 => by simp [putB, Op.bytesLess, Nat.mod_one]
  | r + 1 => by
    have ih := putB_less n m r
    rw [putB, putB, Op.bytesLess, ih, Nat.zero_or, Nat.zero_or]
    rw [show 2 ^ (8 * (r + 1)) = 2 ^ (8 * r) * 256 from by rw [show 8 * (r + 1) = 8 * r + 8 from by omega, Nat.pow_add]]
    rw [Nat.mod_mul, Nat.mod_mul]
    have hP : 0 < 2 ^ (8 * r) := Nat.two_pow_pos _
    generalize 2 ^ (8 * r) = P at *
    have ha : n / P % 256 < 256 := Nat.mod_lt _ (by decide)
    have hb : m / P % 256 < 256 := Nat.mod_lt _ (by decide)
    have hn : n % P < P := Nat.mod_lt _ hP
    have hm : m % P < P := Nat.mod_lt _ hP
    generalize n / P % 256 = a at *
    generalize m / P % 256 = b at *
    generalize n % P = x at *
    generalize m % P = y at *
    have e1 : decide (UInt8.ofNat a < UInt8.ofNat b) = decide (a < b) := by
      congr 1
      rw [UInt8.lt_iff_toNat_lt]
      simp only [UInt8.toNat_ofNat']
      rw [Nat.mod_eq_of_lt (by omega), Nat.mod_eq_of_lt (by omega)]
    have e2 : (UInt8.ofNat a == UInt8.ofNat b) = decide (a = b) := by
      rw [Bool.eq_iff_iff, beq_iff_eq, decide_eq_true_iff]
      constructor
      · intro h
        have := congrArg UInt8.toNat h
        simp only [UInt8.toNat_ofNat'] at this
        omega
      · intro h; rw [h]
    rw [e1, e2]
    rcases Nat.lt_trichotomy a b with h | h | h
    · have : P * (a + 1) ≤ P * b := Nat.mul_le_mul_left P h
      rw [Nat.mul_succ] at this
      simp only [h, decide_true, Bool.true_or]
      simp; omega
    · subst h
      simp
    · have : P * (b + 1) ≤ P * a := Nat.mul_le_mul_left P h
      rw [Nat.mul_succ] at this
      have n1 : ¬ a < b := by omega
      have n2 : ¬ a = b := by omega
      simp only [n1, n2, decide_false, Bool.false_or, Bool.false_and]
      simp; omega

theorem bytesLess_irr : ∀ l : List UInt8, Op.bytesLess l l = false
  | [] => rfl
  | a :: l => by simp [Op.bytesLess, bytesLess_irr l]

theorem cons_less (a b : Nat) (ha : a < 256) (hb : b < 256) (x y : List UInt8) :
    Op.bytesLess (UInt8.ofNat a :: x) (UInt8.ofNat b :: y) = (decide (a < b) || (decide (a = b) && Op.bytesLess x y)) := by
  have e1 : decide (UInt8.ofNat a < UInt8.ofNat b) = decide (a < b) := by
    congr 1
    rw [UInt8.lt_iff_toNat_lt]
    simp only [UInt8.toNat_ofNat']
    rw [Nat.mod_eq_of_lt (by omega), Nat.mod_eq_of_lt (by omega)]
  have e2 : (UInt8.ofNat a == UInt8.ofNat b) = decide (a = b) := by
    rw [Bool.eq_iff_iff, beq_iff_eq, decide_eq_true_iff]
    constructor
    · intro h
      have := congrArg UInt8.toNat h
      simp only [UInt8.toNat_ofNat'] at this
      omega
    · intro h; rw [h]
  rw [Op.bytesLess, e1, e2]

theorem numB_less (n m : Nat) (hn : n < 2 ^ 64) (hm : m < 2 ^ 64) : Op.bytesLess (numB n) (numB m) = decide (n < m) := by
  rw [numB_eq n hn, numB_eq m hm, cons_less _ _ (headOf_lt n hn) (headOf_lt m hm)]
  have bn := numSize_bd n
  have bm := numSize_bd m
  have tn := top_lt n hn
  have tm := top_lt m hm
  unfold headOf
  rcases Nat.lt_trichotomy (numSize n) (numSize m) with h | h | h
  · have hl := lead_next ⟨numSize n, by omega⟩ ⟨numSize m, by omega⟩ bn.1 h
    simp only at hl
    have : n < m := by
      have h3 := numSize_ge m (by omega)
      have h4 := numSize_lt n hn (by omega)
      have : 2 ^ (7 * numSize n) ≤ 2 ^ (7 * (numSize m - 1)) := Nat.pow_le_pow_right (by decide) (by omega)
      omega
    generalize n / 2 ^ (8 * (numSize n - 1)) = x at *
    generalize m / 2 ^ (8 * (numSize m - 1)) = y at *
    rw [decide_eq_true this, decide_eq_true (by omega), Bool.true_or]
  · rw [← h] at tm ⊢
    have hP : 0 < 2 ^ (8 * (numSize n - 1)) := Nat.two_pow_pos _
    rw [putB_less]
    have dn := Nat.div_add_mod n (2 ^ (8 * (numSize n - 1)))
    have dm := Nat.div_add_mod m (2 ^ (8 * (numSize n - 1)))
    have hrn := Nat.mod_lt n hP
    have hrm := Nat.mod_lt m hP
    generalize 2 ^ (8 * (numSize n - 1)) = P at *
    generalize n / P = a at *
    generalize m / P = b at *
    rcases Nat.lt_trichotomy a b with h' | h' | h'
    · have : P * (a + 1) ≤ P * b := Nat.mul_le_mul_left P h'
      rw [Nat.mul_succ] at this
      rw [decide_eq_true (by omega : leadOf (numSize n) + a < leadOf (numSize n) + b), decide_eq_true (by omega : n < m), Bool.true_or]
    · subst h'
      simp only [Nat.lt_irrefl, decide_false, Bool.false_or, decide_true, Bool.true_and]
      congr 1
      simp only [eq_iff_iff]
      omega
    · have : P * (b + 1) ≤ P * a := Nat.mul_le_mul_left P h'
      rw [Nat.mul_succ] at this
      rw [decide_eq_false (by omega : ¬ leadOf (numSize n) + a < leadOf (numSize n) + b), decide_eq_false (by omega : ¬ leadOf (numSize n) + a = leadOf (numSize n) + b), decide_eq_false (by omega : ¬ n < m)]
      rfl
  · have hl := lead_next ⟨numSize m, by omega⟩ ⟨numSize n, by omega⟩ bm.1 h
    simp only at hl
    have : m < n := by
      have h3 := numSize_ge n (by omega)
      have h4 := numSize_lt m hm (by omega)
      have : 2 ^ (7 * numSize m) ≤ 2 ^ (7 * (numSize n - 1)) := Nat.pow_le_pow_right (by decide) (by omega)
      omega
    generalize n / 2 ^ (8 * (numSize n - 1)) = x at *
    generalize m / 2 ^ (8 * (numSize m - 1)) = y at *
    rw [decide_eq_false (by omega : ¬ n < m), decide_eq_false (by omega), decide_eq_false (by omega)]
    rfl

theorem numB_inj (n m : Nat) (hn : n < 2 ^ 64) (hm : m < 2 ^ 64) (h : numB n = numB m) : n = m := by
  have h1 := numB_less n m hn hm
  have h2 := numB_less m n hm hn
  rw [h, bytesLess_irr] at h1
  rw [h, bytesLess_irr] at h2
  have := of_decide_eq_false h1.symm
  have := of_decide_eq_false h2.symm
  omega
theorem numB_length (n : Nat) : (numB n).length = numSize n := putB_length n _ _
end Go.Proofs.YtdfihpnmiiaflaaDoor
end
