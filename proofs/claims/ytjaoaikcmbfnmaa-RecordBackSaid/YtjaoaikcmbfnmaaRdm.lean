/- octet: the reader's methods. -/
import Derived.Test.YtjaoaikcmbfnmaaRdr
namespace Go.Proofs.Ytjaoaikcmbfnmaa
open Go.RowKit

/-- A number read: it, what is left, the error. -/
def rdNum (l : List UInt8) (e : Int) : Nat × List UInt8 × Int :=
  if e = 0 then
    if sizeAt l ≤ l.length then
      if numSize (numOf (l.take (sizeAt l))) < sizeAt l then (0, l, 4) else (numOf (l.take (sizeAt l)), l.drop (sizeAt l), 0)
    else (0, l, 5)
  else (0, l, e)

theorem sizeAt_bd (l : List UInt8) : 1 ≤ sizeAt l ∧ sizeAt l ≤ 9 := by
  cases l with
  | nil => simp [sizeAt]
  | cons u t =>
    have h := Lib.bitLen_le8 ⟨255 - u.toNat, by omega⟩
    simp only [sizeAt] at *
    omega

theorem numAcc_lt : ∀ (l : List UInt8) (acc d : Nat), acc < 18446744073709551616 → numAcc acc d l < 18446744073709551616
  | [], acc, _, h => h
  | u :: t, acc, d, h => by
    rw [numAcc]
    have : u.toNat &&& (255 - d) ≤ 255 := Nat.le_trans Nat.and_le_left (by have := u.toNat_lt; omega)
    exact numAcc_lt t _ _ (by omega)
theorem numOf_lt (l : List UInt8) : numOf l < 18446744073709551616 := numAcc_lt l _ _ (by decide)

/-- A plain value is answered; the reader is left with l, e. -/
def Left (w : World) (g : Nat) (v : Value) (l : List UInt8) (e : Int) (x : Ending) (w' : World) : Prop :=
  x = .returned v ∧ Rdr w' g l e ∧ Only g w w'

set_option maxHeartbeats 400000 in
theorem RNumber_any {w : World} {g : Nat} {l : List UInt8} {e : Int} (hR : Rdr w g l e) (hl : l.length ≤ 4294967296) :
    Calls Try.prog 37 #[.pointer (some ⟨g, 0, none⟩)] w (Left w g (.int .u64 (rdNum l e).1) (rdNum l e).2.1 (rdNum l e).2.2) := by
  obtain ⟨A, k, c, hg, hr⟩ := id hR
  obtain ⟨c0, c1, c2, cf⟩ := cells3 hg
  have H := Lib.hid hg
  have hlen := Lib.hid hr.len
  have hs := sizeAt_bd l
  clear hg
  by_cases he : e = 0
  · subst he
    go_enter Try.func37, Try.ntmps37
    go_wp2_with fail
    refine (Err_any hR).mono ?_; rintro x w' ⟨rfl, rfl⟩
    go_wp2_with fail
    refine (sizeTold_any hr).mono ?_; rintro x w' ⟨rfl, rfl⟩
    go_wp2_with fail
    refine (take_any hR _ (by omega) (by omega) hl).mono ?_; rintro x w1 ⟨A1, n1, k1, rfl, hr1, hR1, hO1⟩
    rw [Int.toNat_natCast] at hr1 hR1
    go_wp2_with fail
    by_cases hsl : sizeAt l ≤ l.length
    · have ht : tk (sizeAt l) l 0 = (l.take (sizeAt l), l.drop (sizeAt l), 0) := by rw [tk, if_pos rfl, if_pos hsl]
      rw [ht] at hr1 hR1
      clear ht
      have hn1 : n1 = sizeAt l := by rw [← hr1.len, List.length_take]; omega
      subst hn1
      have hno := numOf_lt (l.take (sizeAt l))
      have hns := numSize_bd (numOf (l.take (sizeAt l)))
      refine (numberOf_any hr1 (by omega)).mono ?_; rintro x w' ⟨rfl, rfl⟩
      go_wp2_with fail
      refine (numberSize_any _ _ (by omega) (by omega)).mono ?_; rintro x w' ⟨rfl, rfl⟩
      rw [Int.toNat_natCast]
      by_cases hb : numSize (numOf (l.take (sizeAt l))) < sizeAt l
      · obtain ⟨A2, k2, c2', hg2, hr2⟩ := id hR1
        obtain ⟨d0, d1, d2, df⟩ := cells3 hg2
        have H2 := Lib.hid hg2
        clear hg2
        go_wp2
        go_ret
        rw [rdNum, if_pos rfl, if_pos hsl, if_pos hb]
        have hO := hO1.trans ((Only.set w1 2 (.int .i64 4)).trans (Only.set _ 1 (.slice A k c)))
        exact ⟨rfl, ⟨A, k, c, set_at (set_at H2.out 2 _) 1 _, hr.only hO (Nat.le_of_lt hR.lt) (Nat.le_refl _)⟩, hO⟩
      · go_wp2
        go_ret
        rw [rdNum, if_pos rfl, if_pos hsl, if_neg hb]
        exact ⟨rfl, hR1, hO1⟩
    · have ht : tk (sizeAt l) l 0 = ([], l, 5) := by rw [tk, if_pos rfl, if_neg hsl]
      rw [ht] at hr1 hR1
      clear ht
      obtain rfl : n1 = 0 := hr1.len.symm
      refine (numberOf_any hr1 (by omega)).mono ?_; rintro x w' ⟨rfl, rfl⟩
      go_wp2_with fail
      refine (numberSize_any _ _ (by omega) (by decide)).mono ?_; rintro x w' ⟨rfl, rfl⟩
      go_wp2
      go_ret
      rw [rdNum, if_pos rfl, if_neg hsl]
      exact ⟨rfl, hR1, hO1⟩
  · have hd : (e == 0) = false := by simpa using he
    go_enter Try.func37, Try.ntmps37
    go_wp2_with fail
    refine (Err_any hR).mono ?_; rintro x w' ⟨rfl, rfl⟩
    go_wp2
    go_ret
    rw [rdNum, if_neg he]
    exact ⟨rfl, hR, Only.refl _ _⟩

/-- A new slice of bytes is answered; the reader is left with l, e. -/
def Gave (w : World) (g : Nat) (r : List UInt8 × List UInt8 × Int) (x : Ending) (w' : World) : Prop :=
  ∃ v, x = .returned v ∧ Ow w' w.heap.size v r.1 ∧ Rdr w' g r.2.1 r.2.2 ∧ Only g w w'

set_option maxHeartbeats 400000 in
theorem take_nil (n : Int) (w : World) : Calls Try.prog 45 #[.pointer none, .int .u64 n] w fun x w' => x = .returned (.slice none 0 0) ∧ w = w' := by
  go_enter Try.func45, Try.ntmps45
  go_wp2_with fail
  refine (Err_nil _).mono ?_; rintro x w' ⟨rfl, rfl⟩
  go_wp2
  go_ret
  exact ⟨rfl, rfl⟩

set_option maxHeartbeats 400000 in
theorem RTake_any {w : World} {g : Nat} {l : List UInt8} {e : Int} (hR : Rdr w g l e) (n : Int) (hn : n ≤ 9223372036854775807) (hl : l.length ≤ 4294967296) :
    Calls Try.prog 38 #[.pointer (some ⟨g, 0, none⟩), .int .i64 n] w (Gave w g (tk n.toNat l e)) := by
  have hm : (0 : Int) ≤ max n 0 := by omega
  have hm2 : max n 0 ≤ 9223372036854775807 := by omega
  go_enter Try.func38, Try.ntmps38
  go_wp2_with fail
  refine (take_any hR _ (by omega) (by omega) hl).mono ?_; rintro x w1 ⟨A1, n1, k1, rfl, hr1, hR1, hO1⟩
  rw [show (max n 0).toNat = n.toNat from by omega] at hr1 hR1
  have hlen : n1 ≤ 4294967296 := by
    rw [← hr1.len, tk]; split
    · split
      · simp only [List.length_take]; omega
      · simp
    · simp
  go_wp2_with fail
  refine (room_any _ _ (hr1.more (Nat.le_of_lt hR1.lt)) hlen (by omega) (by omega)).mono ?_
  rintro x w2 ⟨v, rfl, ho, hb⟩
  go_wp2
  go_ret
  exact ⟨_, rfl, ho.lower hO1.size, hR1.below hb, hO1.trans (Only.of_below hb)⟩

set_option maxHeartbeats 400000 in
theorem RLeft_any {w : World} {g : Nat} {l : List UInt8} {e : Int} (hR : Rdr w g l e) (he : e ≠ 1) :
    Calls Try.prog 27 #[.pointer (some ⟨g, 0, none⟩)] w fun x w' => x = .returned (.int .i64 (l.length : Int)) ∧ w = w' := by
  obtain ⟨A, k, c, hg, hr⟩ := id hR
  obtain ⟨c0, c1, c2, cf⟩ := cells3 hg
  have hlen := Lib.hid hr.len
  have hd : (e == 1) = false := by simpa using he
  clear hg
  go_enter Try.func27, Try.ntmps27
  go_wp2_with fail
  refine (Err_any hR).mono ?_; rintro x w' ⟨rfl, rfl⟩
  go_wp2
  go_ret
  exact ⟨by rw [hlen.out]; rfl, rfl⟩

/-- What End tells. -/
def rdEnd (l : List UInt8) (e : Int) : Int := if e = 0 then (if 0 < l.length then 4 else 0) else e

/-- The number of bytes, the low one first. -/
def leNat : List UInt8 → Nat
  | [] => 0
  | u :: t => u.toNat + 256 * leNat t

theorem leNat_snoc : ∀ (l : List UInt8) (u : UInt8), leNat (l ++ [u]) = leNat l + u.toNat * 2 ^ (8 * l.length)
  | [], u => by simp [leNat]
  | x :: t, u => by
    rw [List.cons_append, leNat, leNat, leNat_snoc t u, List.length_cons, show 8 * (t.length + 1) = 8 + 8 * t.length from by omega, Nat.pow_add]
    rw [Nat.mul_add, ← Nat.mul_assoc 256, Nat.mul_comm 256 u.toNat, Nat.mul_assoc u.toNat, Nat.add_assoc]
theorem leNat_lt : ∀ (l : List UInt8), leNat l < 2 ^ (8 * l.length)
  | [] => by simp [leNat]
  | x :: t => by
    have h := leNat_lt t
    have hx : x.toNat < 256 := x.toNat_lt
    rw [leNat, List.length_cons, show 8 * (t.length + 1) = 8 + 8 * t.length from by omega, Nat.pow_add]
    omega

/-- How many bytes a word of size k has. -/
def wordLen (k : Int) : Nat := (min (max k 1) 8).toNat

theorem word_step (acc u t : Nat) (ha : acc < 2 ^ (8 * t)) (hu : u < 256) (ht : t ≤ 7) :
    bits BinOp.or IntKind.u64 (acc : Int) (IntKind.u64.wrap ((u : Int) * 2 ^ (8 * t))) = ((acc + u * 2 ^ (8 * t) : Nat) : Int) := by
  have hp : 2 ^ (8 * t) ≤ 2 ^ 56 := Nat.pow_le_pow_right (by decide) (by omega)
  have hb : u * 2 ^ (8 * t) ≤ 255 * 2 ^ 56 := Nat.mul_le_mul (by omega) hp
  have hw : IntKind.u64.wrap ((u : Int) * 2 ^ (8 * t)) = ((u * 2 ^ (8 * t) : Nat) : Int) := by
    rw [show ((u : Int) * 2 ^ (8 * t)) = ((u * 2 ^ (8 * t) : Nat) : Int) from by simp, IntKind.wrap_u64]
    omega
  rw [hw, u64_or_nat _ _ (by omega) (by omega), Nat.or_comm, nat_join (8 * t) _ _ (Nat.mul_mod_left _ _) ha, Nat.add_comm]

set_option maxHeartbeats 400000 in
theorem RWord_any {w : World} {g : Nat} {l : List UInt8} {e : Int} (hR : Rdr w g l e) (k : Int) (hl : l.length ≤ 4294967296) :
    Calls Try.prog 35 #[.pointer (some ⟨g, 0, none⟩), .int .i64 k] w (Left w g (.int .u64 (leNat (tk (wordLen k) l e).1)) (tk (wordLen k) l e).2.1 (tk (wordLen k) l e).2.2) := by
  have hm : (1 : Int) ≤ min (max k 1) 8 := by omega
  have hm2 : min (max k 1) 8 ≤ 8 := by omega
  go_enter Try.func35, Try.ntmps35
  go_wp2_with fail
  refine (wordSize_any _ _).mono ?_; rintro x w' ⟨rfl, rfl⟩
  go_wp2_with fail
  refine (take_any hR _ (by omega) (by omega) hl).mono ?_; rintro x w1 ⟨A1, n1, k1, rfl, hr1, hR1, hO1⟩
  rw [show (min (max k 1) 8).toNat = wordLen k from rfl] at hr1 hR1
  have hlen : n1 ≤ 8 := by
    rw [← hr1.len, tk]; split
    · split
      · simp only [List.length_take, wordLen]; omega
      · simp
    · simp
  generalize htk : tk (wordLen k) l e = r at *
  clear htk
  go_wp2
  go_loop [5, 14] (fun vn vi => ∃ t : Nat, t ≤ n1 ∧ vi = .int .i64 (t : Int) ∧ vn = .int .u64 (leNat (r.1.take t) : Int)) (fun _ vi => n1 - (intOf vi).toNat)
  case atStart => exact ⟨0, by omega, rfl, rfl⟩
  case round =>
    obtain ⟨t, ht, rfl, rfl⟩ := hrel
    by_cases hlt : t < n1
    · obtain ⟨ad, rfl, hb, u, hu, hcell⟩ := hr1.at_ hlt
      have hub : u.toNat < 256 := u.toNat_lt
      rw [B8] at hcell
      have HU := Lib.hid hu
      clear hu
      go_wp2
      have htl : t < r.1.length := by rw [hr1.len]; exact hlt
      have htake : r.1.take (t + 1) = r.1.take t ++ [u] := by
        rw [List.take_succ_eq_append_getElem htl, show r.1[t] = u from by have := HU.out; rw [List.getElem?_eq_getElem htl] at this; simpa using this]
      have hlt8 := leNat_lt (r.1.take t)
      have hll : (r.1.take t).length = t := by rw [List.length_take]; omega
      rw [hll] at hlt8
      go_round
      case rel =>
        refine ⟨t + 1, by omega, by go_num, congrArg (Value.int IntKind.u64) ?_⟩
        rw [word_step _ _ t hlt8 hub (by omega), htake, leNat_snoc, hll]
      case measure => simp [intOf]; omega
    · go_wp2
      go_ret
      refine ⟨Oret_int ?_, hR1, hO1⟩
      rw [List.take_of_length_le (by rw [hr1.len]; omega)]

/-- What Block reads. -/
def rdBlk (l : List UInt8) (e : Int) : List UInt8 × List UInt8 × Int :=
  if e = 0 then
    if (tk (rdNum l 0).1 (rdNum l 0).2.1 (rdNum l 0).2.2).2.2 = 0 then tk (rdNum l 0).1 (rdNum l 0).2.1 (rdNum l 0).2.2
    else ([], l, (tk (rdNum l 0).1 (rdNum l 0).2.1 (rdNum l 0).2.2).2.2)
  else ([], l, e)

theorem rdNum_lt (l : List UInt8) (e : Int) : (rdNum l e).1 < 18446744073709551616 := by
  unfold rdNum
  have := numOf_lt (l.take (sizeAt l))
  split
  · split
    · split
      · exact (by decide : 0 < 18446744073709551616)
      · exact this
    · exact (by decide : 0 < 18446744073709551616)
  · exact (by decide : 0 < 18446744073709551616)
theorem rdNum_len (l : List UInt8) (e : Int) : (rdNum l e).2.1.length ≤ l.length := by
  unfold rdNum
  split
  · split
    · split
      · exact Nat.le_refl _
      · simp
    · exact Nat.le_refl _
  · exact Nat.le_refl _
theorem tk_len (n : Nat) (l : List UInt8) (e : Int) : (tk n l e).1.length ≤ l.length := by
  unfold tk
  split
  · split
    · simp only [List.length_take]; omega
    · simp
  · simp

end Go.Proofs.Ytjaoaikcmbfnmaa
