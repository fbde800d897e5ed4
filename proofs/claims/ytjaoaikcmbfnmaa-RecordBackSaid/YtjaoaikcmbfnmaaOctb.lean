/- octet: room, putNumber. -/
import Derived.Test.YtjaoaikcmbfnmaaMem
import Derived.Test.YtjaoaikcmbfnmaaOcta
namespace Go.Proofs.Ytjaoaikcmbfnmaa
open Go.RowKit

/-- What every call that answers new bytes leaves. -/
def OGives (w : World) (l : List UInt8) (e : Ending) (w' : World) : Prop := ∃ v, e = .returned v ∧ Ow w' w.heap.size v l ∧ Below w.heap.size w w'

set_option maxHeartbeats 400000 in
theorem room_any {A : Option Addr} {k c : Nat} {l : List UInt8} (n : Int) (w : World) (hr : Rd w w.heap.size A k c l) (hk : k ≤ 4294967296) (h0 : 0 ≤ n) (h1 : n ≤ 4294967296) :
    Calls Try.prog 33 #[.slice A k c, .int .i64 n] w (OGives w l) := by
  go_enter Try.func33, Try.ntmps33
  go_wp2_with (first | (at_make; refine wpList_make rfl _ _ rfl _ rfl rfl (by omega) (by omega) (Nat.le_refl _) ?_; intro v1 w1 ho1 hb1 hz1) | (at_builtin; refine wpList_app rfl _ _ rfl rfl ho1 rfl (hr.below hb1) (by simp; omega) (by omega) ?_; intro v2 w2 ho2 hg2 _))
  go_ret
  refine ⟨_, rfl, ?_, ?_⟩
  · simpa using ho2
  · exact hb1.trans (((Below.refl _ _).grown hg2 (Nat.le_of_lt hz1) (fun k hk => (World.ownsRow.lt ho1 k hk).1)))

/-- The bytes of n from place r - 1 down to 0, the first one with f's bits. -/
def putB (n : Nat) : Nat → Nat → List UInt8
  | _, 0 => []
  | f, r + 1 => UInt8.ofNat (f ||| n / 2 ^ (8 * r) % 256) :: putB n 0 r
/-- A number's bytes. -/
def numB (n : Nat) : List UInt8 := putB n (leadOf (numSize n)) (numSize n)

theorem putB_length (n : Nat) : ∀ r f, (putB n f r).length = r
  | 0, _ => rfl
  | r + 1, f => by simp [putB, putB_length n r]
theorem numSize_bd (n : Nat) : 1 ≤ numSize n ∧ numSize n ≤ 9 := by unfold numSize; omega
theorem leadOf_bd (k : Nat) : leadOf k ≤ 255 := Nat.sub_le _ _

theorem or8 (f : Nat) (x : Int) (hf : f ≤ 255) (h0 : 0 ≤ x) (h1 : x < 256) :
    0 ≤ bits .or .u8 (f : Int) x ∧ bits .or .u8 (f : Int) x < 256 ∧ (bits .or .u8 (f : Int) x).toNat = f ||| x.toNat := by
  obtain ⟨y, rfl⟩ := Int.eq_ofNat_of_zero_le h0
  rw [u8_or_nat f y (by omega) (by omega)]
  have : f ||| y < 2 ^ 8 := Nat.or_lt_two_pow (by omega) (by omega)
  refine ⟨by omega, by omega, by simp⟩

theorem Obyte_at (n i : Int) (h0 : 0 ≤ n) : (n / 2 ^ (8 * i).toNat % 256).toNat = n.toNat / 2 ^ (8 * i).toNat % 256 := by
  obtain ⟨m, rfl⟩ := Int.eq_ofNat_of_zero_le h0
  have : ((m : Int) / 2 ^ (8 * i).toNat % 256) = ((m / 2 ^ (8 * i).toNat % 256 : Nat) : Int) := by simp
  rw [this]
  exact Int.toNat_natCast _

set_option maxHeartbeats 400000 in
theorem putNumber_any (v : Value) (n : Int) (w : World) (base : Nat) (xs : List UInt8) (hown : Ow w base v xs) (hbase : base ≤ w.heap.size) (hx : xs.length ≤ 8589934592) (h0 : 0 ≤ n) (h1 : n ≤ 18446744073709551615) :
    Calls Try.prog 39 #[v, .int .u64 n] w fun e w' => ∃ v', e = .returned v' ∧ Ow w' base v' (xs ++ numB n.toNat) ∧ Below base w w' := by
  have hs := numSize_bd n.toNat
  have hl := leadOf_bd (numSize n.toNat)
  go_enter Try.func39, Try.ntmps39
  go_wp2_with (first | (go_at_call 40; refine (numberSize_any _ _ (by omega) (by omega)).mono ?_; rintro e w' ⟨rfl, rfl⟩) | (go_at_call 48; refine (lead_any _ _ (by omega) (by omega)).mono ?_; rintro e w' ⟨rfl, rfl⟩))
  go_loopw [0, 6, 7] (fun vb vf vi wr => ∃ (i : Int) (f : Nat) (ys : List UInt8), -1 ≤ i ∧ i < numSize n.toNat ∧ vi = .int .i64 i ∧ vf = .int .u8 (f : Int) ∧ f ≤ 255 ∧ Ow wr base vb ys ∧ base ≤ wr.heap.size ∧ Hid (ys ++ putB n.toNat f (i + 1).toNat = xs ++ numB n.toNat) ∧ Below base w wr) (fun _ _ vi _ => (intOf vi + 1).toNat)
  case atStart => exact ⟨_, _, _, by omega, by omega, rfl, rfl, hl, hown, hbase, by rw [show ((numSize n.toNat : Int) - 1 + 1).toNat = numSize n.toNat from by omega]; exact Lib.hid rfl, Below.refl _ _⟩
  case round =>
    obtain ⟨i, f, ys, hr, hr2, rfl, rfl, hf, ho, hb, he, hbl⟩ := hrel
    by_cases hi : 0 ≤ i
    · have hlen : ys.length + (i + 1).toNat = xs.length + numSize n.toNat := by
        have := congrArg List.length he.out
        simpa [putB_length, numB] using this
      have hlen' : ys.length ≤ 8589934601 := by omega
      clear hlen
      have hx0 : 0 ≤ n / 2 ^ (8 * i).toNat % 256 := Int.emod_nonneg _ (by omega)
      have hx1 : n / 2 ^ (8 * i).toNat % 256 < 256 := Int.emod_lt_of_pos _ (by omega)
      obtain ⟨o0, o1, o2⟩ := or8 f _ hf hx0 hx1
      have hstep : Hid (ys ++ [UInt8.ofNat (bits .or .u8 (f : Int) (n / 2 ^ (8 * i).toNat % 256)).toNat] ++ putB n.toNat 0 i.toNat = xs ++ numB n.toNat) := by
        have := he.out
        rw [show (i + 1).toNat = i.toNat + 1 from by omega, putB] at this
        rw [o2, Obyte_at n i h0, show (8 * i).toNat = 8 * i.toNat from by omega, ← this]
        exact Lib.hid (by simp)
      clear o2 he
      go_wp2_with (at_builtin; refine wpList_app rfl _ _ rfl rfl (ho.alloc _) rfl (Rd.lit1 wr _ o0 o1) (by omega) (by simp; omega) ?_; intro v2 w2 ho2 hg2 hv2)
      go_roundw
      case rel => exact ⟨_, 0, _, by omega, by omega, rfl, rfl, by omega, ho2, (by have := hg2.size; simp at this; omega), by rw [show (i - 1 + 1).toNat = i.toNat from by omega]; exact hstep, hbl.trans (((Below.refl _ _).alloc hb _).grown hg2 (by simp; omega) (fun k hk => (World.ownsRow.lt ho k hk).1))⟩
      case measure => simp [intOf]; omega
    · go_wp2
      go_ret
      have := he.out
      rw [show (i + 1).toNat = 0 from by omega, putB, List.append_nil] at this
      subst this
      exact ⟨_, rfl, ho, hbl⟩

theorem OGives.mk {w w' : World} {l : List UInt8} {v : Value} (h : Ow w' w.heap.size v l) (hb : Below w.heap.size w w') : OGives w l (.returned v) w' := ⟨v, rfl, h, hb⟩

set_option maxHeartbeats 400000 in
theorem Number_any {A : Option Addr} {k c : Nat} {l : List UInt8} (n : Int) (w : World) (hr : Rd w w.heap.size A k c l) (hk : k ≤ 4294967296) (h0 : 0 ≤ n) (h1 : n ≤ 18446744073709551615) :
    Calls Try.prog 28 #[.slice A k c, .int .u64 n] w (OGives w (l ++ numB n.toNat)) := by
  have hs := numSize_bd n.toNat
  have hl := hr.len
  go_enter Try.func28, Try.ntmps28
  go_wp2_with fail
  refine (numberSize_any _ _ (by omega) (by omega)).mono ?_; rintro e w' ⟨rfl, rfl⟩
  go_wp2_with fail
  refine (room_any _ _ hr hk (by omega) (by omega)).mono ?_; rintro e w1 ⟨v1, rfl, ho1, hb1⟩
  go_wp2_with fail
  refine (putNumber_any _ _ _ w.heap.size _ ho1 hb1.size (by omega) h0 h1).mono ?_; rintro e w2 ⟨v2, rfl, ho2, hb2⟩
  go_wp2
  go_ret
  exact OGives.mk ho2 (hb1.trans hb2)

set_option maxHeartbeats 400000 in
theorem Block_any {A A2 : Option Addr} {k c k2 c2 : Nat} {l l2 : List UInt8} (w : World) (hr : Rd w w.heap.size A k c l) (hk : k ≤ 2147483648) (hr2 : Rd w w.heap.size A2 k2 c2 l2) (hk2 : k2 ≤ 2147483648) :
    Calls Try.prog 34 #[.slice A k c, .slice A2 k2 c2] w (OGives w (l ++ (numB l2.length ++ l2))) := by
  have hs := numSize_bd k2
  have hl := hr.len
  have hl2 := hr2.len
  go_enter Try.func34, Try.ntmps34
  go_wp2_with fail
  refine (numberSize_any _ _ (by omega) (by omega)).mono ?_; rintro e w' ⟨rfl, rfl⟩
  go_wp2_with fail
  refine (room_any _ _ hr (by omega) (by omega) (by omega)).mono ?_; rintro e w1 ⟨v1, rfl, ho1, hb1⟩
  go_wp2_with fail
  refine (putNumber_any _ _ _ w.heap.size _ ho1 hb1.size (by omega) (by omega) (by omega)).mono ?_; rintro e w2 ⟨v2, rfl, ho2, hb2⟩
  rw [show ((k2 : Int)).toNat = k2 from rfl] at ho2
  have hn : (numB k2).length ≤ 9 := by rw [numB, putB_length]; omega
  go_wp2_with (at_builtin; refine wpList_app rfl _ _ rfl rfl ho2 rfl ((hr2.below hb1).below hb2) (by simp; omega) (Nat.le_trans hb1.size hb2.size) ?_; intro v3 w3 ho3 hg3 hv3)
  go_ret
  rw [List.append_assoc] at ho3
  rw [hl2]
  exact OGives.mk ho3 (hb1.trans (hb2.trans ((Below.refl _ _).grown hg3 (Nat.le_trans hb1.size hb2.size) (fun k hk => (World.ownsRow.lt ho2 k hk).1))))

/-- The low r bytes of n, the low one first, from place i on. -/
def OwordB (n : Nat) (k : Nat) : List UInt8 := (List.range k).map fun i => UInt8.ofNat (n / 2 ^ (8 * i) % 256)

set_option maxHeartbeats 400000 in
theorem OWord_any {A : Option Addr} {k c : Nat} {l : List UInt8} (n m : Int) (w : World) (hr : Rd w w.heap.size A k c l) (hk : k ≤ 2147483648) (h0 : 0 ≤ n) (_h1 : n ≤ 18446744073709551615) :
    Calls Try.prog 22 #[.slice A k c, .int .u64 n, .int .i64 m] w (OGives w (l ++ OwordB n.toNat (min (max m 1) 8).toNat)) := by
  have hl := hr.len
  obtain ⟨j, hj, hj1, hj8⟩ : ∃ j : Nat, (j : Int) = min (max m 1) 8 ∧ 1 ≤ j ∧ j ≤ 8 := ⟨(min (max m 1) 8).toNat, by omega, by omega, by omega⟩
  rw [← hj]
  have hJ := Lib.hid hj
  clear hj
  go_enter Try.func22, Try.ntmps22
  go_wp2_with fail
  refine (wordSize_any _ _).mono ?_; rintro e w' ⟨rfl, rfl⟩
  rw [← hJ.out]
  go_wp2_with fail
  refine (room_any _ _ hr (by omega) (by omega) (by omega)).mono ?_; rintro e w1 ⟨v1, rfl, ho1, hb1⟩
  go_wp2
  go_loopw [7, 15] (fun v i wr => ∃ t : Nat, t ≤ j ∧ i = .int .i64 (t : Int) ∧ Ow wr w.heap.size v (l ++ OwordB n.toNat t) ∧ Below w.heap.size w wr) (fun _ i _ => j - (intOf i).toNat)
  case atStart => exact ⟨0, by omega, rfl, by simpa [OwordB] using ho1, hb1⟩
  case round =>
    obtain ⟨t, ht, rfl, ho, hb⟩ := hrel
    by_cases hlt : t < j
    · have hx0 : 0 ≤ n / 2 ^ (8 * (t : Int)).toNat % 256 := Int.emod_nonneg _ (by omega)
      have hx1 : n / 2 ^ (8 * (t : Int)).toNat % 256 < 256 := Int.emod_lt_of_pos _ (by omega)
      have hstep : Hid (l ++ OwordB n.toNat t ++ [UInt8.ofNat (n / 2 ^ (8 * (t : Int)).toNat % 256).toNat] = l ++ OwordB n.toNat (t + 1)) := by
        rw [Obyte_at n t h0, show (8 * (t : Int)).toNat = 8 * t from by omega, OwordB, OwordB, List.range_succ, List.map_append, List.append_assoc]
        exact Lib.hid rfl
      have hw : (OwordB n.toNat t).length = t := by simp [OwordB]
      go_wp2_with (at_builtin; refine wpList_app rfl _ _ rfl rfl (ho.alloc _) rfl (Rd.lit1 wr _ hx0 hx1) (by simp; omega) (by have := hb.size; simp; omega) ?_; intro v2 w2 ho2 hg2 hv2)
      go_roundw
      case rel => exact ⟨t + 1, by omega, by go_num, by rw [← hstep.out]; exact ho2, hb.trans (((Below.refl _ _).alloc hb.size _).grown hg2 (by have := hb.size; simp; omega) (fun k hk => (World.ownsRow.lt ho k hk).1))⟩
      case measure => simp [intOf]; omega
    · go_wp2
      go_ret
      obtain rfl : t = j := by omega
      exact OGives.mk ho hb

set_option maxHeartbeats 400000 in
theorem OOwn_any {A : Option Addr} {k c : Nat} {l : List UInt8} (w : World) (hr : Rd w w.heap.size A k c l) (hk : k ≤ 4294967296) :
    Calls Try.prog 10 #[.slice A k c] w (OGives w l) := by
  have hl := hr.len
  go_enter Try.func10, Try.ntmps10
  go_wp2_with (at_builtin; refine wpList_app rfl _ _ rfl rfl (Ow.lit w #[] [] rfl (by simp)) rfl (hr.below ((Below.refl _ _).alloc (Nat.le_refl _) _)) (by simp; omega) (by simp) ?_; intro v2 w2 ho2 hg2 hv2)
  go_ret
  exact OGives.mk ho2 (((Below.refl _ _).alloc (Nat.le_refl _) _).grown hg2 (by simp) (fun g hg => (World.ownsRow.lt (Ow.lit w #[] [] rfl (by simp)) g hg).1))
end Go.Proofs.Ytjaoaikcmbfnmaa
