/- The examples of the chapter: lives. -/
import Derived.Test.YtgpgolegedfjfaaBp
import Derived.Test.YtgpgolegedfjfaaWw
import Derived.Lib.SlBytesConst
namespace Go.Proofs.Ytgpgolegedfjfaa
open Go.RowKit

set_option maxRecDepth 100000 in
theorem abc_L : (sumL [97, 98, 99]).take 8 = [221, 175, 53, 161, 147, 97, 122, 186] := by decide +kernel
set_option maxRecDepth 100000 in
theorem abc_S : (sumS [97, 98, 99]).take 8 = [83, 4, 142, 38, 129, 148, 30, 249] := by decide +kernel
theorem root_two : behindT 2 1 = 7640891576956012808 := by decide +kernel
theorem cube_two : behindT 2 2 = 4794697086780616226 := by decide +kernel

theorem Root_any (n : UInt64) (w : World) : Calls Try.prog 7 #[.int .u64 (n.toNat : Int)] w fun e w' => e = .returned (.int .u64 ((behindT n.toNat 1).toNat : Int)) ∧ Below w.heap.size w w' := by
  have hn := n.toNat_lt
  go_enter Try.func7, Try.ntmps7
  go_wp2_with fail
  refine (behind_any n 1 (by decide) _).mono ?_; rintro e w1 ⟨rfl, hb⟩
  go_wp2
  go_ret
  exact ⟨rfl, hb⟩
theorem Cube_any (n : UInt64) (w : World) : Calls Try.prog 18 #[.int .u64 (n.toNat : Int)] w fun e w' => e = .returned (.int .u64 ((behindT n.toNat 2).toNat : Int)) ∧ Below w.heap.size w w' := by
  have hn := n.toNat_lt
  go_enter Try.func18, Try.ntmps18
  go_wp2_with fail
  refine (behind_any n 2 (by decide) _).mono ?_; rintro e w1 ⟨rfl, hb⟩
  go_wp2
  go_ret
  exact ⟨rfl, hb⟩

/-- A list of one slice. -/
theorem Rl.one {w : World} {n c : Nat} {A : Option Addr} {l : List UInt8} (hr : Rd w w.heap.size A n c l) (hA : ∀ a, A = some a → a.block < w.heap.size) (T : TypeId) :
    Rl (w.alloc (.cells #[.slice A n c] T)) (w.alloc (.cells #[.slice A n c] T)).heap.size (some ⟨w.heap.size, 0, none⟩) 1 [l] := by
  have hb : Below w.heap.size w (w.alloc (.cells #[.slice A n c] T)) := (Below.refl _ _).alloc (Nat.le_refl _) _
  have hs : (w.alloc (.cells #[.slice A n c] T)).heap.size = w.heap.size + 1 := by simp
  refine ⟨rfl, fun j x hx => ?_⟩
  obtain rfl : j = 0 := by
    rcases j with _ | j
    · rfl
    · simp at hx
  simp only [List.getElem?_cons_zero, Option.some.injEq] at hx
  subst hx
  exact ⟨_, A, n, c, rfl, by rw [hs]; exact Nat.lt_succ_self _, (Bk.new w [.slice A n c] T).cell rfl, (hr.below hb).more (by omega), fun a ha => by have := hA a ha; omega⟩

theorem Rd.mark (w : World) : Rd (w.alloc (.cells #[.int .u8 97, .int .u8 98, .int .u8 99] 5 (3, 4))) (w.alloc (.cells #[.int .u8 97, .int .u8 98, .int .u8 99] 5 (3, 4))).heap.size (some ⟨w.heap.size, 0, none⟩) 3 3 [97, 98, 99] :=
  Rd.of_block (l := [97, 98, 99]) (heap_alloc_new w _) (by simp)

theorem list_abc (W : World) : Rl ((W.alloc (.cells #[.int .u8 97, .int .u8 98, .int .u8 99] 5 (3, 4))).alloc (.cells #[.slice (some ⟨W.heap.size, 0, none⟩) 3 3] 31)) ((W.alloc (.cells #[.int .u8 97, .int .u8 98, .int .u8 99] 5 (3, 4))).alloc (.cells #[.slice (some ⟨W.heap.size, 0, none⟩) 3 3] 31)).heap.size (some ⟨W.heap.size + 1, 0, none⟩) 1 [[97, 98, 99]] := by
  have := Rl.one (Rd.mark W) (fun a ha => by injection ha with ha; subst ha; simp) 31
  rwa [show (W.alloc (.cells #[.int .u8 97, .int .u8 98, .int .u8 99] 5 (3, 4))).heap.size = W.heap.size + 1 from by simp] at this
theorem Bk.rd {w : World} {g n : Nat} {l : List UInt8} (h : Bk w g (cs8 l)) (hn : l.length = n) : Rd w w.heap.size (some ⟨g, 0, none⟩) n n l := by
  have := h.lt
  obtain ⟨t, h⟩ := h
  have := Rd.of_block (l := l) (top := w.heap.size) h this
  rwa [hn] at this
theorem sumL_length (l : List UInt8) : (sumL l).length = 64 := by rw [sumL, sumOf, signs_length, eat_length _ _ _ _ startL_length]
theorem sumS_length (l : List UInt8) : (sumS l).length = 32 := by rw [sumS, sumOf, List.length_take, signs_length, eat_length _ _ _ _ startS_length]; rfl
theorem abcL_any : ∃ S : List UInt8, S.take 8 = [221, 175, 53, 161, 147, 97, 122, 186] ∧ S.length = 64 ∧ ∀ (w : World) (B : Option Addr) (c : Nat), Rl w w.heap.size B 1 [[97, 98, 99]] → Calls Try.prog 11 #[.slice B 1 c] w fun e w' => e = .returned (.agg (cs8 S).toArray) ∧ Below w.heap.size w w' :=
  by
  refine ⟨sumL [97, 98, 99], abc_L, sumL_length _, fun w B c h => ?_⟩
  have hf : ([[97, 98, 99]] : List (List UInt8)).flatten = [97, 98, 99] := rfl
  have := Sum512_any (c := c) w h (by omega) (by rw [hf]; decide)
  rw [hf] at this
  exact this
theorem abcS_any : ∃ S : List UInt8, S.take 8 = [83, 4, 142, 38, 129, 148, 30, 249] ∧ S.length = 32 ∧ ∀ (w : World) (B : Option Addr) (c : Nat), Rl w w.heap.size B 1 [[97, 98, 99]] → Calls Try.prog 12 #[.slice B 1 c] w fun e w' => e = .returned (.agg (cs8 S).toArray) ∧ Below w.heap.size w w' :=
  by
  refine ⟨sumS [97, 98, 99], abc_S, sumS_length _, fun w B c h => ?_⟩
  have hf : ([[97, 98, 99]] : List (List UInt8)).flatten = [97, 98, 99] := rfl
  have := Sum_any (c := c) w h (by omega) (by rw [hf]; decide)
  rw [hf] at this
  exact this
theorem Root_two (w : World) : Calls Try.prog 7 #[.int .u64 2] w fun e w' => e = .returned (.int .u64 7640891576956012808) ∧ Below w.heap.size w w' := by
  have := Root_any 2 w
  rw [show ((2 : UInt64).toNat) = 2 from rfl, root_two] at this
  exact this
theorem Cube_two (w : World) : Calls Try.prog 18 #[.int .u64 2] w fun e w' => e = .returned (.int .u64 4794697086780616226) ∧ Below w.heap.size w w' := by
  have := Cube_any 2 w
  rw [show ((2 : UInt64).toNat) = 2 from rfl, cube_two] at this
  exact this

set_option maxHeartbeats 800000 in
theorem lives_any (w : World) : Calls Try.prog 6 #[] w fun e w' => e = .returned (.bool true) ∧ Below w.heap.size w w' := by
  have hcv := fun W : World => Lib.run_convert_bytes_const W 31 5 #[.int .u8 97, .int .u8 98, .int .u8 99] 3 3 Try.underlying31 Try.underlying5
  simp only [List.size_toArray, List.length_cons, List.length_nil, Nat.zero_add, Nat.reduceAdd] at hcv
  have HL1 := Lib.hid (list_abc w)
  obtain ⟨SL, hSL, hSLl, HSL⟩ := abcL_any
  obtain ⟨SS, hSS, hSSl, HSS⟩ := abcS_any
  have HAL := Lib.hid HSL
  have HAS := Lib.hid HSS
  have HL8 := Lib.hid hSL
  have HS8 := Lib.hid hSS
  have HLL := Lib.hid (show (cs8 SL).length = 64 by rw [cs8_length, hSLl])
  have HSSL := Lib.hid (show (cs8 SS).length = 32 by rw [cs8_length, hSSl])
  clear HSL HSS hSL hSS hSLl hSSl
  go_enter Try.func6, Try.ntmps6
  go_wp2_with fail
  refine (HAL.out _ _ _ HL1.out).mono ?_; rintro e w2 ⟨rfl, hb2⟩
  have HB2 := Lib.hid (bl_call (bl_alloc (bl_alloc (bl0 w) _) _) hb2)
  have HL2 := Lib.hid (list_abc w2)
  clear hb2 HL1
  go_wp2_with fail
  refine (HAS.out _ _ _ HL2.out).mono ?_; rintro e w3 ⟨rfl, hb3⟩
  have HB3 := Lib.hid (bl_call (bl_alloc (bl_alloc HB2.out _) _) hb3)
  clear hb3 HL2 HB2
  have HZ1 := Lib.hid ((Bk.new w3 z33 33).old (.cells z36.toArray 36))
  have HZ2 : Hid (Bk (((w3.alloc (.cells z33.toArray 33)).alloc (.cells z36.toArray 36)).setRow w3.heap.size (cs8 SL).toArray) (w3.heap.size + 1) z36) := Lib.hid (by
    have := Bk.new (w3.alloc (.cells z33.toArray 33)) z36 36
    rw [show (w3.alloc (.cells z33.toArray 33)).heap.size = w3.heap.size + 1 from by simp] at this
    exact this.other (by omega) _)
  have HW1 := Lib.hid ((HZ1.out.setRow (cs8 SL)).other (show w3.heap.size ≠ w3.heap.size + 1 by omega) (cs8 SS).toArray)
  have HW2 := Lib.hid (HZ2.out.setRow (cs8 SS))
  have HB4 := Lib.hid (bl_setRow (bl_setRow (bl_alloc (bl_alloc HB3.out (.cells z33.toArray 33)) (.cells z36.toArray 36)) HB3.out.size (cs8 SL).toArray) (show w.heap.size ≤ w3.heap.size + 1 by have := HB3.out.size; omega) (cs8 SS).toArray)
  have hsl1 := run_slice_hi (g := w3.heap.size) Try.underlying33 (show 8 ≤ 64 by decide) (by decide)
  have hsl2 := run_slice_hi (g := w3.heap.size + 1) Try.underlying36 (show 8 ≤ 32 by decide) (by decide)
  have hcs1 := run_str ((HW1.out.rd (n := 64) (by have := HLL.out; rwa [cs8_length] at this)).take_ (k := 8) (by omega))
  have hcs2 := run_str ((HW2.out.rd (n := 32) (by have := HSSL.out; rwa [cs8_length] at this)).take_ (k := 8) (by omega))
  rw [HL8.out] at hcs1
  rw [HS8.out] at hcs2
  go_wp2_with (first | (refine wpList_alloc_z rfl 33 rfl z33 zero33 ?_) | (refine wpList_alloc_z rfl 36 rfl z36 zero36 ?_) | (refine wpList_store_bk rfl 33 _ _ rfl w3.heap.size rfl (cs8 SL) z33 rfl HZ1.out (by rw [HLL.out]; exact info33) (by rw [HLL.out]; exact len_z33) (cs8_all _) ?_) | (refine wpList_store_bk rfl 36 _ _ rfl (w3.alloc (.cells z33.toArray 33)).heap.size rfl (cs8 SS) z36 rfl (by rw [show (w3.alloc (.cells z33.toArray 33)).heap.size = w3.heap.size + 1 from by simp]; exact HZ2.out) (by rw [HSSL.out]; exact info36) (by rw [HSSL.out]; exact len_z36) (cs8_all _) ?_))
  refine (Root_two _).mono ?_; rintro e w5 ⟨rfl, hb5⟩
  have HB5 := Lib.hid (bl_call HB4.out hb5)
  go_wp2_with fail
  refine (Cube_two _).mono ?_; rintro e w6 ⟨rfl, hb6⟩
  have HB6 := Lib.hid (bl_call HB5.out hb6)
  go_wp2
  go_ret
  exact ⟨rfl, HB6.out⟩
end Go.Proofs.Ytgpgolegedfjfaa
