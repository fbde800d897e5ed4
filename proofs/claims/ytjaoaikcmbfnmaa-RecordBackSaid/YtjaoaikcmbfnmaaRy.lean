/- record: Read. -/
import Derived.Test.YtjaoaikcmbfnmaaRx
namespace Go.Proofs.Ytjaoaikcmbfnmaa
set_option maxRecDepth 8192
set_option linter.unusedSimpArgs false
set_option linter.unusedVariables false
open Go.RowKit

/-- Read has read a record. -/
def ReadOk (w : World) (S : List UInt8) (k : UInt8) (d : List UInt8) (sz : Nat) (e : Ending) (w' : World) : Prop :=
  ∃ A n c, e = .returned (.tuple #[.agg #[.int .u8 (k.toNat : Int), .slice A n c], .int .i64 (sz : Int), .agg (cs8 S).toArray, .int .i64 0]) ∧ Ow w' w.heap.size (.slice A n c) d ∧ Below w.heap.size w w'
/-- Read has read none. -/
def ReadBad (w : World) (err : Int) (e : Ending) (w' : World) : Prop :=
  e = .returned (.tuple #[.agg #[.int .u8 0, .slice none 0 0], .int .i64 0, .agg z36.toArray, .int .i64 err]) ∧ Below w.heap.size w w'

/-- What lies behind the blocks that Read lays first. -/
structure Laid3 (w w1 : World) (C : List UInt8) : Prop where
  bel : Below w.heap.size w w1
  c : Bk w1 w.heap.size (cs8 C)
  r : Bk w1 (w.heap.size + 1) z31
  d : Bk w1 (w.heap.size + 1 + 1) z36
theorem Laid3.mk0 (w : World) (C : List UInt8) : Laid3 w (((w.alloc (.cells (cs8 C).toArray 23)).alloc (.cells #[.int .u8 0, .slice none 0 0] 31)).alloc (.cells z36.toArray 23)) C := by
  refine ⟨bl_alloc (bl_alloc (bl_alloc (bl0 w) _) _) _, ((Bk.new w (cs8 C) 23).old _).old _, ?_, ?_⟩
  · have := (Bk.new (w.alloc (.cells (cs8 C).toArray 23)) z31 31).old (.cells z36.toArray 23)
    rwa [show (w.alloc (.cells (cs8 C).toArray 23)).heap.size = w.heap.size + 1 from by simp] at this
  · have := Bk.new ((w.alloc (.cells (cs8 C).toArray 23)).alloc (.cells #[.int .u8 0, .slice none 0 0] 31)) z36 23
    simpa using this
theorem Laid3.keep {w w1 w2 : World} {C : List UInt8} (h : Laid3 w w1 C) (hb : Below w1.heap.size w1 w2) : Laid3 w w2 C := ⟨bl_call h.bel hb, h.c.keep hb, h.r.keep hb, h.d.keep hb⟩
theorem Laid3.lt {w w1 : World} {C : List UInt8} (h : Laid3 w w1 C) : w.heap.size + 1 + 1 < w1.heap.size := h.d.lt
theorem Laid3.only {w w1 w2 : World} {g : Nat} {C : List UInt8} (h : Laid3 w w1 C) (hO : Only g w1 w2) (hg : w.heap.size + 1 + 1 < g) : Laid3 w w2 C :=
  ⟨h.bel.trans (hO.below (by omega) h.bel.size), Sk.only h.c hO (by omega), Sk.only h.r hO (by omega), Sk.only h.d hO (by omega)⟩

set_option maxHeartbeats 1600000 in
theorem Read_bad1 {A : Option Addr} {n c : Nat} {C l : List UInt8} (w : World) (hr : Rd w w.heap.size A n c l) (hn : n ≤ 1073741824) (h : (parse l).err ≠ 0) :
    Calls Try.prog 9 #[.agg (cs8 C).toArray, .slice A n c] w (ReadBad w (parse l).err) := by
  have HR := Lib.hid hr
  have hln := hr.len
  have HP := Lib.hid (fun (W : World) (g : Nat) (k : Rdr W g l 0) => parts_bad W k (by omega) h)
  have hne : ((parse l).err == 0) = false := by rw [beq_eq_false_iff_ne]; exact h
  generalize (parse l).err = E at HP hne ⊢
  have HL := Lib.hid (Laid3.mk0 w C)
  clear hr h hln
  go_enter Try.func9, Try.ntmps9
  go_wp2_with (refine wpList_alloc_z rfl 23 rfl z36 zero36 ?_)
  generalize (((w.alloc (.cells (cs8 C).toArray 23)).alloc (.cells #[.int .u8 0, .slice none 0 0] 31)).alloc (.cells z36.toArray 23)) = w1 at HL ⊢
  refine (Read_any w1 (HR.out.top HL.out.bel) (by omega)).mono ?_; rintro e w2 ⟨g, rfl, hg, hRd, hb⟩
  have HL2 := Lib.hid (HL.out.keep hb)
  have hlt := HL.out.lt
  clear hb HL
  go_wp2_with fail
  refine (HP.out _ _ hRd).mono ?_; rintro e w3 ⟨k3, A3, n3, c3, v3, rfl, hO3⟩
  have HL3 := Lib.hid (HL2.out.only hO3 (by omega))
  clear hO3 HL2 hRd
  have hlt3 := HL3.out.lt
  have HL4 := Lib.hid (HL3.out.keep (bl_alloc (bl0 w3) (.cells #[.int .u8 k3, .slice A3 n3 c3] 31)))
  have hc0 := HL4.out.r.cell (k := 0) rfl
  have hc1 := HL4.out.r.cell (k := 1) rfl
  have hf0 := HL4.out.r.frozen 0
  have hf1 := HL4.out.r.frozen 1
  have hs1 := (Only.set (w3.alloc (.cells #[.int .u8 k3, .slice A3 n3 c3] 31)) 0 (.int .u8 0) (g := w.heap.size + 1)).trans (Only.set _ 1 (.slice none 0 0))
  have HZ5 := Lib.hid (Sk.only HL4.out.d hs1 (by omega))
  have HR5 := Lib.hid ((HL4.out.r.setCell 0 (.int .u8 0)).setCell 1 (.slice none 0 0))
  have HB5 := Lib.hid (bl_only HL4.out.bel hs1 (by omega))
  clear hs1
  go_wp2_with (first | (refine wpList_store_bk rfl 23 _ _ rfl (w.heap.size + 1 + 1) rfl z36 z36 rfl HZ5.out (by kernel_rfl) rfl all_z36 ?_))
  refine ret_ctct rfl rfl rfl (load_bk (cs := [.int .u8 0, .slice none 0 0]) (HR5.out.other (by omega) _) Try.underlying31 rfl info31) rfl (load_bk (HZ5.out.setRow z36) Try.underlying23 rfl (by kernel_rfl)) ⟨rfl, bl_setRow HB5.out (by omega) _⟩

/-- What lies when the chain behind a part has been reckoned. -/
structure Laid5 (w w1 : World) (C S : List UInt8) (k : UInt8) (A : Option Addr) (n c : Nat) (b9 b12 : Nat) : Prop where
  l : Laid3 w w1 C
  p : Bk w1 b9 [.int .u8 (k.toNat : Int), .slice A n c]
  s : Bk w1 b12 (cs8 S)
  hp : w.heap.size + 1 + 1 < b9
  hs : b9 < b12
theorem Laid5.keep {w w1 w2 : World} {C S : List UInt8} {k : UInt8} {A : Option Addr} {n c b9 b12 : Nat} (h : Laid5 w w1 C S k A n c b9 b12) (hb : Below w1.heap.size w1 w2) : Laid5 w w2 C S k A n c b9 b12 :=
  ⟨h.l.keep hb, h.p.keep hb, h.s.keep hb, h.hp, h.hs⟩

set_option maxHeartbeats 1600000 in
theorem Read_bad2 {A : Option Addr} {n c : Nat} {C l : List UInt8} (w : World) (hC : C.length = 32) (hr : Rd w w.heap.size A n c l) (hn : n ≤ 1073741824) (h : (parse l).err = 0) (ht : (parse l).told ≠ (nextR C (parse l).kind (parse l).data).take 8) :
    Calls Try.prog 9 #[.agg (cs8 C).toArray, .slice A n c] w (ReadBad w 4) := by
  have HR := Lib.hid hr
  have hln := hr.len
  have HP := Lib.hid (fun (W : World) (g : Nat) (k : Rdr W g l 0) => parts_ok W k (by omega) h)
  have hpb := parse_back l h
  have hd8 := hpb.2.1.2
  have HL := Lib.hid (Laid3.mk0 w C)
  generalize parse l = p at HP ht hd8
  obtain ⟨k, d, s, t, err⟩ := p
  simp only at HP ht hd8
  have HN := Lib.hid (fun (W : World) (B : Option Addr) (m q : Nat) (hh : Rd W W.heap.size B m q d) => Next_any k W hC hh (by have := hh.len; omega))
  have HC8 := Lib.hid (show (cs8 C).length = 32 by rw [cs8_length, hC])
  have HS8 := Lib.hid (show (cs8 (nextR C k d)).length = 32 by rw [cs8_length, nextR_length])
  have HSL := Lib.hid (nextR_length C k d)
  have HT := Lib.hid ht
  generalize nextR C k d = S at HN HS8 HSL HT
  clear hr h hln ht hpb hC
  go_enter Try.func9, Try.ntmps9
  go_wp2_with (refine wpList_alloc_z rfl 23 rfl z36 zero36 ?_)
  generalize (((w.alloc (.cells (cs8 C).toArray 23)).alloc (.cells #[.int .u8 0, .slice none 0 0] 31)).alloc (.cells z36.toArray 23)) = w1 at HL ⊢
  refine (Read_any w1 (HR.out.top HL.out.bel) (by omega)).mono ?_; rintro e w2 ⟨g, rfl, hg, hRd, hb⟩
  have HL2 := Lib.hid (HL.out.keep hb)
  have hlt := HL.out.lt
  clear hb HL
  go_wp2_with fail
  refine (HP.out _ _ hRd).mono ?_; rintro e w3 ⟨A3, n3, c3, v3, rfl, hD3, hT3, hR3, hO3⟩
  have HL3 := Lib.hid (HL2.out.only hO3 (by omega))
  have hlt3 := HL3.out.lt
  obtain ⟨A4, c4, rfl, hr4⟩ := hT3.rdN rfl
  obtain ⟨A5, c5, e5, hr5⟩ := hD3.rdN rfl
  injection e5 with e51 e52 e53
  subst e51 e52 e53
  have HL4 := Lib.hid (HL3.out.keep (bl_alloc (bl0 w3) (.cells #[.int .u8 (k.toNat : Int), .slice A3 d.length c3] 31)))
  have HB4 := Lib.hid (Bk.new w3 [.int .u8 (k.toNat : Int), .slice A3 d.length c3] 31)
  have HT4 := Lib.hid (hr4.top (bl_alloc (bl0 w3) (.cells #[.int .u8 (k.toNat : Int), .slice A3 d.length c3] 31)))
  have HD4 := Lib.hid (hr5.top (bl_alloc (bl0 w3) (.cells #[.int .u8 (k.toNat : Int), .slice A3 d.length c3] 31)))
  clear hO3 HL2 hRd HL3 hD3 hT3 hr4 hr5 hR3
  go_wp2_with (first | (refine wpList_load_at rfl 23 _ rfl ⟨w.heap.size, 0, none⟩ rfl (cs8 C) _ HL4.out.c.at_ Try.underlying23 rfl (by rw [HC8.out]; exact info36) ?_))
  generalize hw4 : w3.alloc (.cells #[.int .u8 (k.toNat : Int), .slice A3 d.length c3] 31) = w4 at HL4 HB4 HT4 HD4 ⊢
  generalize w3.heap.size = b9 at hlt3 HB4 ⊢
  clear hw4
  refine (HN.out _ _ _ _ HD4.out).mono ?_; rintro e w5 ⟨rfl, hb⟩
  have HL5 := Lib.hid (HL4.out.keep hb)
  have HB5 := Lib.hid (HB4.out.keep hb)
  have HT5 := Lib.hid (HT4.out.top hb)
  clear hb HL4 HB4 HT4 HD4
  have hN6 := Lib.hid (Bk.new w5 z36 23)
  have hL6 := Lib.hid (hN6.out.setRow (cs8 S))
  have hbb : Below w5.heap.size w5 ((w5.alloc (.cells z36.toArray 23)).setRow w5.heap.size (cs8 S).toArray) := bl_setRow (bl_alloc (bl0 w5) _) (Nat.le_refl _) _
  have HL6 := Lib.hid (HL5.out.keep hbb)
  have HT6 := Lib.hid (HT5.out.top hbb)
  have hb56 := HB5.out.lt
  have hsl := run_slice_hi (g := w5.heap.size) Try.underlying23 (show 8 ≤ 32 by decide) (by decide)
  clear hbb HL5 HT5 HB5
  go_wp2_with (first | (refine wpList_alloc_z rfl 23 rfl z36 zero36 ?_) | (refine wpList_store_bk rfl 23 _ _ rfl w5.heap.size rfl (cs8 S) z36 rfl hN6.out (by rw [HS8.out]; exact info36) (by rw [HS8.out]; exact len_z36) (cs8_all _) ?_))
  generalize (w5.alloc (.cells z36.toArray 23)).setRow w5.heap.size (cs8 S).toArray = w6 at hL6 HL6 HT6 ⊢
  generalize w5.heap.size = b12 at hb56 hL6 hsl ⊢
  refine (Equal_no w6 HT6.out ((hL6.out.sl HSL.out).rd.take_ (k := 8) (by decide)) HT.out).mono ?_; rintro e w' ⟨rfl, rfl⟩
  have hlt6 := HL6.out.lt
  have hc0 := HL6.out.r.cell (k := 0) rfl
  have hc1 := HL6.out.r.cell (k := 1) rfl
  have hf0 := HL6.out.r.frozen 0
  have hf1 := HL6.out.r.frozen 1
  have hs1 := (Only.set w6 0 (.int .u8 0) (g := w.heap.size + 1)).trans (Only.set _ 1 (.slice none 0 0))
  have HZ7 := Lib.hid (Sk.only HL6.out.d hs1 (by omega))
  have HR7 := Lib.hid ((HL6.out.r.setCell 0 (.int .u8 0)).setCell 1 (.slice none 0 0))
  have HB7 := Lib.hid (bl_only HL6.out.bel hs1 (by omega))
  clear hs1 hsl
  go_wp2_with (first | (refine wpList_store_bk rfl 23 _ _ rfl (w.heap.size + 1 + 1) rfl z36 z36 rfl HZ7.out (by kernel_rfl) rfl all_z36 ?_))
  refine ret_ctct rfl rfl rfl (load_bk (cs := [.int .u8 0, .slice none 0 0]) (HR7.out.other (by omega) _) Try.underlying31 rfl info31) rfl (load_bk (HZ7.out.setRow z36) Try.underlying23 rfl (by kernel_rfl)) ⟨rfl, bl_setRow HB7.out (by omega) _⟩
end Go.Proofs.Ytjaoaikcmbfnmaa
