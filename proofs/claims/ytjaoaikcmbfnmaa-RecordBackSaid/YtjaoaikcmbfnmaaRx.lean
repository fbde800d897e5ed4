/- record: readParts. -/
import Derived.Test.YtjaoaikcmbfnmaaRu
namespace Go.Proofs.Ytjaoaikcmbfnmaa
set_option maxRecDepth 8192
set_option linter.unusedSimpArgs false
set_option linter.unusedVariables false
open Go.RowKit

def z31 : List Value := [.int .u8 0, .slice none 0 0]
theorem zero31 (w : World) : (zeroValue 31).run Try.prog w = .ok (.agg z31.toArray) w := zero_of (by kernel_rfl) w
theorem built31 : Try.prog.built 31 [] = some z31.toArray := by kernel_rfl
theorem built31_two (k : Int) (A : Option Addr) (n c : Nat) : Try.prog.built 31 [(0, .int .u8 k), (1, .slice A n c)] = some #[.int .u8 k, .slice A n c] := by kernel_rfl
theorem all_z31 : z31.toArray.all (·.oneCell') = true := by decide +kernel
theorem Ow.only {w w' : World} {base g : Nat} {v : Value} {l : List UInt8} (h : Ow w base v l) (ho : Only g w w') (hg : g < base) : Ow w' base v l :=
  World.ownsRow.kept h ho (Or.inr (fun e => by have := (World.ownsRow.lt h _ e).1; omega))

/-- readParts has read a part. -/
def PartOk (w : World) (g : Nat) (p : Part) (e : Ending) (w' : World) : Prop :=
  ∃ A n c v2, e = .returned (.tuple #[.agg #[.int .u8 (p.kind.toNat : Int), .slice A n c], v2, .int .i64 0]) ∧ Ow w' w.heap.size (.slice A n c) p.data ∧ Ow w' w.heap.size v2 p.told ∧ Rdr w' g p.rest 0 ∧ Only g w w'
/-- It has read none. -/
def PartBad (w : World) (g : Nat) (err : Int) (e : Ending) (w' : World) : Prop :=
  ∃ k A n c v2, e = .returned (.tuple #[.agg #[.int .u8 k, .slice A n c], v2, .int .i64 err]) ∧ Only g w w'

theorem Rdr.old {w : World} {g : Nat} {l : List UInt8} {e : Int} (h : Rdr w g l e) (o : Obj) : Rdr (w.alloc o) g l e := h.below (bl_alloc (bl0 w) o)
theorem Only.alloc {w w' : World} {g : Nat} (h : Only g w w') (o : Obj) : Only g w (w'.alloc o) := h.trans (Only.of_below (bl_alloc (bl0 w') o))

theorem Only.tb {w w1 w2 : World} {g B : Nat} (h : Only g w w1) (k : Below B w1 w2) (hB : w.heap.size ≤ B) : Only g w w2 :=
  ⟨k.os.trans h.os, k.tape.trans h.tape, k.output.trans h.output, Nat.le_trans h.size k.size, fun i hi hne => (k.block i (by omega)).trans (h.block i hi hne)⟩
theorem tk_len2 (n : Nat) (l : List UInt8) (e : Int) : (tk n l e).2.1.length ≤ l.length := by
  unfold tk
  split
  · split
    · simp
    · exact Nat.le_refl _
  · exact Nat.le_refl _
theorem Rdr.only {w w' : World} {g b : Nat} {l : List UInt8} {e : Int} (h : Rdr w g l e) (ho : Only b w w') (hb : g < b) : Rdr w' g l e := by
  have hlt := h.lt
  obtain ⟨A, n, c, hg, hr⟩ := h
  exact ⟨A, n, c, (ho.block g hlt (fun e => by injection e; omega)).trans hg, hr.only ho (by omega) (by omega)⟩
theorem tk1_nil : tk (wordLen 1) [] 0 = ([], [], 5) := rfl
theorem tk1_cons (u : UInt8) (t : List UInt8) : tk (wordLen 1) (u :: t) 0 = ([u], t, 0) := by
  rw [show wordLen 1 = 1 from rfl, tk, if_pos rfl, if_pos (by simp)]
  rfl
theorem RWord_nil {w : World} {g : Nat} (h : Rdr w g [] 0) : Calls Try.prog 35 #[.pointer (some ⟨g, 0, none⟩), .int .i64 1] w (Left w g (.int .u64 0) [] 5) := RWord_any h 1 (by decide)
theorem RWord_cons {w : World} {g : Nat} {u : UInt8} {t : List UInt8} (h : Rdr w g (u :: t) 0) (hl : (u :: t).length ≤ 4294967296) : Calls Try.prog 35 #[.pointer (some ⟨g, 0, none⟩), .int .i64 1] w (Left w g (.int .u64 (u.toNat : Int)) t 0) := by
  have := RWord_any h 1 hl
  rw [tk1_cons] at this
  exact this
theorem RNumber_bad {w : World} {g : Nat} (h : Rdr w g [] 5) : Calls Try.prog 37 #[.pointer (some ⟨g, 0, none⟩)] w (Left w g (.int .u64 0) [] 5) := RNumber_any h (by decide)
theorem RTake_bad {w : World} {g : Nat} (h : Rdr w g [] 5) (n : Int) (hn : n ≤ 9223372036854775807) : Calls Try.prog 38 #[.pointer (some ⟨g, 0, none⟩), .int .i64 n] w (Gave w g ([], [], 5)) := by
  have := RTake_any h n hn (by decide)
  rwa [show tk n.toNat [] 5 = ([], [], 5) from rfl] at this

set_option maxHeartbeats 1600000 in
theorem parts_nil {g : Nat} (w : World) (hR : Rdr w g [] 0) : Calls Try.prog 25 #[.pointer (some ⟨g, 0, none⟩)] w (PartBad w g 5) := by
  have HR := Lib.hid hR
  clear hR
  have hZ1 := Lib.hid (Bk.new w z31 31)
  have hR1 := Lib.hid (HR.out.old (.cells z31.toArray 31))
  have hO1 := Lib.hid ((Only.refl g w).alloc (.cells z31.toArray 31))
  have hz1 : w.heap.size < (w.alloc (.cells z31.toArray 31)).heap.size := by simp
  have hgl := HR.out.lt
  go_enter Try.func25, Try.ntmps25
  go_wp2_with (refine wpList_alloc_z rfl 31 rfl z31 zero31 ?_)
  generalize w.alloc (.cells z31.toArray 31) = w1 at hZ1 hR1 hO1 hz1 ⊢
  refine (RWord_nil hR1.out).mono ?_; rintro e w2 ⟨rfl, hR2, hO2⟩
  go_wp2_with fail
  refine (Err_any hR2).mono ?_; rintro e w' ⟨rfl, rfl⟩
  go_wp2_with fail
  refine (RNumber_bad hR2).mono ?_; rintro e w3 ⟨rfl, hR3, hO3⟩
  go_wp2_with fail
  refine (RTake_bad hR3 _ (by decide)).mono ?_; rintro e w4 ⟨v4, rfl, ho4, hR4, hO4⟩
  obtain ⟨A4, c4, rfl, _⟩ := ho4.rdN (n := 0) rfl
  clear ho4
  go_wp2_with fail
  refine (RTake_bad hR4 8 (by decide)).mono ?_; rintro e w5 ⟨v5, rfl, ho5, hR5, hO5⟩
  have hO5' := Lib.hid (hO2.trans (hO3.trans (hO4.trans hO5)))
  have hZ5 : Hid (Bk w5 w.heap.size z31) := Lib.hid (by
    obtain ⟨t, h⟩ := hZ1.out
    exact ⟨t, (hO5'.out.block w.heap.size hz1 (fun e => by injection e with e; omega)).trans h⟩)
  clear ho5 hO2 hO3 hO4 hO5 hZ1
  have hz5 := hZ5.out.lt
  go_wp2_with (first | (refine wpList_build rfl 31 _ rfl _ (built31_two _ _ _ _) ?_))
  refine (Err_any hR5).mono ?_; rintro e w' ⟨rfl, rfl⟩
  have hc0 := hZ5.out.cell (k := 0) rfl
  have hc1 := hZ5.out.cell (k := 1) rfl
  have hf0 := hZ5.out.frozen 0
  have hf1 := hZ5.out.frozen 1
  go_wp2
  refine ret_ctt (v := .agg #[.int .u8 0, .slice A4 0 c4]) rfl rfl rfl (load_bk (cs := [.int .u8 0, .slice A4 0 c4]) ((hZ5.out.setCell 0 _).setCell 1 _) Try.underlying31 rfl info31) ⟨_, _, _, _, _, rfl, ?_⟩
  exact (hO1.out.trans hO5'.out).tb (((Below.refl w.heap.size w5).setCell (Nat.le_refl _) _).setCell (Nat.le_refl _) _) (Nat.le_refl _)

theorem Part.eta (p : Part) : p = ⟨p.kind, p.data, p.told, p.rest, p.err⟩ := by cases p; rfl
theorem Sk.only {w w' : World} {g b : Nat} {cs : List Value} (h : Bk w b cs) (ho : Only g w w') (hne : b ≠ g) : Bk w' b cs := by
  have hl := h.lt
  obtain ⟨t, h⟩ := h
  exact ⟨t, (ho.block b hl (fun e => by injection e; omega)).trans h⟩

set_option maxHeartbeats 1600000 in
theorem parts_zero {g : Nat} {t : List UInt8} (w : World) (hR : Rdr w g (0 :: t) 0) (hl : (0 :: t).length ≤ 4294967296) : Calls Try.prog 25 #[.pointer (some ⟨g, 0, none⟩)] w (PartBad w g 4) := by
  have HR := Lib.hid hR
  have HL := Lib.hid hl
  clear hR hl
  have hZ1 := Lib.hid (Bk.new w z31 31)
  have hR1 := Lib.hid (HR.out.old (.cells z31.toArray 31))
  have hO1 := Lib.hid ((Only.refl g w).alloc (.cells z31.toArray 31))
  have hz1 : w.heap.size < (w.alloc (.cells z31.toArray 31)).heap.size := by simp
  have hgl := HR.out.lt
  go_enter Try.func25, Try.ntmps25
  go_wp2_with (refine wpList_alloc_z rfl 31 rfl z31 zero31 ?_)
  generalize w.alloc (.cells z31.toArray 31) = w1 at hZ1 hR1 hO1 hz1 ⊢
  refine (RWord_cons hR1.out HL.out).mono ?_; rintro e w2 ⟨rfl, hR2, hO2⟩
  have hZ2 := Lib.hid (Sk.only hZ1.out hO2 (by omega))
  have hO2' := Lib.hid hO2
  clear hO2 hZ1
  rw [show ((0 : UInt8).toNat : Int) = 0 from rfl]
  go_wp2_with fail
  refine (Err_any hR2).mono ?_; rintro e w' ⟨rfl, rfl⟩
  have hc0 := hZ2.out.cell (k := 0) rfl
  have hc1 := hZ2.out.cell (k := 1) rfl
  have hf0 := hZ2.out.frozen 0
  have hf1 := hZ2.out.frozen 1
  go_wp2_with (refine wpList_build rfl 31 _ rfl _ built31 ?_)
  refine ret_ctt (v := .agg #[.int .u8 0, .slice none 0 0]) rfl rfl rfl (load_bk (cs := [.int .u8 0, .slice none 0 0]) ((hZ2.out.setCell 0 _).setCell 1 _) Try.underlying31 rfl info31) ⟨_, _, _, _, _, rfl, ?_⟩
  exact (hO1.out.trans hO2'.out).tb (((Below.refl w.heap.size w2).setCell (Nat.le_refl _) _).setCell (Nat.le_refl _) _) (Nat.le_refl _)

set_option maxHeartbeats 1600000 in
theorem parts_big {g : Nat} {u : UInt8} {t : List UInt8} (w : World) (hR : Rdr w g (u :: t) 0) (hl : (u :: t).length ≤ 4294967296) (hu : u ≠ 0) (hN : 8192 < (rdNum t 0).1) : Calls Try.prog 25 #[.pointer (some ⟨g, 0, none⟩)] w (PartBad w g 4) := by
  have HR := Lib.hid hR
  have HL := Lib.hid hl
  have hk := k_ne hu
  have hub := u.toNat_lt
  have HM := Lib.hid (fun (W : World) (h : Rdr W g t 0) => RNumber_any h (by simp at hl; omega))
  have hlt := rdNum_lt t 0
  clear hR hl hu
  generalize rdNum t 0 = q at hN HM hlt
  obtain ⟨M, l1, e1⟩ := q
  simp only at hN HM hlt
  have hZ1 := Lib.hid (Bk.new w z31 31)
  have hR1 := Lib.hid (HR.out.old (.cells z31.toArray 31))
  have hO1 := Lib.hid ((Only.refl g w).alloc (.cells z31.toArray 31))
  have hz1 : w.heap.size < (w.alloc (.cells z31.toArray 31)).heap.size := by simp
  have hgl := HR.out.lt
  go_enter Try.func25, Try.ntmps25
  go_wp2_with (refine wpList_alloc_z rfl 31 rfl z31 zero31 ?_)
  generalize w.alloc (.cells z31.toArray 31) = w1 at hZ1 hR1 hO1 hz1 ⊢
  refine (RWord_cons hR1.out HL.out).mono ?_; rintro e w2 ⟨rfl, hR2, hO2⟩
  have hZ2 := Lib.hid (Sk.only hZ1.out hO2 (by omega))
  have hO2' := Lib.hid hO2
  have hz2 := hO2.size
  clear hO2 hZ1
  go_wp2_with fail
  refine (Err_any hR2).mono ?_; rintro e w' ⟨rfl, rfl⟩
  go_wp2_with fail
  refine (HM.out _ hR2).mono ?_; rintro e w3 ⟨rfl, hR3, hO3⟩
  have hZ3 := Lib.hid (Sk.only hZ2.out hO3 (by omega))
  have hO3' := Lib.hid (hO2'.out.trans hO3)
  clear hO3 hZ2 hO2'
  have hc0 := hZ3.out.cell (k := 0) rfl
  have hc1 := hZ3.out.cell (k := 1) rfl
  have hf0 := hZ3.out.frozen 0
  have hf1 := hZ3.out.frozen 1
  go_wp2_with (refine wpList_build rfl 31 _ rfl _ built31 ?_)
  refine ret_ctt (v := .agg #[.int .u8 0, .slice none 0 0]) rfl rfl rfl (load_bk (cs := [.int .u8 0, .slice none 0 0]) ((hZ3.out.setCell 0 _).setCell 1 _) Try.underlying31 rfl info31) ⟨_, _, _, _, _, rfl, ?_⟩
  exact (hO1.out.trans hO3'.out).tb (((Below.refl w.heap.size w3).setCell (Nat.le_refl _) _).setCell (Nat.le_refl _) _) (Nat.le_refl _)

/-- readParts has gone along all of a part. -/
def PartAll (w : World) (g : Nat) (u : UInt8) (d s l3 : List UInt8) (e3 : Int) (e : Ending) (w' : World) : Prop :=
  ∃ A n c v2, e = .returned (.tuple #[.agg #[.int .u8 (u.toNat : Int), .slice A n c], v2, .int .i64 e3]) ∧ Ow w' w.heap.size (.slice A n c) d ∧ Ow w' w.heap.size v2 s ∧ Rdr w' g l3 e3 ∧ Only g w w'

set_option maxHeartbeats 1600000 in
theorem parts_all {g : Nat} {u : UInt8} {t : List UInt8} (w : World) (hR : Rdr w g (u :: t) 0) (hl : (u :: t).length ≤ 4294967296) (hu : u ≠ 0) {M : Nat} {d s l1 l2 l3 : List UInt8} {e1 e2 e3 : Int} (hM : M ≤ 8192)
    (h1 : rdNum t 0 = (M, l1, e1)) (h2 : tk M l1 e1 = (d, l2, e2)) (h3 : tk 8 l2 e2 = (s, l3, e3)) : Calls Try.prog 25 #[.pointer (some ⟨g, 0, none⟩)] w (PartAll w g u d s l3 e3) := by
  have HR := Lib.hid hR
  have HL := Lib.hid hl
  have hk := k_ne hu
  have hub := u.toNat_lt
  have htl : t.length ≤ 4294967296 := by simp at hl; omega
  have HM : Hid (∀ (W : World), Rdr W g t 0 → Calls Try.prog 37 #[.pointer (some ⟨g, 0, none⟩)] W (Left W g (.int .u64 (M : Int)) l1 e1)) := Lib.hid fun W h => by
    have := RNumber_any h htl
    rwa [h1] at this
  have hl1 : l1.length ≤ t.length := by have := rdNum_len t 0; rwa [h1] at this
  have HT : Hid (∀ (W : World), Rdr W g l1 e1 → Calls Try.prog 38 #[.pointer (some ⟨g, 0, none⟩), .int .i64 (M : Int)] W (Gave W g (d, l2, e2))) := Lib.hid fun W h => by
    have := RTake_any h (M : Int) (by omega) (by omega)
    rwa [Int.toNat_natCast, h2] at this
  have hl2 : l2.length ≤ l1.length := by have := tk_len2 M l1 e1; rwa [h2] at this
  have HU : Hid (∀ (W : World), Rdr W g l2 e2 → Calls Try.prog 38 #[.pointer (some ⟨g, 0, none⟩), .int .i64 8] W (Gave W g (s, l3, e3))) := Lib.hid fun W h => by
    have := RTake_any h 8 (by omega) (by omega)
    rwa [show (8 : Int).toNat = 8 from rfl, h3] at this
  clear hR hl hu h1 h2 h3 htl hl1 hl2
  have hZ1 := Lib.hid (Bk.new w z31 31)
  have hR1 := Lib.hid (HR.out.old (.cells z31.toArray 31))
  have hO1 := Lib.hid ((Only.refl g w).alloc (.cells z31.toArray 31))
  have hz1 : w.heap.size < (w.alloc (.cells z31.toArray 31)).heap.size := by simp
  have hgl := HR.out.lt
  go_enter Try.func25, Try.ntmps25
  go_wp2_with (refine wpList_alloc_z rfl 31 rfl z31 zero31 ?_)
  generalize w.alloc (.cells z31.toArray 31) = w1 at hZ1 hR1 hO1 hz1 ⊢
  refine (RWord_cons hR1.out HL.out).mono ?_; rintro e w2 ⟨rfl, hR2, hO2⟩
  have hZ2 := Lib.hid (Sk.only hZ1.out hO2 (by omega))
  have hO2' := Lib.hid hO2
  have hz2 := hO2.size
  clear hO2 hZ1
  go_wp2_with fail
  refine (Err_any hR2).mono ?_; rintro e w' ⟨rfl, rfl⟩
  go_wp2_with fail
  refine (HM.out _ hR2).mono ?_; rintro e w3 ⟨rfl, hR3, hO3⟩
  have hZ3 := Lib.hid (Sk.only hZ2.out hO3 (by omega))
  have hO3' := Lib.hid (hO2'.out.trans hO3)
  have hz3 := hO3.size
  clear hO3 hZ2 hO2'
  go_wp2_with fail
  refine (HT.out _ hR3).mono ?_; rintro e w4 ⟨v4, rfl, ho4, hR4, hO4⟩
  obtain ⟨A4, c4, rfl, _⟩ := ho4.rdN rfl
  have hZ4 := Lib.hid (Sk.only hZ3.out hO4 (by omega))
  have hO4' := Lib.hid (hO3'.out.trans hO4)
  have hD4 := Lib.hid ho4
  have hz4 := hO4.size
  clear hO4 hZ3 hO3' ho4
  go_wp2_with fail
  refine (HU.out _ hR4).mono ?_; rintro e w5 ⟨v5, rfl, ho5, hR5, hO5⟩
  have hZ5 := Lib.hid (Sk.only hZ4.out hO5 (by omega))
  have hO5' := Lib.hid (hO4'.out.trans hO5)
  have hD5 := Lib.hid (hD4.out.only hO5 (by omega))
  have hS5 := Lib.hid ho5
  have hz5 := hO5.size
  clear hO5 hZ4 hO4' ho5 hD4
  go_wp2_with (first | (refine wpList_build rfl 31 _ rfl _ (built31_two _ _ _ _) ?_))
  refine (Err_any hR5).mono ?_; rintro e w' ⟨rfl, rfl⟩
  have hc0 := hZ5.out.cell (k := 0) rfl
  have hc1 := hZ5.out.cell (k := 1) rfl
  have hf0 := hZ5.out.frozen 0
  have hf1 := hZ5.out.frozen 1
  go_wp2
  have hs := (Only.set w5 0 (.int .u8 (u.toNat : Int)) (g := w.heap.size)).trans (Only.set _ 1 (.slice A4 d.length c4))
  refine ret_ctt (v := .agg #[.int .u8 (u.toNat : Int), .slice A4 d.length c4]) rfl rfl rfl (load_bk (cs := [.int .u8 (u.toNat : Int), .slice A4 d.length c4]) ((hZ5.out.setCell 0 _).setCell 1 _) Try.underlying31 rfl info31) ⟨_, _, _, _, rfl, ?_, ?_, ?_, ?_⟩
  · exact (hD5.out.only hs (by omega)).lower (by omega)
  · exact (hS5.out.only hs (by omega)).lower (by omega)
  · exact hR5.only hs hgl
  · exact (hO1.out.trans hO5'.out).tb (((Below.refl w.heap.size w5).setCell (Nat.le_refl _) _).setCell (Nat.le_refl _) _) (Nat.le_refl _)

theorem parts_ok {g : Nat} {l : List UInt8} (w : World) (hR : Rdr w g l 0) (hl : l.length ≤ 4294967296) (h : (parse l).err = 0) : Calls Try.prog 25 #[.pointer (some ⟨g, 0, none⟩)] w (PartOk w g (parse l)) := by
  rcases l with _ | ⟨u, t⟩
  · cases h
  · rw [parse] at h ⊢
    by_cases hu : u = 0
    · rw [if_pos hu] at h; cases h
    · rw [if_neg hu] at h ⊢
      generalize q1 : rdNum t 0 = q at h ⊢
      obtain ⟨M, l1, e1⟩ := q
      simp only at h ⊢
      generalize q2 : tk M l1 e1 = q at h ⊢
      obtain ⟨d, l2, e2⟩ := q
      simp only at h ⊢
      generalize q3 : tk 8 l2 e2 = q at h ⊢
      obtain ⟨s, l3, e3⟩ := q
      simp only at h ⊢
      by_cases hn : 8192 < M
      · rw [if_pos hn] at h; cases h
      · rw [if_neg hn] at h ⊢
        simp only at h
        subst h
        refine (parts_all w hR hl hu (by omega) q1 q2 q3).mono ?_
        rintro e w' ⟨A, n, c, v2, rfl, h1, h2, h3, h4⟩
        exact ⟨A, n, c, v2, rfl, h1, h2, h3, h4⟩
theorem parts_bad {g : Nat} {l : List UInt8} (w : World) (hR : Rdr w g l 0) (hl : l.length ≤ 4294967296) (h : (parse l).err ≠ 0) : Calls Try.prog 25 #[.pointer (some ⟨g, 0, none⟩)] w (PartBad w g (parse l).err) := by
  rcases l with _ | ⟨u, t⟩
  · exact parts_nil w hR
  · rw [parse] at h ⊢
    by_cases hu : u = 0
    · rw [if_pos hu]
      subst hu
      exact parts_zero w hR hl
    · rw [if_neg hu] at h ⊢
      by_cases hn : 8192 < (rdNum t 0).1
      · rw [if_pos hn]
        exact parts_big w hR hl hu hn
      · rw [if_neg hn] at h ⊢
        clear h
        generalize q1 : rdNum t 0 = q at hn ⊢
        obtain ⟨M, l1, e1⟩ := q
        simp only at hn ⊢
        generalize q2 : tk M l1 e1 = q
        obtain ⟨d, l2, e2⟩ := q
        simp only
        generalize q3 : tk 8 l2 e2 = q
        obtain ⟨s, l3, e3⟩ := q
        simp only
        refine (parts_all w hR hl hu (by omega) q1 q2 q3).mono ?_
        rintro e w' ⟨A, n, c, v2, rfl, h1, h2, h3, h4⟩
        exact ⟨_, A, n, c, v2, rfl, h4⟩
end Go.Proofs.Ytjaoaikcmbfnmaa
