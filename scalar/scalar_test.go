package scalar

import (
	"bytes"
	"crypto/sha512"
	"math"
	"math/big"
	"slices"
	"testing"

	"headwater/api"
)

var (
	one  = big.NewInt(1)
	l    = lessOf()
	full = new(big.Int).Sub(new(big.Int).Lsh(one, 256), one)
)

// lessOf is L as the chapter tells it, in decimal.
func lessOf() *big.Int {
	n, _ := new(big.Int).SetString("27742317777372353535851937790883648493", 10)
	return n.Add(n, new(big.Int).Lsh(one, 252))
}

// number is what bytes are, the low one first.
func number(b []byte) *big.Int {
	turned := slices.Clone(b)
	slices.Reverse(turned)
	return new(big.Int).SetBytes(turned)
}

func whole(a api.Num) *big.Int { return number(a[:]) }

func num(n *big.Int) api.Num {
	b := n.FillBytes(make([]byte, 32))
	slices.Reverse(b)
	return api.Num(b)
}

func left(n *big.Int) api.Num { return num(new(big.Int).Mod(n, l)) }

func more(n *big.Int, by int64) *big.Int { return new(big.Int).Add(n, big.NewInt(by)) }

func by(n *big.Int, times int64) *big.Int { return new(big.Int).Mul(n, big.NewInt(times)) }

// few are the edges that the issue names: 0; L less 1, L, L and 1 more, 2L, and 2^256 - 1; and the least ones.
func few() []api.Num {
	return []api.Num{{}, num(one), {2}, num(more(l, -1)), num(l), num(more(l, 1)), num(more(by(l, 2), -1)), num(by(l, 2)), num(more(by(l, 2), 1)), num(full)}
}

// named are the edges, those of all multiples of L that 32 bytes can be, and those of the words of 64 bits.
func named() []api.Num {
	var list []*big.Int
	for i := range int64(17) {
		for k := range int64(5) {
			list = append(list, more(by(l, i), k-2))
		}
	}
	for _, at := range []uint{8, 63, 64, 65, 127, 128, 129, 191, 192, 193, 251, 252, 253, 254, 255} {
		n := new(big.Int).Lsh(one, at)
		list = append(list, n, more(n, -1), more(n, 1), new(big.Int).Xor(full, n), new(big.Int).Sub(full, more(n, -1)))
	}
	list = append(list, more(full, -1), full, new(big.Int).Rsh(l, 1), more(new(big.Int).Rsh(l, 1), 1))
	var out []api.Num
	for _, n := range list {
		if n.Sign() >= 0 && n.BitLen() <= 256 {
			out = append(out, num(n))
		}
	}
	return out
}

// mixed are numbers of which all bits are thrown about, canonical or not.
func mixed(n int) []api.Num {
	var out []api.Num
	for i := range n {
		out = append(out, api.Num(sha512.Sum512_256([]byte{byte(i), byte(i >> 8), 41})))
	}
	return out
}

func all() []api.Num { return append(named(), mixed(40)...) }

func TestP41Canon(t *testing.T) {
	for _, a := range all() {
		if got := Canon(a); got != (whole(a).Cmp(l) < 0) {
			t.Errorf("Canon of %x: %v", whole(a), got)
		}
	}
	for i, want := range []bool{true, true, true, true, false, false, false, false, false, false} {
		if Canon(few()[i]) != want {
			t.Errorf("Canon at its edge %d", i)
		}
	}
}

// TestP41CanonOfEachByte changes L less 1 and L in one byte each: the highest byte that differs decides.
func TestP41CanonOfEachByte(t *testing.T) {
	for _, start := range []api.Num{num(more(l, -1)), num(l)} {
		for i := range start {
			for _, by := range []byte{1, 255} {
				a := start
				a[i] += by
				if Canon(a) != (whole(a).Cmp(l) < 0) {
					t.Errorf("Canon of %x", whole(a))
				}
			}
		}
	}
}

func filled(n int, with byte) []byte { return bytes.Repeat([]byte{with}, n) }

func thrown(n int) []byte {
	sum := sha512.Sum512([]byte{byte(n), 5})
	return append(sum[:], sum[:]...)[:n]
}

func TestP41RestOfEachLength(t *testing.T) {
	for n := range 65 {
		low, high := make([]byte, n), make([]byte, n)
		if n > 0 {
			low[0], high[n-1] = 1, 0x80
		}
		for _, b := range [][]byte{filled(n, 0), filled(n, 255), thrown(n), low, high} {
			got, e := Rest(b)
			if e != api.OK || got != left(number(b)) || !Canon(got) {
				t.Errorf("Rest of %x: %x, %d", b, whole(got), e)
			}
		}
	}
	for _, b := range [][]byte{nil, {}} {
		if got, e := Rest(b); e != api.OK || got != (api.Num{}) {
			t.Errorf("Rest of no bytes: %x, %d", got, e)
		}
	}
}

func TestP41RestOfTooMany(t *testing.T) {
	for _, n := range []int{65, 66, 96, 127, 128, 129, 255, 256, 257, 320, 65536, 65600, 1 << 20} {
		for _, with := range []byte{0, 1, 255} {
			if got, e := Rest(filled(n, with)); e != api.ErrLong || got != (api.Num{}) {
				t.Errorf("Rest of %d bytes %d: %x, %d", n, with, got, e)
			}
		}
	}
}

func TestP41RestOfNumbers(t *testing.T) {
	for _, a := range all() {
		got, e := Rest(a[:])
		if e != api.OK || got != left(whole(a)) {
			t.Errorf("Rest of %x: %x, %d", whole(a), whole(got), e)
		}
	}
}

// TestP41RestOfMultiples takes the multiples of L that stand highest in 64 bytes, and what is beside them.
func TestP41RestOfMultiples(t *testing.T) {
	for _, at := range []uint{0, 1, 3, 63, 64, 128, 250, 258, 259} {
		n := new(big.Int).Lsh(l, at)
		for _, beside := range []int64{-1, 0, 1} {
			b := more(n, beside).FillBytes(make([]byte, 64))
			slices.Reverse(b)
			if got, e := Rest(b); e != api.OK || got != left(big.NewInt(beside)) {
				t.Errorf("Rest of L by 2^%d, and %d: %x, %d", at, beside, whole(got), e)
			}
		}
	}
}

func TestP42RestWithNoughtsBehind(t *testing.T) {
	for _, a := range append(few(), mixed(8)...) {
		for _, end := range []int{1, 8, 31, 32} {
			want, _ := Rest(a[:end])
			for n := end; n <= 64; n++ {
				if got, e := Rest(append(slices.Clone(a[:end]), make([]byte, n-end)...)); e != api.OK || got != want {
					t.Fatalf("Rest of %x with noughts to %d bytes: %x, %d", a[:end], n, got, e)
				}
			}
			for _, n := range []int{65, 100, 4096} {
				if got, e := Rest(append(slices.Clone(a[:end]), make([]byte, n-end)...)); e != api.ErrLong || got != (api.Num{}) {
					t.Fatalf("Rest of %x with noughts to %d bytes: %x, %d", a[:end], n, got, e)
				}
			}
		}
	}
}

func TestP41SumsAndProducts(t *testing.T) {
	for _, a := range all() {
		for _, b := range append(few(), mixed(10)...) {
			x, y := whole(a), whole(b)
			sum, product := left(new(big.Int).Add(x, y)), left(new(big.Int).Mul(x, y))
			if Add(a, b) != sum || Add(b, a) != sum {
				t.Fatalf("Add of %x and %x: %x", x, y, whole(Add(a, b)))
			}
			if Mul(a, b) != product || Mul(b, a) != product {
				t.Fatalf("Mul of %x and %x: %x", x, y, whole(Mul(a, b)))
			}
		}
	}
}

func TestP41MulAdd(t *testing.T) {
	list := append(few(), mixed(4)...)
	for _, a := range list {
		for _, b := range list {
			for _, c := range list {
				want := new(big.Int).Mul(whole(a), whole(b))
				if got := MulAdd(a, b, c); got != left(want.Add(want, whole(c))) {
					t.Fatalf("MulAdd of %x, %x and %x: %x", whole(a), whole(b), whole(c), whole(got))
				}
			}
		}
	}
}

func TestP41MulAddOverL(t *testing.T) {
	last, half := num(more(l, -1)), num(more(new(big.Int).Rsh(l, 1), 1))
	if MulAdd(half, api.Num{2}, last) != (api.Num{}) || MulAdd(last, last, last) != (api.Num{}) {
		t.Error("the sum is L")
	}
	if MulAdd(half, api.Num{2}, api.Num{}) != num(one) || MulAdd(last, api.Num{2}, api.Num{3}) != num(one) {
		t.Error("the product goes over L")
	}
	if MulAdd(api.Num{1}, last, api.Num{2}) != num(one) || MulAdd(api.Num{}, last, num(full)) != left(full) {
		t.Error("the sum goes over L")
	}
}

func TestP41Neg(t *testing.T) {
	for _, a := range all() {
		got := Neg(a)
		if got != left(new(big.Int).Neg(whole(a))) || Add(got, a) != (api.Num{}) {
			t.Errorf("Neg of %x: %x", whole(a), whole(got))
		}
	}
	if Neg(api.Num{}) != (api.Num{}) || Neg(num(l)) != (api.Num{}) || Neg(num(by(l, 2))) != (api.Num{}) || Neg(num(one)) != num(more(l, -1)) {
		t.Error("Neg of 0, of L, of 2L, of 1")
	}
}

func TestP41L(t *testing.T) {
	want := api.Num{0xed, 0xd3, 0xf5, 0x5c, 0x1a, 0x63, 0x12, 0x58, 0xd6, 0x9c, 0xf7, 0xa2, 0xde, 0xf9, 0xde, 0x14, 31: 0x10}
	if L() != want || L() != num(l) {
		t.Errorf("L: %x", L())
	}
}

func TestP41Bit(t *testing.T) {
	for _, a := range all() {
		n := whole(a)
		for i := range 256 {
			if Bit(a, i) != (n.Bit(i) == 1) {
				t.Fatalf("Bit %d of %x", i, n)
			}
		}
		for _, i := range []int{-1, -2, -7, -8, -9, -255, -256, -257, 256, 257, 263, 264, 511, 512, 1 << 32, -1 << 32, math.MinInt, math.MinInt + 1, math.MaxInt, math.MaxInt - 1} {
			if Bit(a, i) {
				t.Fatalf("Bit %d of %x", i, n)
			}
		}
	}
}

// TestP41BitAsItStands has the bits of numbers that are not canonical, which are not those of their rests.
func TestP41BitAsItStands(t *testing.T) {
	for _, i := range []int{0, 7, 8, 63, 64, 252, 255} {
		var a api.Num
		a[i/8] = 1 << (i % 8)
		for k := range 256 {
			if Bit(a, k) != (k == i) {
				t.Errorf("Bit %d of 2^%d", k, i)
			}
			if !Bit(num(full), k) {
				t.Errorf("Bit %d of 2^256 - 1", k)
			}
		}
	}
	if !Bit(L(), 0) || !Bit(L(), 252) || Bit(L(), 253) {
		t.Error("Bit of L")
	}
}

// TestP42AnyOrder has sums and products of the same ones in other orders.
func TestP42AnyOrder(t *testing.T) {
	list := append(few(), mixed(3)...)
	for _, a := range list {
		for _, b := range list {
			for _, c := range list {
				if Add(Add(a, b), c) != Add(a, Add(c, b)) || Mul(Mul(a, b), c) != Mul(a, Mul(c, b)) {
					t.Fatalf("the order of %x, %x, %x", a, b, c)
				}
				sum := MulAdd(a, b, c)
				if sum != Add(c, Mul(b, a)) || Mul(Add(a, b), c) != MulAdd(c, b, Mul(a, c)) || !Canon(sum) {
					t.Fatalf("sums and products of %x, %x, %x", a, b, c)
				}
			}
		}
	}
}

// TestP42SameRest has numbers that are not canonical: they stand for their rest.
func TestP42SameRest(t *testing.T) {
	for _, a := range all() {
		r, _ := Rest(a[:])
		b := num(full)
		if Add(a, b) != Add(r, b) || Mul(a, b) != Mul(r, b) || Neg(a) != Neg(r) || MulAdd(a, b, a) != MulAdd(r, b, r) {
			t.Errorf("%x and its rest", a)
		}
	}
}

func TestExamples(t *testing.T) {
	bytes := L()
	if got, e := Rest(bytes[:]); e != api.OK || got != (api.Num{}) {
		t.Error("Rest of L's bytes")
	}
	if Add(num(more(l, -1)), api.Num{2}) != num(one) {
		t.Error("Add of L less 1 and 2")
	}
}

func TestRuleArguments(t *testing.T) {
	room := thrown(64)
	kept := slices.Clone(room)
	want := left(number(room[:40]))
	if got, _ := Rest(room[:40]); got != want || !bytes.Equal(room, kept) {
		t.Error("Rest looks at spare room, or changes what was handed in")
	}
	for i := range room[40:] {
		room[40+i] ^= 255
	}
	if got, _ := Rest(room[:40]); got != want {
		t.Error("Rest looks at spare room")
	}
	a := L()
	a[0] = 0
	if L() != num(l) {
		t.Error("L is changed by who asked")
	}
}
