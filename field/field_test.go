package field

import (
	"bytes"
	"math"
	"math/big"
	"math/rand"
	"testing"
)

func whole(n int64) *big.Int { return big.NewInt(n) }

// modulus is 2^255 - 19.
func modulus() *big.Int {
	n := new(big.Int).Lsh(whole(1), 255)
	return n.Sub(n, whole(19))
}

// little writes a number below 2^256 in 32 bytes, the lowest first.
func little(n *big.Int) []byte {
	p := n.FillBytes(make([]byte, 32))
	for i := range 16 {
		p[i], p[31-i] = p[31-i], p[i]
	}
	return p
}

// number reads bytes, the lowest first.
func number(p []byte) *big.Int {
	high := bytes.Clone(p)
	for i := range len(p) / 2 {
		high[i], high[len(p)-1-i] = high[len(p)-1-i], high[i]
	}
	return new(big.Int).SetBytes(high)
}

// expect compares by Bytes, and sees that the parts stay as small as every function needs them.
func expect(t *testing.T, what string, got Elem, want *big.Int) {
	t.Helper()
	least := new(big.Int).Mod(want, modulus())
	if !bytes.Equal(Bytes(got), little(least)) {
		t.Fatalf("%s = %v, not %v", what, number(Bytes(got)), least)
	}
	for _, x := range got {
		if x >= 1<<51+1<<18 {
			t.Fatalf("%s has too great a part: %x", what, got)
		}
	}
}

// near has the numbers below 2^255 around those where something carries, wraps or turns.
func near() []*big.Int {
	var l []*big.Int
	around := func(n *big.Int) {
		for i := int64(-3); i <= 3; i++ {
			m := new(big.Int).Add(n, whole(i))
			if m.Sign() >= 0 && m.BitLen() <= 255 {
				l = append(l, m)
			}
		}
	}
	around(whole(0))
	around(whole(19))
	around(modulus())
	around(new(big.Int).Rsh(modulus(), 1))
	for _, bit := range []uint{32, 51, 64, 102, 128, 153, 192, 204, 254, 255} {
		around(new(big.Int).Lsh(whole(1), bit))
	}
	return l
}

// several has those near, and some at random, the same ones each time.
func several() []*big.Int {
	l := near()
	source := rand.New(rand.NewSource(3))
	for range 40 {
		l = append(l, new(big.Int).Rand(source, modulus()))
	}
	return l
}

func elem(n *big.Int) Elem { return Read(little(n)) }

func TestNum(t *testing.T) {
	for _, n := range []uint32{0, 1, 2, 18, 19, 20, 121665, 1 << 31, math.MaxUint32} {
		expect(t, "Num", Num(n), whole(int64(n)))
	}
	var none Elem
	expect(t, "the zero value", none, whole(0))
}

func TestExamples(t *testing.T) {
	expect(t, "Mul(Inv(2), 2)", Mul(Inv(Num(2)), Num(2)), whole(1))
	expect(t, "Neg(1)", Neg(Num(1)), new(big.Int).Sub(new(big.Int).Lsh(whole(1), 255), whole(20)))
}

func TestOfOne(t *testing.T) {
	for _, n := range several() {
		a := elem(n)
		expect(t, "Neg", Neg(a), new(big.Int).Neg(n))
		expect(t, "Square", Square(a), new(big.Int).Mul(n, n))
		expect(t, "Add(a, Neg(a))", Add(a, Neg(a)), whole(0))
		expect(t, "Sub(a, a)", Sub(a, a), whole(0))
		expect(t, "Mul by 0", Mul(a, Num(0)), whole(0))
		expect(t, "Mul by 1", Mul(Num(1), a), n)
	}
}

func TestOfTwo(t *testing.T) {
	l := several()
	for _, n := range l {
		for _, m := range l {
			a, b := elem(n), elem(m)
			expect(t, "Add", Add(a, b), new(big.Int).Add(n, m))
			expect(t, "Sub", Sub(a, b), new(big.Int).Sub(n, m))
			expect(t, "Mul", Mul(a, b), new(big.Int).Mul(n, m))
		}
	}
}

// TestWalk goes on with results in whatever form they come.
func TestWalk(t *testing.T) {
	source := rand.New(rand.NewSource(5))
	have := []Elem{Num(0), Num(1), elem(new(big.Int).Sub(modulus(), whole(1))), Read(bytes.Repeat([]byte{255}, 32))}
	for range 20000 {
		a, b, to := have[source.Intn(len(have))], have[source.Intn(len(have))], source.Intn(len(have))
		n, m := number(Bytes(a)), number(Bytes(b))
		switch source.Intn(6) {
		case 0, 1:
			have[to] = Add(a, b)
			expect(t, "Add", have[to], n.Add(n, m))
		case 2:
			have[to] = Sub(a, b)
			expect(t, "Sub", have[to], n.Sub(n, m))
		case 3:
			have[to] = Neg(a)
			expect(t, "Neg", have[to], n.Neg(n))
		case 4:
			have[to] = Mul(a, b)
			expect(t, "Mul", have[to], n.Mul(n, m))
		case 5:
			have[to] = Square(a)
			expect(t, "Square", have[to], n.Mul(n, n))
		}
		if source.Intn(500) == 0 {
			have[to] = Read(bytes.Repeat([]byte{255}, 32))
		}
	}
}

// TestGreatestParts has elements whose parts are as great as they ever are.
func TestGreatestParts(t *testing.T) {
	const most = 1<<51 + 1<<18 - 1
	a := Elem{most, most, most, most, most}
	n := new(big.Int)
	for i := range 5 {
		n.Add(n, new(big.Int).Lsh(whole(most), uint(51*i)))
	}
	b, m := elem(modulus()), modulus()
	expect(t, "Add", Add(a, a), new(big.Int).Add(n, n))
	expect(t, "Sub", Sub(b, a), new(big.Int).Sub(m, n))
	expect(t, "Sub", Sub(Num(0), a), new(big.Int).Neg(n))
	expect(t, "Neg", Neg(a), new(big.Int).Neg(n))
	expect(t, "Mul", Mul(a, a), new(big.Int).Mul(n, n))
	expect(t, "Square", Square(a), new(big.Int).Mul(n, n))
	if Odd(a) != (new(big.Int).Mod(n, m).Bit(0) == 1) || Zero(a) || !Same(a, Add(a, b)) {
		t.Error("Odd, Zero or Same")
	}
}

func exponents() [][32]byte {
	l := [][32]byte{{}, {1}, {2}, {3}, {0, 1}, {31: 1}, {31: 0x80}, {0xff}, {15: 7, 16: 9}}
	for _, n := range []*big.Int{modulus(), new(big.Int).Sub(modulus(), whole(1)), new(big.Int).Sub(new(big.Int).Lsh(whole(1), 256), whole(1))} {
		l = append(l, [32]byte(little(n)))
	}
	source := rand.New(rand.NewSource(7))
	for range 5 {
		l = append(l, [32]byte(little(new(big.Int).Rand(source, new(big.Int).Lsh(whole(1), 256)))))
	}
	return l
}

func TestPower(t *testing.T) {
	for _, e := range exponents() {
		for _, n := range several() {
			want := new(big.Int).Exp(n, number(e[:]), modulus())
			expect(t, "Power", Power(elem(n), e), want)
		}
	}
	expect(t, "0 raised to 0", Power(Num(0), [32]byte{}), whole(1))
	expect(t, "0 raised to 1", Power(Num(0), [32]byte{1}), whole(0))
	expect(t, "3 raised to 256", Power(Num(3), [32]byte{0, 1}), new(big.Int).Exp(whole(3), whole(256), nil))
}

func TestInv(t *testing.T) {
	for _, n := range several() {
		a := elem(n)
		expect(t, "Inv", Inv(a), new(big.Int).Exp(n, new(big.Int).Sub(modulus(), whole(2)), modulus()))
		if want := whole(1); !Zero(a) {
			expect(t, "Mul(a, Inv(a))", Mul(a, Inv(a)), want)
		}
	}
	expect(t, "Inv(0)", Inv(Num(0)), whole(0))
	expect(t, "Inv(p)", Inv(elem(modulus())), whole(0))
}

// TestRoot asks for the very root that the document names, not for its negative.
func TestRoot(t *testing.T) {
	p := modulus()
	power := new(big.Int).Rsh(new(big.Int).Add(p, whole(3)), 3)
	turn := new(big.Int).Exp(whole(2), new(big.Int).Rsh(new(big.Int).Sub(p, whole(1)), 2), p)
	var first, second, none int
	check := func(n *big.Int) {
		root := new(big.Int).Exp(n, power, p)
		turned := new(big.Int).Mul(root, turn)
		is := func(r *big.Int) bool {
			square := new(big.Int).Mul(r, r)
			return square.Sub(square, n).Mod(square, p).Sign() == 0
		}
		got, ok := Root(elem(n))
		switch {
		case is(root):
			first++
			expect(t, "Root", got, root)
		case is(turned):
			second++
			expect(t, "Root", got, turned)
		default:
			none++
			if ok || got != (Elem{}) {
				t.Fatalf("Root(%v) = %v, %v, but there is none", n, got, ok)
			}
			return
		}
		if !ok {
			t.Fatalf("Root(%v) was not found", n)
		}
	}
	for _, n := range several() {
		check(n)
		check(new(big.Int).Mod(new(big.Int).Mul(n, n), p))
	}
	if first < 10 || second < 10 || none < 10 {
		t.Errorf("too few of a kind: %d, %d, %d", first, second, none)
	}
}

func TestSomeRoots(t *testing.T) {
	for _, n := range []int64{0, 1, 4} {
		root, ok := Root(Num(uint32(n)))
		if !ok {
			t.Errorf("%d has no root", n)
		}
		expect(t, "the square of a root", Square(root), whole(n))
	}
	root, ok := Root(Neg(Num(1)))
	if !ok {
		t.Error("-1 has no root")
	}
	expect(t, "the square of a root", Square(root), whole(-1))
	if root, ok := Root(Num(2)); ok || root != (Elem{}) {
		t.Errorf("2 has the root %x", Bytes(root))
	}
}

func TestBytes(t *testing.T) {
	one := make([]byte, 32)
	one[0] = 1
	if got := Bytes(Num(1)); !bytes.Equal(got, one) {
		t.Errorf("of 1: %x", got)
	}
	if got := Bytes(Num(0x04030201)); !bytes.Equal(got[:5], []byte{1, 2, 3, 4, 0}) {
		t.Errorf("of 04030201: %x", got)
	}
	highest := bytes.Repeat([]byte{0xff}, 32)
	highest[0], highest[31] = 0xec, 0x7f
	if got := Bytes(Neg(Num(1))); !bytes.Equal(got, highest) {
		t.Errorf("of p - 1: %x", got)
	}
	if got := Bytes(Elem{}); !bytes.Equal(got, make([]byte, 32)) {
		t.Errorf("of 0: %x", got)
	}
	for _, n := range several() {
		got := Bytes(elem(n))
		if len(got) != 32 || number(got).Cmp(modulus()) >= 0 || !bytes.Equal(Bytes(Read(got)), got) {
			t.Fatalf("of %v: %x", n, got)
		}
	}
}

func TestRead(t *testing.T) {
	for _, n := range several() {
		p := little(n)
		expect(t, "Read", Read(p), n)
		p[31] |= 0x80
		expect(t, "Read with the highest bit", Read(p), n)
	}
	expect(t, "Read of the greatest", Read(bytes.Repeat([]byte{255}, 32)), whole(18))
	expect(t, "Read of the highest bit", Read(append(make([]byte, 31), 0x80)), whole(0))
}

func TestReadOtherLengths(t *testing.T) {
	expect(t, "Read(nil)", Read(nil), whole(0))
	for n := range 100 {
		if n != 32 {
			expect(t, "Read of another length", Read(bytes.Repeat([]byte{1}, n)), whole(0))
		}
	}
}

func TestSame(t *testing.T) {
	l := several()
	for _, n := range l {
		for _, m := range l {
			difference := new(big.Int).Sub(n, m)
			want := difference.Mod(difference, modulus()).Sign() == 0
			if got := Same(elem(n), elem(m)); got != want {
				t.Fatalf("Same(%v, %v) = %v", n, m, got)
			}
		}
	}
	// One number, come by in several ways.
	for _, a := range []Elem{Elem{}, Sub(Num(5), Num(5)), Add(Num(1), Neg(Num(1))), elem(modulus()), Mul(Num(0), Neg(Num(7)))} {
		if !Same(a, Num(0)) || !Same(Num(0), a) || Same(a, Num(1)) {
			t.Errorf("a form of 0: %x", a)
		}
	}
}

func TestZeroAndOdd(t *testing.T) {
	for _, n := range several() {
		least := new(big.Int).Mod(n, modulus())
		for _, a := range []Elem{elem(n), Sub(elem(n), Num(0)), Sub(Add(elem(n), Num(9)), Num(9)), Neg(Neg(elem(n)))} {
			if Zero(a) != (least.Sign() == 0) {
				t.Errorf("Zero(%v) = %v", n, Zero(a))
			}
			if Odd(a) != (least.Bit(0) == 1) {
				t.Errorf("Odd(%v) = %v", n, Odd(a))
			}
		}
	}
	p := modulus()
	if Odd(elem(p)) || !Odd(elem(p.Add(p, whole(1)))) || Odd(Neg(Num(1))) || !Odd(Neg(Num(2))) || !Zero(Elem{}) || Odd(Elem{}) {
		t.Error("around p")
	}
}

// TestForeignParts holds P1 against this package: also what no function made is taken without a panic.
func TestForeignParts(t *testing.T) {
	const most = math.MaxUint64
	for _, a := range []Elem{{most, most, most, most, most}, {most}, {4: most}, {0, 1 << 51}, {1 << 63, 0, 1 << 63}} {
		for _, b := range []Elem{a, {}, Num(1)} {
			for _, x := range []Elem{Add(a, b), Sub(a, b), Sub(b, a), Mul(a, b), Neg(a), Square(a), Inv(a), Power(a, [32]byte{7: 3})} {
				if len(Bytes(x)) != 32 || !Same(x, x) {
					t.Errorf("of %x and %x: %x", a, b, x)
				}
			}
		}
		Root(a)
		if Zero(a) && Odd(a) || len(Bytes(a)) != 32 {
			t.Errorf("of %x", a)
		}
	}
}

// TestOnlyArguments holds P2 and the rule of memory against this package.
func TestOnlyArguments(t *testing.T) {
	p := bytes.Repeat([]byte{0xa5}, 40)
	a, e := Read(p[:32]), [32]byte(p[:32])
	answers := func() []Elem {
		root, _ := Root(Square(a))
		return []Elem{Add(a, a), Sub(Num(3), a), Neg(a), Mul(a, Num(3)), Square(a), Power(a, e), Inv(a), root, Read(p[:32])}
	}
	first := answers()
	kept := Bytes(a)
	clear(Bytes(a))
	for i, x := range answers() {
		if x != first[i] {
			t.Errorf("answer %d is another one the next time", i)
		}
	}
	if !bytes.Equal(p, bytes.Repeat([]byte{0xa5}, 40)) || e != [32]byte(p[:32]) {
		t.Error("an argument was changed")
	}
	clear(p)
	if !bytes.Equal(Bytes(a), kept) {
		t.Error("an element changed with the bytes it was read from, or with those told of it")
	}
}
