package chacha

import (
	"bytes"
	"encoding/binary"
	"encoding/hex"
	"math"
	"testing"
)

const ladies = "Ladies and Gentlemen of the class of '99: If I could offer you only one tip for the future, sunscreen would be it."

func plain(s string) []byte {
	p, err := hex.DecodeString(s)
	if err != nil {
		panic(err)
	}
	return p
}

func same(t *testing.T, what string, got []byte, want string) {
	t.Helper()
	if hex.EncodeToString(got) != want {
		t.Errorf("%s = %x, not %s", what, got, want)
	}
}

// rising returns n bytes, each one more than that before it.
func rising(first byte, n int) []byte {
	p := make([]byte, n)
	for i := range p {
		p[i] = first + byte(i)
	}
	return p
}

// lengths has those of parts that fill a block, and of those that do not.
func lengths() []int {
	return []int{0, 1, 2, 7, 8, 15, 16, 17, 31, 32, 33, 47, 48, 63, 64, 65, 100, 127, 128, 129, 300}
}

// TestBlockKnown has the values of RFC 8439, section 2.3.2 and appendix A.1.
func TestBlockKnown(t *testing.T) {
	zero := make([]byte, 32)
	last := append(make([]byte, 31), 1)
	second := append([]byte{0, 0xff}, make([]byte, 30)...)
	rows := []struct {
		key   []byte
		n     uint32
		nonce []byte
		want  string
	}{
		{rising(0, 32), 1, plain("000000090000004a00000000"), "10f1e7e4d13b5915500fdd1fa32071c4c7d1f4c733c068030422aa9ac3d46c4ed2826446079faa0914c2d705d98b02a2b5129cd1de164eb9cbd083e8a2503c4e"},
		{zero, 0, zero[:12], "76b8e0ada0f13d90405d6ae55386bd28bdd219b8a08ded1aa836efcc8b770dc7da41597c5157488d7724e03fb8d84a376a43b8f41518a11cc387b669b2ee6586"},
		{zero, 1, zero[:12], "9f07e7be5551387a98ba977c732d080dcb0f29a048e3656912c6533e32ee7aed29b721769ce64e43d57133b074d839d531ed1f28510afb45ace10a1f4b794d6f"},
		{last, 1, zero[:12], "3aeb5224ecf849929b9d828db1ced4dd832025e8018b8160b82284f3c949aa5a8eca00bbb4a73bdad192b5c42f73f2fd4e273644c8b36125a64addeb006c13a0"},
		{second, 2, zero[:12], "72d54dfbf12ec44b362692df94137f328fea8da73990265ec1bbbea1ae9af0ca13b25aa26cb4a648cb9b9d1be65b2c0924a66c54d545ec1b7374f4872e99f096"},
		{zero, 0, append(make([]byte, 11), 2), "c2c64d378cd536374ae204b9ef933fcd1a8b2288b3dfa49672ab765b54ee27c78a970e0e955c14f3a88e741b97c286f75f8fc299e8148362fa198a39531bed6d"},
	}
	for _, r := range rows {
		same(t, "Block", Block(r.key, r.n, r.nonce), r.want)
	}
}

// TestStreamKnown has the values of RFC 8439, section 2.4.2.
func TestStreamKnown(t *testing.T) {
	nonce := plain("000000000000004a00000000")
	sealed := "6e2e359a2568f98041ba0728dd0d6981e97e7aec1d4360c20a27afccfd9fae0bf91b65c5524733ab8f593dabcd62b3571639d624e65152ab8f530c359f0861d807ca0dbf500d6a6156a38e088a22b65e52bc514d16ccf806818ce91ab77937365af90bbf74a35be6b40b8eedf2785e42874d"
	same(t, "Stream", Stream(rising(0, 32), 1, nonce, []byte(ladies)), sealed)
	if got := Stream(rising(0, 32), 1, nonce, plain(sealed)); string(got) != ladies {
		t.Errorf("Stream back = %q", got)
	}
}

func TestStreamIsBlocks(t *testing.T) {
	key, nonce := rising(3, 32), rising(200, 12)
	for _, n := range []uint32{0, 1, 77, math.MaxUint32 - 1, math.MaxUint32} {
		for _, length := range lengths() {
			p := rising(9, length)
			got := Stream(key, n, nonce, p)
			if len(got) != length {
				t.Fatalf("%d bytes of %d", len(got), length)
			}
			for i := range got {
				// Blocks are numbered modulo 2^32.
				if want := p[i] ^ Block(key, n+uint32(i/64), nonce)[i%64]; got[i] != want {
					t.Fatalf("from %d on, of %d bytes: byte %d = %x, not %x", n, length, i, got[i], want)
				}
			}
		}
	}
	if got := Stream(key, 0, nonce, nil); len(got) != 0 {
		t.Errorf("of nothing: %x", got)
	}
}

// TestBlockParts sees that each byte of what is given has its own part in the block.
func TestBlockParts(t *testing.T) {
	key, nonce := make([]byte, 32), make([]byte, 12)
	seen := map[string]bool{string(Block(key, 0, nonce)): true}
	see := func(p []byte) {
		if len(p) != 64 || seen[string(p)] {
			t.Errorf("a block of %d bytes, or one that was there already", len(p))
		}
		seen[string(p)] = true
	}
	for i := range key {
		key[i] = 1
		see(Block(key, 0, nonce))
		key[i] = 0
	}
	for i := range nonce {
		nonce[i] = 1
		see(Block(key, 0, nonce))
		nonce[i] = 0
	}
	for i := range 32 {
		see(Block(key, 1<<i, nonce))
	}
}

// TestSealKnown has the values of RFC 8439, section 2.8.2.
func TestSealKnown(t *testing.T) {
	key, nonce := rising(0x80, 32), plain("070000004041424344454647")
	with := plain("50515253c0c1c2c3c4c5c6c7")
	want := "d31a8d34648e60db7b86afbc53ef7ec2a4aded51296e08fea9e2b5a736ee62d63dbea45e8ca9671282fafb69da92728b1a71de0a9e060b2905d6a5b67ecd3b3692ddbd7f2d778b8c9803aee328091b58fab324e4fad675945585808b4831d7bc3ff4def08e4b7a9de576d26586cec64b6116" +
		"1ae10b594f09e26a7e902ecbd0600691"
	same(t, "Seal", Seal(key, nonce, with, []byte(ladies)), want)
	got, ok := Open(key, nonce, with, plain(want))
	if !ok || string(got) != ladies {
		t.Errorf("Open = %q, %v", got, ok)
	}
}

// sealed is Seal as RFC 8439, section 2.8, has it, from the other functions.
func sealed(key, nonce, with, p []byte) []byte {
	out := Stream(key, 1, nonce, p)
	var told bytes.Buffer
	for _, part := range [][]byte{with, out} {
		told.Write(part)
		for told.Len()%16 != 0 {
			told.WriteByte(0)
		}
	}
	told.Write(binary.LittleEndian.AppendUint64(nil, uint64(len(with))))
	told.Write(binary.LittleEndian.AppendUint64(nil, uint64(len(out))))
	return append(out, Tag(Block(key, 0, nonce)[:32], told.Bytes())...)
}

func TestSealAndOpen(t *testing.T) {
	key, nonce := rising(17, 32), rising(91, 12)
	for _, n := range lengths() {
		for _, m := range lengths() {
			with, p := rising(1, n), rising(2, m)
			got := Seal(key, nonce, with, p)
			if want := sealed(key, nonce, with, p); !bytes.Equal(got, want) {
				t.Fatalf("Seal of %d with %d bytes = %x, not %x", m, n, got, want)
			}
			if text, ok := Open(key, nonce, with, got); !ok || !bytes.Equal(text, p) {
				t.Fatalf("Open of %d with %d bytes = %x, %v", m, n, text, ok)
			}
		}
	}
	if got, ok := Open(key, nonce, nil, Seal(key, nonce, []byte{}, nil)); !ok || len(got) != 0 {
		t.Errorf("of nothing: %x, %v", got, ok)
	}
}

func refused(t *testing.T, what string, key, nonce, with, p []byte) {
	t.Helper()
	if got, ok := Open(key, nonce, with, p); ok || len(got) != 0 {
		t.Errorf("Open with %s = %x, %v", what, got, ok)
	}
}

func TestOpenRefuses(t *testing.T) {
	key, nonce, with := rising(17, 32), rising(91, 12), rising(4, 20)
	p := Seal(key, nonce, with, rising(5, 50))
	turned := func(p []byte, bit int) []byte {
		p = bytes.Clone(p)
		p[bit/8] ^= 1 << (bit % 8)
		return p
	}
	for i := range 8 * len(p) {
		refused(t, "another text or tag", key, nonce, with, turned(p, i))
	}
	for i := range 8 * len(key) {
		refused(t, "another key", turned(key, i), nonce, with, p)
	}
	for i := range 8 * len(nonce) {
		refused(t, "another nonce", key, turned(nonce, i), with, p)
	}
	for i := range 8 * len(with) {
		refused(t, "other data", key, nonce, turned(with, i), p)
	}
	for n := range p {
		refused(t, "too few bytes", key, nonce, with, p[:n])
		if n > 0 {
			refused(t, "too few bytes", key, nonce, with, p[n:])
		}
	}
	refused(t, "a byte more", key, nonce, with, append(bytes.Clone(p), 0))
	refused(t, "nothing", key, nonce, with, nil)
	refused(t, "nothing", nil, nil, nil, nil)
	refused(t, "zero bytes", nil, nil, nil, make([]byte, 16))
}

// TestOpenLengths has data and texts that are the same one behind the other, or once they are filled up with zero bytes.
func TestOpenLengths(t *testing.T) {
	key, nonce := rising(17, 32), rising(91, 12)
	p := Seal(key, nonce, []byte{1, 2, 0}, []byte{3})
	refused(t, "a zero byte fewer in the data", key, nonce, []byte{1, 2}, p)
	refused(t, "a zero byte more in the data", key, nonce, []byte{1, 2, 0, 0}, p)
	refused(t, "no data", key, nonce, nil, p)
	refused(t, "data first", key, nonce, nil, append([]byte{1, 2, 0}, p...))
	full := Seal(key, nonce, rising(0, 16), rising(0, 16))
	refused(t, "a block of text taken for data", key, nonce, append(rising(0, 16), full[:16]...), full[16:])
}

func TestOtherLengths(t *testing.T) {
	long, with, p := rising(60, 50), rising(1, 5), rising(2, 70)
	for _, n := range []int{0, 1, 11, 12, 13, 31, 32, 33, 50} {
		given := long[:n]
		key, nonce := make([]byte, 32), make([]byte, 12)
		copy(key, given)
		copy(nonce, given)
		if !bytes.Equal(Block(given, 7, given), Block(key, 7, nonce)) {
			t.Errorf("Block by %d bytes", n)
		}
		if !bytes.Equal(Stream(given, 7, given, p), Stream(key, 7, nonce, p)) {
			t.Errorf("Stream by %d bytes", n)
		}
		if !bytes.Equal(Tag(given, p), Tag(key, p)) {
			t.Errorf("Tag by %d bytes", n)
		}
		sealed := Seal(key, nonce, with, p)
		if !bytes.Equal(Seal(given, given, with, p), sealed) {
			t.Errorf("Seal by %d bytes", n)
		}
		if got, ok := Open(given, given, with, sealed); !ok || !bytes.Equal(got, p) {
			t.Errorf("Open by %d bytes = %x, %v", n, got, ok)
		}
	}
	if !bytes.Equal(Block(nil, 0, nil), Block(make([]byte, 32), 0, make([]byte, 12))) {
		t.Error("Block by nil")
	}
}

// TestOnlyArguments holds P2 and the rule of memory against this package.
func TestOnlyArguments(t *testing.T) {
	given := rising(1, 200)
	key, nonce, with, p := given[:32], given[40:52], given[60:70], given[80:150]
	sealed := Seal(key, nonce, with, p)
	answers := func() [][]byte {
		text, _ := Open(key, nonce, with, sealed)
		return [][]byte{Block(key, 1, nonce), Stream(key, 1, nonce, p), Tag(key, p), Seal(key, nonce, with, p), text}
	}
	first := answers()
	for i, got := range answers() {
		if !bytes.Equal(got, first[i]) {
			t.Errorf("answer %d is another one the next time", i)
		}
		clear(got[:cap(got)])
	}
	for i, got := range answers() {
		if !bytes.Equal(got, first[i]) {
			t.Errorf("answer %d changed with one given before", i)
		}
	}
	if !bytes.Equal(given, rising(1, 200)) || !bytes.Equal(sealed, first[3]) {
		t.Error("an argument was changed")
	}
	clear(sealed)
	if !bytes.Equal(first[4], p) {
		t.Error("a text changed with the bytes it was opened from")
	}
}
