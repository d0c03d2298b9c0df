package sha

import (
	"bytes"
	"crypto/hkdf"
	"crypto/hmac"
	"crypto/sha256"
	"encoding/hex"
	"math"
	"strings"
	"testing"
)

func plain(s string) []byte {
	p, err := hex.DecodeString(s)
	if err != nil {
		panic(err)
	}
	return p
}

func same(t *testing.T, what string, got []byte, want string) {
	t.Helper()
	if hex.EncodeToString(got) != want {
		t.Errorf("%s = %x, not %s", what, got, want)
	}
}

// filler has n bytes of which no two neighbours are alike.
func filler(n int) []byte {
	p := make([]byte, n)
	for i := range p {
		p[i] = byte(7*i + i>>8)
	}
	return p
}

func TestSumVectors(t *testing.T) {
	for _, c := range []struct{ text, want string }{
		{"", "e3b0c44298fc1c149afbf4c8996fb92427ae41e4649b934ca495991b7852b855"},
		{"abc", "ba7816bf8f01cfea414140de5dae2223b00361a396177a9cb410ff61f20015ad"},
		{"abcdbcdecdefdefgefghfghighijhijkijkljklmklmnlmnomnopnopq", "248d6a61d20638b8e5c026930c3e6039a33ce45964ff2167f6ecedd419db06c1"},
		{strings.Repeat("a", 1000000), "cdc76e5c9914fb9281a1c7e284d73e67f1809a48a497200e046d39ccc7112cd0"},
	} {
		same(t, "Sum", Sum([]byte(c.text)), c.want)
	}
}

func TestSumLengths(t *testing.T) {
	all := filler(300)
	for n := range all {
		want := sha256.Sum256(all[:n])
		if got := Sum(all[:n]); !bytes.Equal(got, want[:]) {
			t.Errorf("of %d bytes: %x", n, got)
		}
	}
}

func TestSumParts(t *testing.T) {
	all := filler(200)
	want := Sum(all)
	for i := range len(all) + 1 {
		for k := i; k <= len(all); k += 7 {
			if got := Sum(all[:i], all[i:k], nil, all[k:], []byte{}); !bytes.Equal(got, want) {
				t.Fatalf("parts cut at %d and %d: %x", i, k, got)
			}
		}
	}
	var ones [][]byte
	for i := range all {
		ones = append(ones, all[i:i+1])
	}
	if got := Sum(ones...); !bytes.Equal(got, want) {
		t.Errorf("of one byte a part: %x", got)
	}
	none := "e3b0c44298fc1c149afbf4c8996fb92427ae41e4649b934ca495991b7852b855"
	same(t, "Sum()", Sum(), none)
	same(t, "Sum(nil)", Sum(nil), none)
	same(t, "Sum(nil, nil)", Sum(nil, []byte{}, nil), none)
}

func TestMacVectors(t *testing.T) {
	same(t, "Mac of Jefe", Mac([]byte("Jefe"), []byte("what do ya want for nothing?")), "5bdcc146bf60754e6a042426089575c75a003f089d2739839dec58b964ec3843")
	same(t, "RFC 4231, 1", Mac(bytes.Repeat([]byte{0x0b}, 20), []byte("Hi There")), "b0344c61d8db38535ca8afceaf0bf12b881dc200c9833da726e9376c2e32cff7")
	long := bytes.Repeat([]byte{0xaa}, 131)
	same(t, "RFC 4231, 6", Mac(long, []byte("Test Using Larger Than Block-Size Key - Hash Key First")), "60e431591ee0b67f0d8a26aacbf5b77f8e0bc6213728c5140546040f0ee37f54")
	same(t, "Mac of nothing", Mac(nil), "b613679a0814d9ec772f95d778c35fc5ff1697c493715653c6c712144292c5ad")
}

func TestMacLengths(t *testing.T) {
	text := filler(150)
	for _, n := range []int{0, 1, 31, 32, 33, 63, 64, 65, 127, 128, 129, 300} {
		key := filler(n)
		for k := range text {
			h := hmac.New(sha256.New, key)
			h.Write(text[:k])
			want := h.Sum(nil)
			if got := Mac(key, text[:k/3], nil, text[k/3:k]); !bytes.Equal(got, want) {
				t.Fatalf("key of %d bytes, text of %d: %x", n, k, got)
			}
		}
	}
}

func TestHkdfVectors(t *testing.T) {
	secret, salt, info := bytes.Repeat([]byte{0x0b}, 22), plain("000102030405060708090a0b0c"), plain("f0f1f2f3f4f5f6f7f8f9")
	key := Extract(salt, secret)
	same(t, "RFC 5869, 1, key", key, "077709362c2e32df0ddc3f0dc47bba6390b6c73bb50f9c3122ec844ad7c2b3e5")
	same(t, "RFC 5869, 1", Expand(key, info, 42), "3cb25f25faacd57a90434f64d0362f2a2d2d0a90cf1a5a4c5db02d56ecc4c5bf34007208d5b887185865")
	key = Extract(nil, secret)
	same(t, "RFC 5869, 3, key", key, "19ef24a32c717b167f33a91d6f648bdf96596776afdb6377ac434c1c293ccb04")
	same(t, "RFC 5869, 3", Expand(key, nil, 42), "8da4e775a563c18f715f802a063c5a31b8a11f5c5ee1879ec3454e5f3c738d2d9d201395faa4b61a96c8")
}

func TestExtractIsMac(t *testing.T) {
	for _, n := range []int{0, 1, 64, 65, 200} {
		salt, secret := filler(n), filler(n/2)
		want, err := hkdf.Extract(sha256.New, secret, salt)
		if err != nil {
			t.Fatal(err)
		}
		if got := Extract(salt, secret); !bytes.Equal(got, want) || !bytes.Equal(got, Mac(salt, secret)) {
			t.Errorf("salt of %d bytes: %x", n, got)
		}
	}
}

func TestExpandLengths(t *testing.T) {
	key, info := filler(32), filler(50)
	want, err := hkdf.Expand(sha256.New, key, string(info), 8160)
	if err != nil {
		t.Fatal(err)
	}
	for _, n := range []int{1, 2, 31, 32, 33, 63, 64, 65, 4096, 8128, 8129, 8159, 8160} {
		if got := Expand(key, info, n); !bytes.Equal(got, want[:n]) {
			t.Errorf("%d bytes: %x", n, got)
		}
	}
	for _, n := range []int{8161, 8192, 9000, math.MaxInt} {
		if got := Expand(key, info, n); !bytes.Equal(got, want) {
			t.Errorf("beyond the limit, at %d: %d bytes", n, len(got))
		}
	}
	for _, n := range []int{0, -1, math.MinInt} {
		if got := Expand(key, info, n); len(got) != 0 {
			t.Errorf("%d bytes: %x", n, got)
		}
	}
}

func TestExpandInputs(t *testing.T) {
	for _, n := range []int{0, 1, 63, 64, 65, 200} {
		key, info := filler(n), filler(n/2)
		want, err := hkdf.Expand(sha256.New, key, string(info), 100)
		if err != nil {
			t.Fatal(err)
		}
		if got := Expand(key, info, 100); !bytes.Equal(got, want) {
			t.Errorf("key of %d bytes: %x", n, got)
		}
	}
	if !bytes.Equal(Expand(nil, nil, 40), Expand([]byte{}, []byte{}, 40)) {
		t.Error("nil and empty are unlike")
	}
}

func TestWide(t *testing.T) {
	for n := range 130 {
		p := filler(n)
		first, second := sha256.Sum256(append([]byte{0}, p...)), sha256.Sum256(append([]byte{1}, p...))
		want := append(first[:], second[:]...)
		if got := Wide(p[:n/2], nil, p[n/2:]); !bytes.Equal(got, want) {
			t.Errorf("of %d bytes: %x", n, got)
		}
	}
	if got, want := Wide(), append(Sum([]byte{0}), Sum([]byte{1})...); !bytes.Equal(got, want) {
		t.Errorf("of nothing: %x", got)
	}
}

// answers calls everything with parts of one array, as far as they reach.
func answers(p []byte) [][]byte {
	return [][]byte{
		Sum(p[:10], p[10:]), Mac(p[:70], p[70:90], p[90:]), Mac(p[:20], p), Extract(p[:10], p[10:]),
		Expand(p[:40], p[40:], 1), Expand(p[:40], p[40:], 33), Expand(p[:40], p[40:], 64), Wide(p[:10], p[10:]),
		Sum(), Mac(nil, nil), Extract(nil, nil), Wide(nil),
	}
}

// TestOnlyArguments holds P2 and the rule of memory against this package.
func TestOnlyArguments(t *testing.T) {
	p := filler(120)
	first := answers(p)
	kept := make([][]byte, len(first))
	for i, x := range first {
		kept[i] = bytes.Clone(x)
		if cap(x) != len(x) {
			t.Errorf("answer %d can grow: %d of %d bytes", i, len(x), cap(x))
		}
	}
	if !bytes.Equal(p, filler(120)) {
		t.Error("an argument was changed")
	}
	second := answers(p)
	clear(p)
	for _, x := range second {
		clear(x)
	}
	third := answers(filler(120))
	for i := range first {
		if !bytes.Equal(first[i], kept[i]) {
			t.Errorf("answer %d changed with an argument or with another answer", i)
		}
		if !bytes.Equal(third[i], kept[i]) {
			t.Errorf("answer %d is another one the next time", i)
		}
	}
}

// TestArgumentsKeepTheirRoom: what stands behind a part, in the same array, stays.
func TestArgumentsKeepTheirRoom(t *testing.T) {
	p := filler(200)
	Sum(p[:5], p[20:30])
	Mac(p[:5], p[20:30])
	Mac(p[:70], p[80:90])
	Extract(p[:5], p[20:30])
	Expand(p[:5], p[20:30], 100)
	Wide(p[:5], p[20:30])
	if !bytes.Equal(p, filler(200)) {
		t.Error("what stands behind an argument was changed")
	}
}
