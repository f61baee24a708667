package huff_test

import (
	"math/rand"
	"strings"
	"testing"

	"herald/api"
	"herald/huff"
)

var told = []struct{ text, bytes string }{
	{"", ""},
	{"www.example.com", "\xf1\xe3\xc2\xe5\xf2\x3a\x6b\xa0\xab\x90\xf4\xff"},
	{"no-cache", "\xa8\xeb\x10\x64\x9c\xbf"},
	{"302", "\x64\x02"},
	{"a", "\x1f"},
	{"000", "\x00\x01"},
	{"\x00", "\xff\xc7"},
	{"\n", "\xff\xff\xff\xf3"},
	{"\x16", "\xff\xff\xff\xfb"},
	{"\xf9", "\xff\xff\xff\xef"},
	{" ", "\x53"},
	{"&", "\xf8"},                        // its 8 bits fill the byte
	{"00000000", "\x00\x00\x00\x00\x00"}, // 40 bits: the last byte is full
	{"00000", "\x00\x00\x00\x7f"},        // 25 bits: 7 ones fill the last byte up
	{"&&", "\xf8\xf8"},                   // nothing stands between full bytes
	{"tttttttt", "\x4a\x52\x94\xa5\x29"}, // the last code of 5 bits
	{"\n\r\x16", "\xff\xff\xff\xf3\xff\xff\xff\xdf\xff\xff\xff\xbf"}, // the longest codes
}

// texts has ordinary texts, the edges, and what a generator with a fixed beginning makes.
func texts() []string {
	list := []string{"", strings.Repeat("\xff", 3), "日本", "\xc3\x28"}
	for _, x := range told {
		list = append(list, x.text)
	}
	for n := range 40 {
		list = append(list, strings.Repeat("0", n), strings.Repeat("a\x00", n))
	}
	g := rand.New(rand.NewSource(1))
	for range 3000 {
		list = append(list, randomText(g, g.Intn(60)))
	}
	return append(list, randomText(g, 5000), allBytes())
}

func randomText(g *rand.Rand, n int) string {
	b := make([]byte, n)
	for i := range b {
		b[i] = byte(g.Intn(256))
		if g.Intn(2) == 0 {
			b[i] = " /.-019aceiost:=%AZ"[g.Intn(19)]
		}
	}
	return string(b)
}

func allBytes() string {
	b := make([]byte, 256)
	for c := range b {
		b[c] = byte(c)
	}
	return string(b)
}

func wantEncode(t *testing.T, s, want string) {
	t.Helper()
	if b := huff.Encode(s); b != want {
		t.Errorf("P1.1: Encode(%q) = %x, want %x", s, b, want)
	}
}

func wantLen(t *testing.T, s string, want int) {
	t.Helper()
	if n := huff.Len(s); n != want {
		t.Errorf("P1.2: Len(%q) = %d, want %d", s, n, want)
	}
}

func wantDecode(t *testing.T, b, want string) {
	t.Helper()
	if s, e := huff.Decode(b); s != want || e != api.OK {
		t.Errorf("P1.3: Decode(%x) = %q, %d, want %q", b, s, e, want)
	}
}

func wantRefused(t *testing.T, b string) {
	t.Helper()
	if s, e := huff.Decode(b); s != "" || e != api.ErrHuff {
		t.Errorf("P1.3: Decode(%x) = %q, %d, want ErrHuff", b, s, e)
	}
}

func wantAsModel(t *testing.T, b string) {
	t.Helper()
	if s, ok := modelDecode(b); ok {
		wantDecode(t, b, s)
	} else {
		wantRefused(t, b)
	}
}

func TestEncodeTold(t *testing.T) {
	for _, x := range told {
		wantEncode(t, x.text, x.bytes)
	}
}

func TestEncodeEveryByteAndPair(t *testing.T) {
	for c := range 256 {
		one := string([]byte{byte(c)})
		wantEncode(t, one, join(textBits(one)))
		for d := range 256 {
			two := string([]byte{byte(c), byte(d)})
			wantEncode(t, two, join(textBits(two)))
		}
	}
}

func TestEncodeTexts(t *testing.T) {
	for _, s := range texts() {
		wantEncode(t, s, join(textBits(s)))
	}
}

func TestLen(t *testing.T) {
	for _, x := range told {
		wantLen(t, x.text, len(x.bytes))
	}
	for c := range 256 {
		s := string([]byte{byte(c)})
		for n := range 9 {
			wantLen(t, strings.Repeat(s, n), (n*listed[c].length+7)/8)
		}
	}
	for _, s := range texts() {
		wantLen(t, s, (len(textBits(s))+7)/8)
		wantLen(t, s, len(huff.Encode(s)))
	}
	wantLen(t, allBytes(), 583)
}

func TestDecodeTold(t *testing.T) {
	for _, x := range told {
		wantDecode(t, x.bytes, x.text)
	}
}

func TestDecodeRefused(t *testing.T) {
	for _, b := range []string{
		"\x18", "\x1f\xff", "\xff", "\xff\xff\xff\xfc", "\x00", "\x00\x00", // the chapter's
		"\x1e", "\x1d", "\x1b", // a zero in each place of the padding
		"\x00\x00\x00\x7e",         // a zero in 7 bits of padding
		"\x00\x00\x00\x00\x00\xff", // 8 ones behind a full byte
		"\xf8\xff", "\x64\x02\xff",
		"\xff\xff", "\xff\xff\xff", "\xff\xff\xff\xff",
		"\xff\xff\xff\xfd", "\xff\xff\xff\xfe", // the end's code and any bits behind it
		"\xff\xc0", // 13 bits of byte 0, and zeros
	} {
		wantRefused(t, b)
	}
}

// A few ones may stand behind any text: 7 bits at most, and no zero.
func TestDecodePadding(t *testing.T) {
	for n := range 9 {
		s := strings.Repeat("0", n)
		bits := textBits(s)
		room := (8 - len(bits)%8) % 8
		wantDecode(t, join(bits), s)
		for extra := 1; extra <= 4; extra++ {
			wantRefused(t, join(bits)+strings.Repeat("\xff", extra))
		}
		for zero := range room {
			pad := strings.Repeat("1", zero) + "0" + strings.Repeat("1", room-zero-1)
			wantAsModel(t, join(bits+pad))
			if room < 5 {
				wantRefused(t, join(bits+pad))
			}
		}
	}
}

// The end's code is refused wherever it stands, whatever stands behind it.
func TestDecodeEnd(t *testing.T) {
	for n := range 9 {
		for _, behind := range []string{"", "a", "aa", "\n", "www.example.com"} {
			ahead := textBits(strings.Repeat("a", n))
			wantRefused(t, join(ahead+endBits+textBits(behind)))
			wantRefused(t, join(ahead+endBits+endBits+textBits(behind)))
		}
	}
}

func TestDecodeEveryShortOne(t *testing.T) {
	wantAsModel(t, "")
	for c := range 256 {
		wantAsModel(t, string([]byte{byte(c)}))
		for d := range 256 {
			wantAsModel(t, string([]byte{byte(c), byte(d)}))
		}
	}
}

// One bit changed, a byte cut off, a byte laid behind: what ordinary damage makes of a code.
func TestDecodeDamaged(t *testing.T) {
	g := rand.New(rand.NewSource(2))
	for _, s := range texts() {
		b := []byte(huff.Encode(s))
		wantAsModel(t, string(b)+string([]byte{byte(g.Intn(256))}))
		if len(b) == 0 {
			continue
		}
		wantAsModel(t, string(b[:len(b)-1]))
		b[g.Intn(len(b))] ^= 1 << g.Intn(8)
		wantAsModel(t, string(b))
	}
}

func TestDecodeRandom(t *testing.T) {
	g := rand.New(rand.NewSource(3))
	for range 20000 {
		b := make([]byte, g.Intn(12))
		for i := range b {
			b[i] = byte(g.Intn(256))
			if g.Intn(3) == 0 {
				b[i] = 0xff // long codes and the end's are seldom else
			}
		}
		wantAsModel(t, string(b))
	}
}

func TestThereAndBack(t *testing.T) {
	for c := range 256 {
		for n := range 9 {
			back(t, strings.Repeat(string([]byte{byte(c)}), n))
		}
	}
	for _, s := range texts() {
		back(t, s)
	}
}

func back(t *testing.T, s string) {
	t.Helper()
	b := huff.Encode(s)
	if x, e := huff.Decode(b); x != s || e != api.OK {
		t.Errorf("P1.4: Decode(Encode(%q)) = %q, %d", s, x, e)
	}
}

func TestOneForm(t *testing.T) {
	forms := map[string]string{}
	for b := range 1 << 16 {
		oneForm(t, forms, string([]byte{byte(b >> 8), byte(b)}))
		oneForm(t, forms, string([]byte{byte(b >> 8), byte(b), 0xff}))
	}
	for b := range 256 {
		oneForm(t, forms, string([]byte{byte(b)}))
	}
	oneForm(t, forms, "")
	if len(forms) < 1000 {
		t.Errorf("P1.4: only %d lists of bytes were taken", len(forms))
	}
}

func oneForm(t *testing.T, forms map[string]string, b string) {
	t.Helper()
	s, e := huff.Decode(b)
	if e != api.OK {
		return
	}
	if x := huff.Encode(s); x != b {
		t.Errorf("P1.4: Decode takes %x for %q, whose code is %x", b, s, x)
	}
	if other, ok := forms[s]; ok && other != b {
		t.Errorf("P1.4: %x and %x both tell %q", other, b, s)
	}
	forms[s] = b
}

func TestNoPanic(t *testing.T) {
	for c := range 256 {
		s := strings.Repeat(string([]byte{byte(c)}), 1000)
		b := huff.Encode(s)
		if want := (1000*listed[c].length + 7) / 8; len(b) != want || huff.Len(s) != want {
			t.Errorf("P1.5: a thousand bytes %d: %d bytes, Len %d, want %d", c, len(b), huff.Len(s), want)
		}
		back(t, s)
		wantAsModel(t, s)
	}
	long := strings.Repeat("\n", 1<<18)
	if n := huff.Len(long); n != 30<<18/8 {
		t.Errorf("P1.5: Len of a long text = %d", n)
	}
	if x, e := huff.Decode(huff.Encode(long)); x != long || e != api.OK {
		t.Errorf("P1.5: a long text is read back as %d bytes, %d", len(x), e)
	}
	for _, c := range []string{"\x00", "\xff", "\x7f", "\x80"} {
		wantAsModel(t, strings.Repeat(c, 1<<12))
	}
}

// R4: nothing is kept from call to call, not of a refused one either.
func TestSameAgain(t *testing.T) {
	for range 3 {
		wantRefused(t, "\x18")
		for _, x := range told {
			wantDecode(t, x.bytes, x.text)
			wantEncode(t, x.text, x.bytes)
			wantLen(t, x.text, len(x.bytes))
		}
	}
}

func FuzzDecode(f *testing.F) {
	for _, x := range told {
		f.Add(x.bytes)
		f.Add(x.text)
	}
	f.Fuzz(func(t *testing.T, b string) {
		wantAsModel(t, b)
		oneForm(t, map[string]string{}, b)
		back(t, b)
		wantLen(t, b, len(huff.Encode(b)))
	})
}
