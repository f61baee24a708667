package origin_test

import (
	"strings"
	"testing"

	"herald/api"
	"herald/origin"
)

// tryHost: whether s is a host, or one but for large letters, is to be seen in
// every call, with both schemes, with and without a port.
func tryHost(t *testing.T, s string, spelt bool) {
	t.Helper()
	plain := inSmallLetters(s)
	right := spelt && plain == s
	for scheme, usual := range usualPorts {
		for _, port := range []struct {
			named string
			n     int
		}{{"", usual}, {":8080", 8080}} {
			want, text := of(scheme, plain, port.n), scheme+"://"+s+port.named
			if spelt {
				wantParse(t, text, want)
				wantSet(t, want).wantHas(t, scheme, s+port.named, true)
			} else {
				wantNoParse(t, text)
				wantSet(t, someOrigins(4)...).wantHas(t, scheme, s+port.named, false)
			}
			if given := of(scheme, s, port.n); right {
				wantPrint(t, given, strings.TrimSuffix(text, ":443"))
				wantSet(t, given)
			} else {
				wantNoPrint(t, given)
				wantNoSet(t, originError, given)
				wantNoSet(t, originError, origin443("b"), given)
			}
		}
	}
}

func TestLengthsOfHosts(t *testing.T) {
	tryHost(t, "", false)
	for n := 1; n <= 300; n++ {
		s := long(n)
		if len(s) != n {
			t.Fatalf("long(%d) has %d bytes", n, len(s))
		}
		if n < 4 || n > 60 && n < 68 || n > 248 {
			tryHost(t, s, n <= 253)
			tryHost(t, strings.ToUpper(s), n <= 253)
		}
	}
	// The host counts alone, without what stands about it.
	wantParse(t, "HTTPS://"+long(253)+":65535", of("https", long(253), 65535))
	wantNoParse(t, "http://"+long(254))
	wantNoParse(t, "http://"+long(254)+":1")
	tryHost(t, strings.Repeat("a.", 126)+"b", true)
	tryHost(t, strings.Repeat("a.", 126)+"bc", false)
	tryHost(t, strings.Repeat("a.", 127)+"b", false)
	tryHost(t, strings.Repeat("a.", 126), false)
	tryHost(t, long(253)+".", false)
	tryHost(t, long(252)+".", false)
}

// TestLengthsOfParts: first, in the middle and last.
func TestLengthsOfParts(t *testing.T) {
	for n := range 70 {
		part := strings.Repeat("p", n)
		for _, s := range []string{part, part + ".a", "a." + part, "a." + part + ".b", part + "." + part, part + "." + part + "." + part} {
			tryHost(t, s, 1 <= n && n <= 63)
		}
		if n > 1 {
			inner := "0" + strings.Repeat("-", n-2) + "9"
			tryHost(t, inner, n <= 63)
			tryHost(t, "a."+inner+".b", n <= 63)
		}
	}
}

func TestSigns(t *testing.T) {
	for _, s := range []string{"a-b", "a--b", "0-0", "a-b.c-d", "a.b-c", "a---------------b", "xn--a", "1", "0", "007", "1.2.3.4", "255.255.255.255", "999.0", "a1", "1a"} {
		tryHost(t, s, true)
	}
	for _, s := range []string{"-", "--", "-a", "a-", "-a-", "-.a", "a.-", "a.-.b", "-a.b", "a-.b", "a.-b", "a.b-", "a.-b.c", "a.b-.c", "a-.-b", "a.b.-"} {
		tryHost(t, s, false)
	}
}

func TestDots(t *testing.T) {
	for _, s := range []string{"a.b", "a.b.c", "A.b.C", "a.B"} {
		tryHost(t, s, true)
	}
	for _, s := range []string{".", "..", "...", ".a", "a.", "..a", "a..", ".a.", "a..b", "a...b", "a.b.", ".a.b", "a.b..c", "a..b.c"} {
		tryHost(t, s, false)
	}
}

func TestLetters(t *testing.T) {
	for i := range smallLetters {
		for _, s := range []string{largeLetters[i : i+1], smallLetters[i:i+1] + largeLetters[i:i+1] + ".a-" + largeLetters[i:i+1]} {
			tryHost(t, s, true)
		}
	}
	for _, s := range spellings("ab-c.d0") {
		tryHost(t, s, true)
	}
	tryHost(t, strings.ToUpper(long(253)), true)
	tryHost(t, "-A", false)
	tryHost(t, "A..B", false)
}

// TestEveryByteOfHosts: a byte by itself, at each place of a part, and beside
// each other byte.
func TestEveryByteOfHosts(t *testing.T) {
	taken := 0
	for b := range 256 {
		s := string([]byte{byte(b)})
		plain := strings.Contains(smallLetters+largeLetters+digits, s)
		for _, x := range []struct {
			host  string
			spelt bool
		}{{s, plain}, {s + "aa", plain}, {"a" + s + "a", plain || s == "-" || s == "."}, {"aa" + s, plain}, {"a." + s, plain}, {s + ".a", plain}, {"a." + s + ".b", plain}, {s + s, plain}} {
			if s == ":" { // it is no host, but "a" with a port, or with none
				wantNoPrint(t, of("http", x.host, 80))
				wantNoParse(t, "http://"+x.host)
				continue
			}
			tryHost(t, x.host, x.spelt)
			if x.spelt {
				taken++
			}
		}
		for other := range 256 {
			holdParse(t, "http://"+s+string([]byte{byte(other)}))
			holdPrint(t, of("https", s+string([]byte{byte(other)}), 1))
		}
	}
	if want := 8*62 + 2; taken != want {
		t.Errorf("%d hosts were tried as right ones, want %d", taken, want)
	}
}

// TestForeignTexts: what isn't ASCII is in no host and no scheme, not even where
// its small or large form would be.
func TestForeignTexts(t *testing.T) {
	for _, s := range []string{
		"\u017f", "\u212a", "\u0130", "\u0131", "\u00e9", "\u00c9", "\uff41", "\uff21", "\uff11", "\u0661", "\u3002", "\uff0e", "\uff61", "\u2010", "\uff0d", "\u00ad", "\u200b", "\ufeff",
		"\U0001f600", "\ufffd", "\x80", "\xff", "\xc3", "\xc3\x28", "\xed\xa0\x80", "\xf4\x90\x80\x80", "\xc1\xa1", "\xe0\x81\xa1", "a\x80", "\xe2\x82",
	} {
		for _, host := range []string{s, s + "a", "a" + s, "a" + s + "b", "a." + s, s + ".a"} {
			tryHost(t, host, false)
		}
		for _, scheme := range []string{s, s + "http", "http" + s, "ht" + s + "tp", "http" + s + "s"} {
			wantNoParse(t, scheme+"://a")
			wantNoPrint(t, of(scheme, "a", 80))
			wantSet(t, origin80("a"), origin443("a")).wantHas(t, scheme, "a", false)
		}
		wantNoParse(t, "http://a:"+s)
		wantNoParse(t, "http://a:8"+s)
		wantNoParse(t, "http://a:80"+s)
	}
	// The small form of the sign of Kelvin is k, the large form of the long s is S.
	b := wantSet(t, origin443("sk"))
	b.wantHas(t, "https", "SK", true)
	b.wantHas(t, "https", "\u017fk", false)
	b.wantHas(t, "https", "s\u212a", false)
	b.wantHas(t, "http\u017f", "sk", false)
	wantNoParse(t, "http\u017f://sk")
	wantNoParse(t, "HTTP\u017f://sk")
}

func TestWhatNoAuthorityHas(t *testing.T) {
	b := wantSet(t, origin443("a"), of("https", "a", 8443), origin80("a"))
	for _, s := range []string{
		"u@a", "u:p@a", "@a", "a@", "a@a", " a", "a ", "\ta", "a\n", "a\r\n", "a\x00", "\x00a", "[a]", "[::1]", "[::1]:443", "::1", "[", "]", "a]", "a/", "/a", "//a", "a/b", "a?", "a#", "a,a", "a;a", "a\\", "*", "*.a", "a_b", "_a", "%61", "a%2e", "a+b", "a=b", "(a)", "'a'", "\"a\"", "https://a", "a://a", "://a", "://",
	} {
		for _, port := range []string{"", ":443", ":8443"} {
			wantNoParse(t, "https://"+s+port)
			b.wantHas(t, "https", s+port, false)
			b.wantHas(t, "http", s+port, false)
		}
		wantNoPrint(t, of("https", s, 443))
		wantNoSet(t, originError, of("https", s, 443))
	}
	b.wantHas(t, "https", "a", true)
}

// TestShortHosts: all of up to six bytes out of those that matter.
func TestShortHosts(t *testing.T) {
	const alphabet = "aZ0-.:"
	taken := 0
	b := wantSet(t, origin443("a"), origin443("a.z"), of("https", "z0", 1), of("https", "a-a", 100))
	var walk func(s string)
	walk = func(s string) {
		if holdParse(t, "https://"+s) {
			taken++
		}
		holdPrint(t, of("https", s, 443))
		b.holdHas(t, "https", s)
		if len(s) == 6 {
			return
		}
		for i := range len(alphabet) {
			walk(s + alphabet[i:i+1])
		}
	}
	walk("")
	if taken < 5000 {
		t.Errorf("of the short hosts %d were taken: too few to tell", taken)
	}
}

// TestLongTexts: they are refused, however long, and in time.
func TestLongTexts(t *testing.T) {
	huge := strings.Repeat("a", 1<<20)
	for _, s := range []string{huge, "https://" + huge, huge + "://a", "https://" + strings.Repeat("a.", 1<<19), "https://a:" + strings.Repeat("1", 1<<20), strings.Repeat("://", 1<<18), strings.Repeat("http://a", 1<<17), "http://a" + strings.Repeat(":", 1<<20), strings.Repeat("\xff", 1<<20)} {
		if o, e := origin.Parse(s); o != (api.Origin{}) || e != originError {
			t.Errorf("P15.6: Parse of %d bytes: %v, %d", len(s), o, e)
		}
		if text, e := origin.Print(of("http", s, 80)); text != "" || e != originError {
			t.Errorf("P15.6: Print of a host of %d bytes: %d", len(s), e)
		}
		if text, e := origin.Print(of(s, "a", 80)); text != "" || e != originError {
			t.Errorf("P15.6: Print of a scheme of %d bytes: %d", len(s), e)
		}
		if set, e := origin.Of([]api.Origin{of("http", s, 80)}); set != nil || e != originError {
			t.Errorf("P15.6: Of a host of %d bytes: %d", len(s), e)
		}
		b := wantSet(t, origin80("a"))
		if b.s.Has("http", s) || b.s.Has(s, "a") || b.s.Has(s, s) {
			t.Errorf("P15.6: Has of %d bytes", len(s))
		}
	}
}
