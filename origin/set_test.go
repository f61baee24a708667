package origin_test

import (
	"fmt"
	"math/rand"
	"slices"
	"strconv"
	"strings"
	"testing"

	"herald/api"
)

// wrongOrigins have each field wrong by itself, and all of them.
func wrongOrigins() []api.Origin {
	var all []api.Origin
	for _, scheme := range []string{"", "HTTP", "Https", "ftp", "http:", "http://", "https ", "httpss"} {
		all = append(all, of(scheme, "a", 80))
	}
	for _, host := range []string{"", "A", "a.", ".a", "a..b", "-a", "a-", "-", "a b", "a:80", "u@a", "a/", "\xff", "\u00e9", long(254), strings.Repeat("a", 64)} {
		all = append(all, of("http", host, 80))
	}
	for _, port := range []int{0, -1, -80, 65536, 1 << 40} {
		all = append(all, of("http", "a", port))
	}
	return append(all, api.Origin{}, of("ftp", "A", 0))
}

func TestPrintOfWrongOnes(t *testing.T) {
	wantPrint(t, of("http", "a", 80), "http://a")
	for _, o := range wrongOrigins() {
		wantNoPrint(t, o)
		wantNoSet(t, originError, o)
		wantNoSet(t, originError, o, o)
	}
}

// TestErrorsOfLists: of every length about the greatest, with none or one wrong at
// each place, and none or two the same at each two places: each error by itself,
// and the first of several.
func TestErrorsOfLists(t *testing.T) {
	wrong := wrongOrigins()
	told := make(map[api.Errno]int)
	for _, n := range []int{0, 1, 2, 3, 15, 16, 17, 18, 33} {
		for bad := -1; bad < n; bad++ {
			for one := -1; one < n; one++ {
				for two := one + 1; two < max(n, 1); two++ {
					l := someOrigins(n)
					if one >= 0 {
						l[two] = l[one]
					}
					if bad >= 0 {
						l[bad] = wrong[(bad+one+two+n)%len(wrong)]
					}
					holdOf(t, l)
					told[modelOf(l)]++
				}
			}
		}
	}
	for _, e := range []api.Errno{api.OK, originError, twiceError, fullError} {
		if told[e] < 9 {
			t.Errorf("%d lists were tried that answer %d: too few to tell", told[e], e)
		}
	}
}

func TestFirstError(t *testing.T) {
	bad, many := of("https", "A", 443), someOrigins(17)
	twice := append(slices.Clone(many), many[16])
	wantNoSet(t, api.ErrFull, many...)
	wantNoSet(t, api.ErrTwice, twice...)
	wantNoSet(t, api.ErrOrigin, append(twice, bad)...)
	wantNoSet(t, api.ErrOrigin, append([]api.Origin{bad}, twice...)...)
	wantNoSet(t, api.ErrOrigin, append([]api.Origin{bad}, many...)...)
	wantNoSet(t, api.ErrOrigin, bad, bad)
	wantNoSet(t, api.ErrOrigin, many[0], many[0], bad)
	wantNoSet(t, api.ErrTwice, many[0], many[1], many[0])
	wantNoSet(t, api.ErrFull, someOrigins(1000)...)
	wantNoSet(t, api.ErrTwice, append(someOrigins(1000), many[5])...)
	wantNoSet(t, api.ErrTwice, slices.Repeat(many[:1], 17)...)
}

func TestMostOrigins(t *testing.T) {
	for n := range 24 {
		if l := someOrigins(n); n <= 16 {
			wantSet(t, l...)
		} else {
			wantNoSet(t, api.ErrFull, l...)
		}
	}
}

// TestNotTwice: origins that differ in one thing are two.
func TestNotTwice(t *testing.T) {
	b := wantSet(t, of("http", "a", 80), of("https", "a", 80), of("http", "a", 443), of("https", "a", 443), of("http", "b", 80), of("http", "a.b", 80), of("http", "b.a", 80), of("http", "a", 8), of("http", "a8", 80), of("http", "a", 8080), of("http", "a-b", 80), of("http", "ab", 80))
	b.wantHas(t, "http", "a8", true)
	b.wantHas(t, "http", "a8:0", false)
	b.wantHas(t, "http", "b.a", true)
	b.wantHas(t, "https", "b.a", false)
}

// TestOrderOfList: they are told as they were given, whatever they are.
func TestOrderOfList(t *testing.T) {
	r := rand.New(rand.NewSource(154))
	for n := range 17 {
		for range 40 {
			l := someOrigins(n)
			r.Shuffle(n, func(i, j int) { l[i], l[j] = l[j], l[i] })
			b := wantSet(t, l...)
			b.look(t, "P15.4")
			back := slices.Clone(l)
			slices.Reverse(back)
			wantSet(t, back...)
		}
	}
	a, z := origin80("a"), origin443("z")
	if l := wantSet(t, z, a).s.List(); len(l) != 2 || l[0] != z || l[1] != a {
		t.Errorf("P15.4: List() = %v, want %v, %v", l, z, a)
	}
}

// TestHasInOtherSpellings: every origin of a set in large letters, with its port
// named, and not where it isn't the usual one.
func TestHasInOtherSpellings(t *testing.T) {
	for _, n := range []int{1, 2, 15, 16} {
		l := someOrigins(n)
		b := wantSet(t, l...)
		for _, o := range l {
			for _, host := range spellings(o.Host) {
				b.wantHas(t, o.Scheme, fmt.Sprintf("%s:%d", host, o.Port), true)
				usual := o.Port == usualPorts[o.Scheme]
				b.wantHas(t, o.Scheme, host, usual || modelHas(l, o.Scheme, o.Host))
				b.wantHas(t, strings.ToUpper(o.Scheme), host, false)
				b.wantHas(t, o.Scheme, fmt.Sprintf("%s:0%d", host, o.Port), false)
				b.wantHas(t, o.Scheme, fmt.Sprintf("%s:%d", host, o.Port+65536), false)
			}
		}
	}
	b := wantSet(t, of("https", "ab.c", 444))
	for _, host := range spellings("ab.c") {
		b.wantHas(t, "https", host+":444", true)
		b.wantHas(t, "https", host, false)
		b.wantHas(t, "https", host+":443", false)
		b.wantHas(t, "http", host+":444", false)
	}
}

// TestHasNot: what is near an origin of a set, but isn't one.
func TestHasNot(t *testing.T) {
	b := wantSet(t, origin443("example.com"), of("http", "a", 8080))
	for _, authority := range []string{
		"www.example.com", "example.com.", ".example.com", "example.co", "xample.com", "example.comm", "eexample.com", "example-com", "examplecom", "com", "example", "example.com.example.com", "example.org",
		"example.com:", "example.com:80", "example.com:4430", "example.com:44", "example.com:444", "example.com:+443", "example.com: 443", "example.com:443 ", "example.com:443:443", "example.com:443/", "example.com/", "@example.com", "example.com@", "example.com@example.com", "example.com:443@example.com", "https://example.com", "//example.com", "a", "a:8080", "A:8080", " example.com", "example.com\n", "example.com\x00", "",
	} {
		b.wantHas(t, "https", authority, false)
	}
	for _, scheme := range []string{"", "http", "HTTPS", "Https", "https:", "https://", " https", "https ", "wss", "https://example.com"} {
		b.wantHas(t, scheme, "example.com", false)
		b.wantHas(t, scheme, "example.com:443", false)
		b.wantHas(t, scheme, "", false)
	}
	b.wantHas(t, "https", "example.com", true)
	b.wantHas(t, "http", "a:8080", true)
	b.wantHas(t, "http", "a", false)
	b.wantHas(t, "https", "a:8080", false)
}

// TestThereAndBack: P15.3, both ways.
func TestThereAndBack(t *testing.T) {
	r := rand.New(rand.NewSource(153))
	for _, host := range []string{"a", "0", "a-b", "a.b.c", "x--y.1", long(63), long(253), strings.Repeat("a.", 126) + "b"} {
		for _, port := range []int{1, 2, 9, 10, 79, 80, 81, 99, 100, 442, 443, 444, 999, 1000, 9999, 10000, 65534, 65535} {
			for scheme := range usualPorts {
				if !holdPrint(t, of(scheme, host, port)) {
					t.Errorf("P15.2: %s is not printed", shown(of(scheme, host, port)))
				}
				text := anyLetters(r, scheme+"://"+host+":"+strconv.Itoa(port))
				if !holdParse(t, text) {
					t.Errorf("P15.1: %q is not parsed", text)
				}
			}
		}
	}
}

// TestCallsChangeNothing: R2, what a set tells stays, whatever it and others are asked.
func TestCallsChangeNothing(t *testing.T) {
	l := someOrigins(16)
	b := wantSet(t, l...)
	for _, o := range someOrigins(40) {
		b.holdHas(t, o.Scheme, o.Host+":"+strconv.Itoa(o.Port))
		b.holdHas(t, o.Scheme, "@"+o.Host)
		holdOf(t, append(slices.Clone(l), o))
		holdOf(t, []api.Origin{o, {}})
		b.look(t, "R2")
	}
}
