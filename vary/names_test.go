package vary_test

import (
	"slices"
	"strings"
	"testing"

	"herald/api"
	"herald/lists"
	"herald/vary"
)

// holdNames holds Names against the model.
func holdNames(t *testing.T, r api.Response) ([]string, bool) {
	t.Helper()
	names, star := vary.Names(r)
	if want, wantStar := modelNames(r); !slices.Equal(names, want) || star != wantStar {
		t.Errorf("P16.1: Names(%s) = %q, %v, want %q, %v", lists.ShownResponse(r), names, star, want, wantStar)
	}
	return names, star
}

func wantNames(t *testing.T, r api.Response, star bool, want ...string) {
	t.Helper()
	names, told := vary.Names(r)
	if !slices.Equal(names, want) || told != star {
		t.Errorf("P16.1: Names(%s) = %q, %v, want %q, %v", lists.ShownResponse(r), names, told, want, star)
	}
	holdNames(t, r)
}

func TestNamesExamples(t *testing.T) {
	wantNames(t, varying("Accept-Language, accept", "accept,,x"), false, "accept-language", "accept", "x")
	wantNames(t, varying(" * "), true)
	wantNames(t, varying("a, *"), true, "a")
	wantNames(t, api.Response{Fields: lists.Of("Vary", "a")}, false)
	wantNames(t, varying(""), false)
	wantNames(t, api.Response{}, false)
	wantNames(t, varying("a b"), false, "a b")
}

// TestWhichFields: just those named vary, in these letters, in their order,
// whatever stands beside them.
func TestWhichFields(t *testing.T) {
	wantNames(t, api.Response{Status: 200, Fields: []api.Field{}, Body: "vary"}, false)
	for _, name := range []string{"", "Vary", "VARY", "varY", "vAry", "var", "varyx", "xvary", " vary", "vary ", "vary\t", ":vary", "vary:", "vary\x00", "v\u0430ry", "vary,", "va ry", "accept", "*"} {
		wantNames(t, api.Response{Fields: lists.Of(name, "a, *")}, false)
		wantNames(t, api.Response{Fields: lists.Of(name, "a", "vary", "b", name, "*", "vary", "c", name, "d")}, false, "b", "c")
		wantNames(t, api.Response{Fields: lists.Of("vary", "c", name, "x,vary", "vary", "b")}, false, "c", "b")
	}
	wantNames(t, varying("c", "a", "b"), false, "c", "a", "b")
	wantNames(t, varying("vary"), false, "vary")
	wantNames(t, varying("a", "", "b"), false, "a", "b")
	wantNames(t, api.Response{Status: -1, Fields: []api.Field{{Name: "vary", Value: "a", Never: true}, {Name: "vary", Value: "b"}}, Body: "*, x"}, false, "a", "b")
	// A value isn't joined with the next one.
	wantNames(t, varying("ac", "cept"), false, "ac", "cept")
	wantNames(t, varying("a,", ",b"), false, "a", "b")
}

// TestEmptyPieces: values that have no piece but empty ones, and those that have
// some beside.
func TestEmptyPieces(t *testing.T) {
	for _, v := range []string{"", ",", ",,", ",,,,,,,,", " ", "\t", " \t \t", " ,", ", ", "\t,\t", " , , ", ",\t,", " \t, \t,\t "} {
		wantNames(t, varying(v), false)
		wantNames(t, varying(v, v), false)
		wantNames(t, varying(v, "a", v), false, "a")
		wantNames(t, varying(v+",a,"+v), false, "a")
		wantNames(t, varying("a,"+v+",b"), false, "a", "b")
		wantNames(t, varying("a,"+v+",*,"+v+",b"), true, "a", "b")
	}
}

// TestBlanks: they are dropped at the two ends of a piece, however many, and
// stay inside.
func TestBlanks(t *testing.T) {
	for _, blank := range []string{" ", "\t", "  ", "\t\t", " \t", "\t ", " \t \t "} {
		wantNames(t, varying(blank+"a"), false, "a")
		wantNames(t, varying("a"+blank), false, "a")
		wantNames(t, varying(blank+"a"+blank), false, "a")
		wantNames(t, varying("b,"+blank+"a"+blank+",c"), false, "b", "a", "c")
		wantNames(t, varying("b"+blank+","+blank+"a"), false, "b", "a")
		wantNames(t, varying("a"+blank+"b"), false, "a"+blank+"b")
		wantNames(t, varying(blank+"a"+blank+"b"+blank), false, "a"+blank+"b")
		wantNames(t, varying(blank+"*"+blank), true)
		wantNames(t, varying("a"+blank+","+blank+"a"), false, "a")
		wantNames(t, varying("*"+blank+"*"), false, "*"+blank+"*")
		wantNames(t, varying(blank+"*"+blank+"a"), false, "*"+blank+"a")
	}
}

// TestEveryByte: at each end, inside, and alone: 32 and 9 are blanks, 44 is the
// comma, 42 the star, A to Z have small letters, and all others stay.
func TestEveryByte(t *testing.T) {
	for b := range 256 {
		x := string([]byte{byte(b)})
		switch {
		case x == " " || x == "\t":
			wantNames(t, varying(x), false)
			wantNames(t, varying("n"+x, x+"m", "n"+x+"m"), false, "n", "m", "n"+x+"m")
			wantNames(t, varying(x+"*"), true)
			wantNames(t, varying("*"+x), true)
		case x == ",":
			wantNames(t, varying(x), false)
			wantNames(t, varying("n"+x, x+"m", "o"+x+"p"), false, "n", "m", "o", "p")
			wantNames(t, varying(x+"*"), true)
			wantNames(t, varying("*"+x), true)
		default:
			y := x
			if at := strings.Index(largeLetters, x); at >= 0 {
				y = smallLetters[at : at+1]
			}
			if x == "*" {
				wantNames(t, varying(x), true)
			} else {
				wantNames(t, varying(x), false, y)
			}
			wantNames(t, varying("n"+x, x+"n", "n"+x+"n", " \t"+x+"n"+x+" \t"), false, slices.Compact([]string{"n" + y, y + "n", "n" + y + "n", y + "n" + y})...)
			wantNames(t, varying(x+"*"), false, y+"*")
			wantNames(t, varying("* "+x), false, "* "+y)
		}
	}
}

// TestLetters: A to Z alone have small letters; what Unicode makes small stays.
func TestLetters(t *testing.T) {
	wantNames(t, varying(largeLetters, smallLetters), false, smallLetters)
	wantNames(t, varying("X-Y_Z1, x-y_z1, X-y_Z1"), false, "x-y_z1")
	for _, s := range []string{
		"\u00c9", "\u00e9", "\u0130", "\u0131", "\u0160", "\u212a", "\u017f", "\u03a3", "\u0410", "\uff21", "\u01c5", "\U00010400",
		"\xc9", "\xe9", "\xc0", "\xff", "\xc3", "\x80", "\xa0", "\xc2\xa0", "\u0085", "\u2003", "\u3000", "\ufeff", "\ufffd", "\xed\xa0\x80", "\xf4\x90\x80\x80",
	} {
		wantNames(t, varying(s), false, s)
		wantNames(t, varying("A"+s+"Z, B"+s, s+"C"), false, "a"+s+"z", "b"+s, s+"c")
		wantNames(t, varying(s+", "+s+" ,\t"+s), false, s)
	}
	wantNames(t, varying("\u00c9,\u00e9,\u212a,K,k,\u017f,S"), false, "\u00c9", "\u00e9", "\u212a", "k", "\u017f", "s")
}

// TestStar: a piece that is one, wherever it stands, is told and is no name;
// a piece that only has one is a name.
func TestStar(t *testing.T) {
	for _, c := range []struct {
		value string
		names []string
	}{
		{"*", nil}, {"*,", nil}, {",*", nil}, {"*,*", nil}, {" *\t,\t* ", nil},
		{"*,a,b", []string{"a", "b"}}, {"a,*,b", []string{"a", "b"}}, {"a,b,*", []string{"a", "b"}},
		{"*,a,*,a,*", []string{"a"}}, {"a, * ", []string{"a"}}, {"\t*,a", []string{"a"}}, {"**,*", []string{"**"}}, {"*,*x,x*", []string{"*x", "x*"}},
	} {
		wantNames(t, varying(c.value), true, c.names...)
		wantNames(t, varying("z", c.value), true, append([]string{"z"}, c.names...)...)
		wantNames(t, varying(c.value, "z"), true, append(slices.Clone(c.names), "z")...)
		wantNames(t, varying(c.value, "*"), true, c.names...)
		wantNames(t, api.Response{Fields: lists.Of("Vary", c.value, "x", c.value, "", "*")}, false)
	}
	for _, s := range []string{"**", "*x", "x*", "* *", "*\x00", "\n*", "*\r", "\xa0*", "\"*\"", "'*'", "*;", "*/*", "\\*", "%2a", "\uff0a"} {
		wantNames(t, varying(s), false, s)
		wantNames(t, varying(s, " "+s+" ,x"), false, s, "x")
	}
	wantNames(t, varying("x"), false, "x")
}

// TestTwice: a name is told where it first came, whatever its letters and blanks
// were, in one value or in two.
func TestTwice(t *testing.T) {
	wantNames(t, varying("a,a"), false, "a")
	wantNames(t, varying("a", "a"), false, "a")
	wantNames(t, varying("a,b,a,c,b,a"), false, "a", "b", "c")
	wantNames(t, varying("b,a", "a,b"), false, "b", "a")
	wantNames(t, varying("Accept", "accept", "ACCEPT", "aCCEPT"), false, "accept")
	wantNames(t, varying("accept,Accept, ACCEPT ,\taccepT"), false, "accept")
	wantNames(t, varying("a b, A B,a  b,a\tb"), false, "a b", "a  b", "a\tb")
	wantNames(t, varying("a", "b", "c", "b,a,c", "d"), false, "a", "b", "c", "d")
	wantNames(t, varying("ab,a,b,aB,Ab"), false, "ab", "a", "b")
}

// TestNamesAgain: names that are written as a value again are the same names.
func TestNamesAgain(t *testing.T) {
	for _, r := range []api.Response{varying("Accept-Language, accept", "accept,,x"), varying("a b,*,\u00c9"), varying(largeLetters, "x*")} {
		names, _ := vary.Names(r)
		wantNames(t, varying(strings.Join(names, ",")), false, names...)
		wantNames(t, varying(names...), false, names...)
		wantNames(t, varying(strings.Join(names, " ,\t")+", *"), true, names...)
	}
}
