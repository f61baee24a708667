package script_test

import (
	"slices"
	"strconv"
	"strings"
	"testing"

	"herald/api"
	"herald/script"
)

// numberPlaces are lines in which $ stands for one of each kind's numbers, in a world
// and outside of one.
func numberPlaces() []string {
	all := []string{
		"rounds $", "cancel $", "server $", "client $", "toserver $", "toclient $", "tick $", `forge $ ""`, `put "" "" $ ""`, `put "" "" $ "" "" ""`,
		"set $ 2 3 4 5 6", "set 1 $ 3 4 5 6", "set 1 2 $ 4 5 6", "set 1 2 3 $ 5 6", "set 1 2 3 4 $ 6", "set 1 2 3 4 5 $",
	}
	l := exampleLines()
	for at := range l {
		words := strings.Split(l[at], " ")
		for i := range words {
			if i > 0 && !strings.HasPrefix(words[i], `"`) {
				changed := slices.Clone(words)
				changed[i] = "$"
				all = append(all, lined(slices.Concat(l[:at], []string{strings.Join(changed, " ")}, l[at+1:])...))
			}
		}
	}
	return all
}

// TestNumbersOfLines: each number at each place where one stands.
func TestNumbersOfLines(t *testing.T) {
	places := numberPlaces()
	if len(places) != 16+6+6+4+1 {
		t.Fatalf("%d places", len(places))
	}
	for _, place := range places {
		for _, n := range []int64{0, 1, 9, 10, 99, 100, 65536, 1<<31 - 1, 1 << 31, 1 << 32, 1<<53 + 1, longest - 1, longest, -1, -9, -10, -1 << 31, -1<<31 - 1, least + 1, least} {
			text := strings.Replace(place, "$", strconv.FormatInt(n, 10), 1)
			got, ok := holdParse(t, text)
			if !ok {
				t.Errorf("P26.1: Parse(%s) is refused", shown(text))
			}
			if told, ok := holdPrint(t, got); !ok || told != strings.TrimSuffix(text, "\n")+"\n" {
				t.Errorf("P26.2: %s is told as %s", shown(text), shown(told))
			}
		}
	}
}

// TestWrongNumbers: none of these is one, at any place.
func TestWrongNumbers(t *testing.T) {
	for _, place := range numberPlaces() {
		for _, s := range []string{
			"", "-", "--1", "- 1", "-", "+1", "+0", "+", "-0", "00", "-00", "01", "-01", "007", "0000000000000000000000001",
			"9223372036854775808", "-9223372036854775809", "9223372036854775817", "18446744073709551615", "18446744073709551616", "18446744073709551617", "-18446744073709551615", "99999999999999999999", strings.Repeat("9", 200), "1" + strings.Repeat("0", 200),
			"1.0", "1.", ".5", "1e3", "0x1", "0b1", "0o7", "1_000", "1,000", "1'0", "1a", "a", "a1", "1\"", "\"1\"", "\"\"", "1\t", "\t1", "1\r", "1\x00", "\x001", "\xb2", "\u0661", "\uff11", "\u22121", "1-", "1-1", "inf", "nan", "never", "server", "#",
		} {
			wantRefused(t, scriptError, strings.Replace(place, "$", s, 1))
		}
	}
}

// textPlaces are lines in which $ stands for one of each kind's quoted texts.
func textPlaces() []string {
	all := []string{
		"forge 0 $", "ask $ \"\" \"\" \"\" \"\"", "ask \"\" $ \"\" \"\" \"\"", "ask \"\" \"\" $ \"\" \"\"", "ask \"\" \"\" \"\" $ \"\"", "ask \"\" \"\" \"\" \"\" $",
		"ask \"\" \"\" \"\" \"\" \"\" $ \"\"", "ask \"\" \"\" \"\" \"\" \"\" \"\" $", "ask \"\" \"\" \"\" \"\" \"\" never $ \"\"", "ask \"\" \"\" \"\" \"\" \"\" never \"\" $ \"\" \"\"",
		"put $ \"\" 0 \"\"", "put \"\" $ 0 \"\"", "put \"\" \"\" 0 $", "put \"\" \"\" 0 \"\" $ \"\"", "put \"\" \"\" 0 \"\" \"\" $",
	}
	for _, line := range []string{"page $ \"\" 0 \"\"", "page \"\" $ 0 \"\"", "page \"\" \"\" 0 $", "page \"\" \"\" 0 \"\" $ \"\"", "page \"\" \"\" 0 \"\" \"\" $", "rule $ \"\"", "rule \"\" $", "rule \"\" \"\" $ \"\"", "rule \"\" \"\" \"\" $", "origin $"} {
		all = append(all, lined(slices.Concat(exampleLines()[:4], []string{line, "end"})...))
	}
	return all
}

// TestTextsOfLines: each text at each place where one stands, in each of its forms.
func TestTextsOfLines(t *testing.T) {
	for _, place := range textPlaces() {
		for quoted, s := range map[string]string{
			`""`: "", `" "`: " ", `"   "`: "   ", `"a"`: "a", `"never"`: "never", `"1"`: "1", `"#"`: "#", `"a b"`: "a b", `"~"`: "~",
			`"\""`: `"`, `"\\"`: `\`, `"\"\""`: `""`, `"\\\\"`: `\\`, `"\\x41"`: `\x41`, `"\\\""`: `\"`, `"\"\\"`: `"\`,
			`"\x41"`: "A", `"\x00"`: "\x00", `"\xff"`: "\xff", `"\x7f"`: "\x7f", `"\x0a"`: "\n", `"\x22"`: `"`, `"\x5c"`: `\`, `"\x20"`: " ", `"\x5cx41"`: `\x41`, `"\x411"`: "A1", `"\x41\x42"`: "AB", `"\xc3\xa9"`: "\u00e9", `"\xc3"`: "\xc3", `"x41"`: "x41",
		} {
			text := strings.Replace(place, "$", quoted, 1)
			got, ok := holdParse(t, text)
			if !ok {
				t.Errorf("P26.1: Parse(%s) is refused", shown(text))
			}
			one := strings.TrimSuffix(strings.Replace(place, "$", modelQuote(s), 1), "\n") + "\n"
			if told, ok := holdPrint(t, got); !ok || told != one {
				t.Errorf("P26.2: %s is told as %s", shown(text), shown(told))
			}
		}
	}
}

// TestWrongTexts: none of these is one, at any place.
func TestWrongTexts(t *testing.T) {
	wrong := []string{
		``, `"`, `"a`, `a"`, `a`, `'a'`, "`a`", `"a""`, `"""`, `""""`, `"a""b"`, `"a"b`, `"a"1`, `"a"\`, `b"a"`, `1"a"`, `\"a"`, `"a\"`, `"\"`, `"\\\"`, `"a"#`, `0`, `-1`, `never`,
		`"\x"`, `"\x4"`, `"\x4`, `"\x`, `"\`, `"\x41`, `"\x4g"`, `"\xg4"`, `"\xAB"`, `"\xaB"`, `"\xAb"`, `"\X41"`, `"\x 4"`, `"\x4 "`, `"\x+4"`, `"\x-1"`, `"\x0x"`, `"\x\x41"`, `"\x4\x41"`, `"\x""`, `"\x4""`, `"\ "`, `"\u0041"`, `"\101"`, `"\0"`, "\"\n\"", "\"\t\"", "\"\r\"", "\"\xff\"", "\"\x00\"", "\"\x1f\"", "\"\x7f\"", "\"\x80\"", "\"\u00e9\"", "\"\u00a0\"", "\u201ca\u201d",
	}
	for b := range 256 {
		if c := string([]byte{byte(b)}); !strings.Contains(`"\x`, c) {
			wrong = append(wrong, `"\`+c+`"`, `"a\`+c+`a"`)
		}
		if c := string([]byte{byte(b)}); !strings.Contains("0123456789abcdef", c) {
			wrong = append(wrong, `"\x`+c+`1"`, `"\x1`+c+`"`)
		}
	}
	for _, place := range textPlaces() {
		for _, s := range wrong {
			if strings.Contains(s, "#") && strings.HasPrefix(place, "$") {
				continue
			}
			wantRefused(t, scriptError, strings.Replace(place, "$", s, 1))
		}
	}
}

// TestEachByteInQuotes: alone and between others, as itself and by its digits.
func TestEachByteInQuotes(t *testing.T) {
	for b := range 256 {
		c := string([]byte{byte(b)})
		isPlain := b >= 32 && b <= 126 && b != '"' && b != '\\'
		for _, around := range []string{"", "a", " ", "\\\\", "\\\"", "\\x00"} {
			stands, _ := strconv.Unquote(`"` + around + `"`)
			text := `forge 0 "` + around + c + around + `"`
			switch {
			case isPlain:
				wantParse(t, text, forged(0, stands+c+stands))
			case b == '"', b == '\\': // with what is behind it, it may be something
				holdParse(t, text)
			default:
				wantRefused(t, scriptError, text)
			}
			digits := `\x` + strconv.FormatInt(int64(b>>4), 16) + strconv.FormatInt(int64(b&15), 16)
			wantParse(t, `forge 0 "`+around+digits+around+`"`, forged(0, stands+c+stands))
		}
	}
}

// someLines are right ones of every kind, outside of a world.
func someLines() []string {
	return []string{
		"rounds 9", "answers", "log", "cache", "pipes", "still", "dead", "trace server", "trace client",
		`ask "GET" "https" "x" "/" ""`, `ask "a" "b" "c" "d" "e" "accept" "y" never "cookie" "z"`, `ask "" "" "" "" "" never "" ""`,
		"cancel 1", "server 0", "client -5", "toserver 10", "toclient -1", "tick 7",
		`put "x" "/b" 200 "" "" "B2"`, `put "x" "/b" -1 "accept"`, `put "" "" 0 "" "v" "b" "w" "c"`, "set 1 2 3 4 5 -6", `forge 1 "\x00 \" \\ ~"`,
	}
}

// TestBlanks: a blank doubled, gone, or another byte for it, at each place; one ahead,
// one behind.
func TestBlanks(t *testing.T) {
	marks := []string{"  ", "   ", "\t", "\r", " \t", "\t ", "\v", "\f", "\x00", "\xa0", "\u00a0", "\u2003", ",", "\"", "\\", "a", "\n "}
	texts := someLines()
	for _, line := range exampleLines() {
		texts = append(texts, strings.Replace(lined(exampleLines()...), line, "$"+line+"$", 1))
	}
	for _, text := range texts {
		begin, line, end := "", text, ""
		if parts := strings.Split(text, "$"); len(parts) == 3 {
			begin, line, end = parts[0], parts[1], parts[2]
		}
		inQuotes := false
		for i := range len(line) {
			switch {
			case line[i] == '"' && (i == 0 || line[i-1] != '\\'):
				inQuotes = !inQuotes
			case line[i] == ' ' && !inQuotes:
				for _, other := range append(marks, "", "0", "#", "\n", " \n") {
					wantRefused(t, scriptError, begin+line[:i]+other+line[i+1:]+end)
				}
			}
		}
		for _, other := range append(marks, " ") {
			wantRefused(t, scriptError, begin+other+line+end)
			wantRefused(t, scriptError, begin+line+other+end)
		}
	}
	for _, s := range []string{" ", "  ", "\t", "\r", " #", "\t#", " \n", "answers\n \nanswers", "answers \nlog", "\v", "\xef\xbb\xbfanswers", "answers\r\nlog\r\n", "\r\n"} {
		wantRefused(t, scriptError, s)
	}
}

// TestBytesOutsideOfQuotes: each byte that isn't there, laid in, or for another, or
// one taken away, at each place of each line.
func TestBytesOutsideOfQuotes(t *testing.T) {
	taken := 0
	for _, line := range append(someLines(), lined(exampleLines()...)) {
		for i := range len(line) + 1 {
			for b := range 256 {
				c := string([]byte{byte(b)})
				for _, text := range []string{line[:i] + c + line[i:], line[:i] + c + line[min(i+1, len(line)):]} {
					got, e := script.Parse(text)
					if want, wantError := modelParse(text); e != wantError || !same(got, want) {
						t.Fatalf("P26.1: Parse(%s) = %s, %d, want %s, %d", shown(text), brief(got), e, brief(want), wantError)
					}
					if e == 0 {
						taken++
					}
				}
			}
			if i < len(line) {
				holdParse(t, line[:i]+line[i+1:])
				holdParse(t, line[:i])
				holdParse(t, line[i:])
			}
			if i+1 < len(line) {
				holdParse(t, line[:i]+line[i+1:i+2]+line[i:i+1]+line[i+2:])
			}
		}
	}
	if taken < 10000 {
		t.Errorf("of the bent lines %d were taken: too few to tell", taken)
	}
	for _, b := range []byte{9, 13, 200} {
		for _, s := range []string{"$server 3", "ser$ver 3", "server$ 3", "server $3", "server 3$", "server$3", "$"} {
			wantRefused(t, scriptError, strings.Replace(s, "$", string([]byte{b}), 1))
		}
	}
}

// TestNamesAreWhole: a name is no other one's beginning, is in small letters, and
// stands in no quotes.
func TestNamesAreWhole(t *testing.T) {
	for _, line := range someLines() {
		name, rest, _ := strings.Cut(line, " ")
		if rest != "" {
			rest = " " + rest
		}
		for _, other := range []string{name + "s", "x" + name, name[1:], name[:len(name)-1], strings.ToUpper(name), strings.ToUpper(name[:1]) + name[1:], `"` + name + `"`, name + name, name + ":", name + "=", name + "."} {
			wantRefused(t, scriptError, other+rest)
		}
		wantRefused(t, scriptError, "never "+line)
		wantRefused(t, scriptError, "move "+line)
	}
	for _, s := range []string{"move", "move 3", "World", "worlds", "page", "rule", "origin", "conf", "end", "never", "never \"a\" \"b\"", "0", "3", "-1", `""`, `"answers"`, `"answers" "log"`, "answers log", "conf 4 1000 10 4", `page "x" "/a" 200 "" "" "A"`, `rule "x" "/a"`, `origin "https://x"`} {
		wantRefused(t, scriptError, s)
	}
}

// TestWordsLessAndMore: each word of each line left out and doubled, and one of each
// sort laid in at each place.
func TestWordsLessAndMore(t *testing.T) {
	for _, line := range append(someLines(), exampleLines()...) {
		words := anyWord.FindAllString(line, -1)
		texts := func(words []string) []string {
			line := strings.Join(words, " ")
			return []string{line, lined(slices.Concat(exampleLines()[:4], []string{line, "end"})...), lined("answers", line)}
		}
		for i := range len(words) + 1 {
			for _, more := range []string{"0", "-7", `"t"`, `""`, "never", "server", "end", "x"} {
				for _, text := range texts(slices.Concat(words[:i], []string{more}, words[i:])) {
					holdParse(t, text)
				}
			}
			if i < len(words) {
				for _, text := range slices.Concat(texts(slices.Concat(words[:i], words[i+1:])), texts(slices.Concat(words[:i+1], words[i:]))) {
					holdParse(t, text)
				}
			}
		}
	}
}

// TestNever: ahead of a field alone, once.
func TestNever(t *testing.T) {
	begin := `ask "G" "h" "x" "/" "b"`
	q := api.Request{Method: "G", Scheme: "h", Authority: "x", Path: "/", Body: "b"}
	with := func(l ...api.Field) script.Command {
		r := q
		r.Fields = l
		return asked(r)
	}
	plain, hidden := api.Field{Name: "a", Value: "1"}, api.Field{Name: "c", Value: "2", Never: true}
	wantParse(t, begin, with())
	wantParse(t, begin+` "a" "1"`, with(plain))
	wantParse(t, begin+` never "c" "2"`, with(hidden))
	wantParse(t, begin+` never "c" "2" "a" "1"`, with(hidden, plain))
	wantParse(t, begin+` "a" "1" never "c" "2"`, with(plain, hidden))
	wantParse(t, begin+` never "c" "2" never "c" "2"`, with(hidden, hidden))
	wantParse(t, begin+` "never" "never"`, with(api.Field{Name: "never", Value: "never"}))
	wantParse(t, begin+` never "never" "never"`, with(api.Field{Name: "never", Value: "never", Never: true}))
	wantParse(t, begin+` "" ""`, with(api.Field{}))
	for _, s := range []string{
		` never`, ` never never`, ` never never "c" "2"`, ` never "c"`, ` never "c" never "2"`, ` "c" never "2"`, ` "c" "2" never`, ` "a" "1" never "c"`, ` never "c" "2" never`, ` "a"`, ` "a" "1" "c"`, ` Never "c" "2"`, ` never 1 "2"`, ` never "c" 2`, ` a "1"`, ` "a" b`, ` nevers "c" "2"`, ` "c"never "2"`,
	} {
		wantRefused(t, scriptError, begin+s)
		wantRefused(t, scriptError, begin+s+"\nanswers")
	}
	for _, s := range []string{`ask never "G" "h" "x" "/" "b"`, `ask "G" never "h" "x" "/" "b"`, `ask "G" "h" "x" "/" never "b"`, `ask never "G" "h" "x" "/" "b" "a" "1"`, `put "x" "/" 200 "" never "v" "b"`, `forge 0 never "a"`, `never forge 0 "a"`} {
		wantRefused(t, scriptError, s)
	}
}
