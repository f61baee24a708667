package script_test

import (
	"math/rand"
	"slices"
	"strconv"
	"strings"
	"testing"

	"herald/api"
	"herald/script"
)

func oneOf[T any](r *rand.Rand, all ...T) T { return all[r.Intn(len(all))] }

func randomNumber(r *rand.Rand) int64 {
	switch r.Intn(4) {
	case 0:
		return int64(r.Uint64())
	case 1:
		return oneOf(r, int64(longest), least, longest-1, least+1, 1<<31, -1<<31, 1<<32, 0, -1)
	}
	return int64(r.Intn(21) - 5)
}

// randomText has at most so many bytes, many of them such as are escaped or look so.
func randomText(r *rand.Rand, most int) string {
	if r.Intn(3) == 0 {
		return oneOf(r, "", "x", "/a", "GET", "https", "accept", "never", "0", "end")
	}
	b := make([]byte, r.Intn(most+1))
	for i := range b {
		switch r.Intn(4) {
		case 0:
			b[i] = byte(r.Intn(256))
		case 1:
			b[i] = oneOf(r, []byte("\"\\x# \n\t\r\x00\x1f\x20\x7e\x7f\x80\xff")...)
		default:
			b[i] = oneOf(r, []byte("abcx0129/")...)
		}
	}
	return string(b)
}

func randomSet(r *rand.Rand) api.Set {
	return api.Set{Table: randomNumber(r), Push: randomNumber(r), Streams: randomNumber(r), Window: randomNumber(r), Frame: randomNumber(r), List: randomNumber(r)}
}

func randomPage(r *rand.Rand) api.Page {
	p := api.Page{Authority: randomText(r, 9), Path: randomText(r, 9), Status: int(randomNumber(r)), Vary: randomText(r, 9)}
	for range r.Intn(4) {
		p.Choices = append(p.Choices, api.Choice{Value: randomText(r, 9), Body: randomText(r, 40)})
	}
	return p
}

func randomTargets(r *rand.Rand, most int) []api.Target {
	var l []api.Target
	for range r.Intn(most + 1) {
		l = append(l, api.Target{Authority: randomText(r, 9), Path: randomText(r, 9)})
	}
	return l
}

func randomRequest(r *rand.Rand) api.Request {
	q := api.Request{Method: randomText(r, 5), Scheme: randomText(r, 5), Authority: randomText(r, 9), Path: randomText(r, 9), Body: randomText(r, 40)}
	for range r.Intn(4) {
		q.Fields = append(q.Fields, api.Field{Name: randomText(r, 9), Value: randomText(r, 9), Never: r.Intn(2) == 0})
	}
	return q
}

func randomWorld(r *rand.Rand) api.World {
	w := api.World{Server: randomSet(r), Client: randomSet(r), Conf: api.Conf{Entries: randomNumber(r), Bytes: randomNumber(r), Life: randomNumber(r), Pending: randomNumber(r)}}
	for range r.Intn(4) {
		w.Pages = append(w.Pages, randomPage(r))
	}
	for range r.Intn(4) {
		rule := api.Rule{Push: randomTargets(r, 3)}
		rule.Of.Authority, rule.Of.Path = randomText(r, 9), randomText(r, 9)
		w.Rules = append(w.Rules, rule)
	}
	for range r.Intn(4) {
		w.Origins = append(w.Origins, randomText(r, 20))
	}
	return w
}

// randomCommand has something in all its fields, whatever its kind names.
func randomCommand(r *rand.Rand) script.Command {
	c := script.Command{Kind: 1 + r.Intn(10), World: randomWorld(r), N: randomNumber(r), Server: r.Intn(2) == 0}
	if r.Intn(2) == 0 {
		c.Kind = move
	}
	c.Move = api.Move{Kind: 1 + r.Intn(10), N: randomNumber(r), Request: randomRequest(r), Page: randomPage(r), Set: randomSet(r), Bytes: randomText(r, 60)}
	return c
}

func randomCommands(r *rand.Rand) []script.Command {
	var l []script.Command
	for range r.Intn(7) {
		l = append(l, randomCommand(r))
	}
	return l
}

// TestRandomCommands: printed, and read again.
func TestRandomCommands(t *testing.T) {
	r := rand.New(rand.NewSource(264))
	taken := 0
	for range 4000 {
		l := randomCommands(r)
		if r.Intn(10) == 0 && len(l) > 0 {
			c := &l[r.Intn(len(l))]
			c.Kind, c.Move.Kind = oneOf(r, 0, 11, -1, move), oneOf(r, 0, 11, -1)
		}
		if _, ok := holdPrint(t, l); ok {
			taken++
		}
	}
	if taken < 3000 || taken > 3950 {
		t.Errorf("of the random commands %d were taken: too many or too few to tell", taken)
	}
}

// anyQuote is a quoted text for s, in any of its forms.
func anyQuote(r *rand.Rand) quoter {
	return func(s string) string {
		var b strings.Builder
		for i := range len(s) {
			if r.Intn(4) == 0 {
				const digits = "0123456789abcdef"
				b.WriteString(`\x` + digits[s[i]>>4:][:1] + digits[s[i]&15:][:1])
			} else {
				b.WriteString(escapes[s[i]])
			}
		}
		return `"` + b.String() + `"`
	}
}

// TestRandomSpellings: what says the same in other words, with lines between that say
// nothing, is read as the same, and told in one form.
func TestRandomSpellings(t *testing.T) {
	r := rand.New(rand.NewSource(265))
	for range 4000 {
		l := randomCommands(r)
		text, e := modelPrint(l, anyQuote(r))
		if e != 0 {
			t.Fatalf("the model tells nothing of %s: %d", brief(l), e)
		}
		var b strings.Builder
		for line := range strings.Lines(text) {
			for range r.Intn(2) * r.Intn(3) {
				b.WriteString(oneOf(r, "\n", "#\n", "# x \"\n", "#\xff\n"))
			}
			b.WriteString(line)
		}
		spelled := b.String()
		if r.Intn(3) == 0 {
			spelled = strings.TrimSuffix(spelled, "\n")
		}
		if got, ok := holdParse(t, spelled); !ok || !same(got, named(l)) {
			t.Fatalf("P26.2: Parse(%s) = %s, want %s", shown(spelled), brief(got), brief(named(l)))
		}
	}
}

// bent is a text with one change somewhere.
func bent(r *rand.Rand, text string) string {
	switch r.Intn(3) {
	case 0:
		return bentAt(r, strings.Split(text, ""), "", "\"", "\\", "x", "0", "-", " ", "\n", "#", "\xff", "a")
	case 1:
		return bentAt(r, strings.Split(text, " "), " ", "0", "-1", "x", "never", `""`, `"x"`, "server", "")
	}
	return bentAt(r, strings.Split(text, "\n"), "\n", "", "#", "end", "world", "answers", "server 1 2 3 4 5 6", `origin "x"`, `page "" "" 0 ""`)
}

// bentAt leaves one of the pieces out, doubles it, changes it about with another, or
// lays one of others in.
func bentAt(r *rand.Rand, pieces []string, between string, others ...string) string {
	i, k := r.Intn(len(pieces)+1), r.Intn(len(pieces)+1)
	switch what := r.Intn(4); {
	case what == 0 || i == len(pieces) || k == len(pieces):
		pieces = slices.Insert(pieces, i, oneOf(r, others...))
	case what == 1:
		pieces = slices.Delete(pieces, i, i+1)
	case what == 2:
		pieces = slices.Insert(pieces, i, pieces[k])
	default:
		pieces[i], pieces[k] = pieces[k], pieces[i]
	}
	return strings.Join(pieces, between)
}

// TestRandomTexts: bent ones, once or several times.
func TestRandomTexts(t *testing.T) {
	r := rand.New(rand.NewSource(266))
	taken := 0
	for range 20000 {
		text, _ := modelPrint(randomCommands(r), anyQuote(r))
		for range 1 + r.Intn(3) {
			text = bent(r, text)
		}
		if _, ok := holdParse(t, text); ok {
			taken++
		}
	}
	if taken < 2000 || taken > 18000 {
		t.Errorf("of the random texts %d were taken: too many or too few to tell", taken)
	}
}

// TestRandomWords: lines out of any words.
func TestRandomWords(t *testing.T) {
	r := rand.New(rand.NewSource(267))
	taken := 0
	names := []string{"answers", "log", "trace", "server", "client", "rounds", "ask", "put", "forge", "cancel", "never", "end"}
	for range 60000 {
		words := []string{oneOf(r, names...)}
		for range r.Intn(4) {
			words = append(words, oneOf(r, "server", "client", "never", `""`, `"x"`, strconv.FormatInt(randomNumber(r), 10), "0", "-0", "01"))
		}
		if _, ok := holdParse(t, strings.Join(words, " ")); ok {
			taken++
		}
	}
	if taken < 3000 || taken > 50000 {
		t.Errorf("of the random lines %d were taken: too many or too few to tell", taken)
	}
}

// FuzzParse: any text.
func FuzzParse(f *testing.F) {
	for _, l := range talks() {
		f.Add(lined(l...))
	}
	for _, line := range someLines() {
		f.Add(line)
	}
	f.Add("forge 0 \"\\x4\\\"\\q\"\nserver -0")
	f.Fuzz(func(t *testing.T, text string) {
		holdParse(t, text)
		holdParse(t, `forge 0 "`+text+`"`)
		holdParse(t, "rounds "+text)
		holdQuote(t, text)
	})
}

// FuzzPrint: commands with any texts and numbers.
func FuzzPrint(f *testing.F) {
	f.Add(1, 1, "a", "b", int64(1), int64(2))
	f.Add(2, 1, "\"", "\\", int64(least), int64(longest))
	f.Add(2, 8, "\x00", "\n", int64(0), int64(-1))
	f.Add(2, 10, "end", "#", int64(7), int64(8))
	f.Add(3, 0, "", "", int64(9), int64(0))
	f.Fuzz(func(t *testing.T, kind, moveKind int, a, b string, m, n int64) {
		p := api.Page{Authority: a, Path: b, Status: int(m), Vary: a, Choices: []api.Choice{{Value: b, Body: a}, {Body: b}}}
		s := api.Set{Table: m, Push: n, Streams: m, Window: n, Frame: m, List: n}
		x := api.Target{Authority: b, Path: a}
		c := script.Command{
			Kind: kind, N: n, Server: m > n,
			World: api.World{Server: s, Client: s, Conf: api.Conf{Entries: n, Bytes: m, Life: n, Pending: m}, Pages: []api.Page{p, {}}, Rules: []api.Rule{{Of: x}, {Of: x, Push: []api.Target{x, {}}}}, Origins: []string{a, b}},
			Move:  api.Move{Kind: moveKind, N: m, Page: p, Set: s, Bytes: b, Request: api.Request{Method: a, Scheme: b, Authority: a, Path: b, Body: a, Fields: []api.Field{{Name: a, Value: b, Never: m < n}, {Name: b}}}},
		}
		holdPrint(t, []script.Command{c})
		holdPrint(t, []script.Command{c, moved(c.Move), worldOf(c.World), c})
		holdFrame(t, api.Frame{Type: kind, Flags: moveKind, Stream: m, Data: a, Dep: n, Last: m, Params: []api.Param{{ID: kind, Value: n}}})
	})
}
