package script_test

import (
	"fmt"
	"math/big"
	"regexp"
	"slices"
	"strconv"
	"strings"

	"herald/api"
	"herald/script"
)

// The model reads a line by the regular expression of its form, and takes it for a
// command by its words' places; a quoted text's escapes are read as Go's own.

const (
	numberForm = `(?:0|-?[1-9][0-9]*)`
	textForm   = `"(?:[ !#-\[\]-~]|\\"|\\\\|\\x[0-9a-f][0-9a-f])*"`
)

// formOf is the expression of a line in which N stands for a number, T for a text.
func formOf(s string) *regexp.Regexp {
	s = strings.NewReplacer("N", numberForm, "T", textForm).Replace(s)
	return regexp.MustCompile("^(?:" + s + ")$")
}

// forms are by the lines' names.
var forms = map[string]*regexp.Regexp{
	"rounds":   formOf("rounds N"),
	"answers":  formOf("answers"),
	"log":      formOf("log"),
	"cache":    formOf("cache"),
	"pipes":    formOf("pipes"),
	"still":    formOf("still"),
	"dead":     formOf("dead"),
	"trace":    formOf("trace server|trace client"),
	"ask":      formOf("ask T T T T T( T T| never T T)*"),
	"cancel":   formOf("cancel N"),
	"server":   formOf("server N"),
	"client":   formOf("client N"),
	"toserver": formOf("toserver N"),
	"toclient": formOf("toclient N"),
	"tick":     formOf("tick N"),
	"put":      formOf("put T T N T( T T)*"),
	"set":      formOf("set N N N N N N"),
	"forge":    formOf("forge N T"),
}

// worldForms are those of the lines in a world.
var worldForms = map[string]*regexp.Regexp{
	"world":  formOf("world"),
	"server": formOf("server N N N N N N"),
	"client": formOf("client N N N N N N"),
	"conf":   formOf("conf N N N N"),
	"page":   formOf("page T T N T( T T)*"),
	"rule":   formOf("rule T T( T T)*"),
	"origin": formOf("origin T"),
	"end":    formOf("end"),
}

var (
	orderInWorld = regexp.MustCompile(`^world server client conf( page)*( rule)*( origin)* end$`)
	anyWord      = regexp.MustCompile(`"(?:[^"\\]|\\.)*"|[^ ]+`)

	leastNumber, _   = new(big.Int).SetString("-9223372036854775808", 10)
	longestNumber, _ = new(big.Int).SetString("9223372036854775807", 10)
)

// row is a line's words.
type row []string

func (w row) number(i int) int64 {
	n, _ := new(big.Int).SetString(w[i], 10)
	return n.Int64()
}

func (w row) text(i int) string {
	s, err := strconv.Unquote(w[i])
	if err != nil {
		panic(w[i])
	}
	return s
}

func (w row) set(i int) api.Set {
	return api.Set{Table: w.number(i), Push: w.number(i + 1), Streams: w.number(i + 2), Window: w.number(i + 3), Frame: w.number(i + 4), List: w.number(i + 5)}
}

func (w row) page() api.Page {
	p := api.Page{Authority: w.text(1), Path: w.text(2), Status: int(w.number(3)), Vary: w.text(4)}
	for i := 5; i < len(w); i += 2 {
		p.Choices = append(p.Choices, api.Choice{Value: w.text(i), Body: w.text(i + 1)})
	}
	return p
}

func (w row) rule() api.Rule {
	r := api.Rule{Of: api.Target{Authority: w.text(1), Path: w.text(2)}}
	for i := 3; i < len(w); i += 2 {
		r.Push = append(r.Push, api.Target{Authority: w.text(i), Path: w.text(i + 1)})
	}
	return r
}

func (w row) request() api.Request {
	q := api.Request{Method: w.text(1), Scheme: w.text(2), Authority: w.text(3), Path: w.text(4), Body: w.text(5)}
	for i := 6; i < len(w); i += 2 {
		never := w[i] == "never"
		if never {
			i++
		}
		q.Fields = append(q.Fields, api.Field{Name: w.text(i), Value: w.text(i + 1), Never: never})
	}
	return q
}

// rowOf is a line's words, if it has the form of its name and its numbers are some.
func rowOf(line string, forms map[string]*regexp.Regexp) (row, bool) {
	name, _, _ := strings.Cut(line, " ")
	form := forms[name]
	if form == nil || !form.MatchString(line) {
		return nil, false
	}
	words := anyWord.FindAllString(line, -1)
	for _, s := range words {
		n, isNumber := new(big.Int).SetString(s, 10)
		if isNumber && (n.Cmp(leastNumber) < 0 || n.Cmp(longestNumber) > 0) {
			return nil, false
		}
	}
	return words, true
}

var questions = map[string]int{"answers": answers, "log": log, "cache": cache, "pipes": pipes, "still": still, "dead": dead}

var movesByNumber = map[string]int{"cancel": moveCancel, "server": moveServer, "client": moveClient, "toserver": moveToServer, "toclient": moveToClient, "tick": moveTick}

func modelLine(line string) (script.Command, bool) {
	w, ok := rowOf(line, forms)
	if !ok {
		return script.Command{}, false
	}
	switch w[0] {
	case "rounds":
		return script.Command{Kind: rounds, N: w.number(1)}, true
	case "trace":
		return script.Command{Kind: trace, Server: w[1] == "server"}, true
	case "ask":
		return asked(w.request()), true
	case "put":
		return putOf(w.page()), true
	case "set":
		return moved(api.Move{Kind: moveSet, Set: w.set(1)}), true
	case "forge":
		return forged(w.number(1), w.text(2)), true
	}
	if kind := questions[w[0]]; kind > 0 {
		return script.Command{Kind: kind}, true
	}
	return numbered(movesByNumber[w[0]], w.number(1)), true
}

func modelWorld(lines []string) (script.Command, bool) {
	var names []string
	var w api.World
	for _, line := range lines {
		words, ok := rowOf(line, worldForms)
		if !ok {
			return script.Command{}, false
		}
		names = append(names, words[0])
		switch words[0] {
		case "server":
			w.Server = words.set(1)
		case "client":
			w.Client = words.set(1)
		case "conf":
			w.Conf = api.Conf{Entries: words.number(1), Bytes: words.number(2), Life: words.number(3), Pending: words.number(4)}
		case "page":
			w.Pages = append(w.Pages, words.page())
		case "rule":
			w.Rules = append(w.Rules, words.rule())
		case "origin":
			w.Origins = append(w.Origins, words.text(1))
		}
	}
	return worldOf(w), orderInWorld.MatchString(strings.Join(names, " "))
}

// linesOf is all lines of a text.
func linesOf(text string) []string {
	l := strings.Split(text, "\n")
	if l[len(l)-1] == "" {
		return l[:len(l)-1]
	}
	return l
}

func isTooLong(text string) bool {
	l := linesOf(text)
	return len(text) > mostBytes || len(l) > mostLines || slices.ContainsFunc(l, func(s string) bool { return len(s) > mostLine })
}

func modelParse(text string) ([]script.Command, api.Errno) {
	if isTooLong(text) {
		return nil, longError
	}
	said := slices.DeleteFunc(linesOf(text), func(s string) bool { return s == "" || s[0] == '#' })
	var all []script.Command
	for len(said) > 0 {
		n := 1
		c, ok := modelLine(said[0])
		if said[0] == "world" {
			n = slices.Index(said, "end") + 1
			c, ok = modelWorld(said[:n])
		}
		if !ok {
			return nil, scriptError
		}
		all = append(all, c)
		said = said[n:]
	}
	return all, 0
}

// The model's print is told how to quote, so that what says the same in other words
// can be made with it too.

type quoter func(string) string

var escapes = func() (l [256]string) {
	for b := range l {
		switch {
		case b == '"' || b == '\\':
			l[b] = `\` + string(rune(b))
		case b < 32 || b > 126:
			l[b] = fmt.Sprintf(`\x%02x`, b)
		default:
			l[b] = string(rune(b))
		}
	}
	return l
}()

func modelQuote(s string) string {
	pieces := make([]string, len(s))
	for i := range len(s) {
		pieces[i] = escapes[s[i]]
	}
	return `"` + strings.Join(pieces, "") + `"`
}

func (q quoter) all(l ...string) string {
	var words []string
	for _, s := range l {
		words = append(words, q(s))
	}
	return strings.Join(words, " ")
}

func setLine(s api.Set) string {
	return fmt.Sprint(s.Table, s.Push, s.Streams, s.Window, s.Frame, s.List)
}

func (q quoter) page(p api.Page) string {
	line := fmt.Sprintf("%s %d %s", q.all(p.Authority, p.Path), p.Status, q(p.Vary))
	for _, c := range p.Choices {
		line += " " + q.all(c.Value, c.Body)
	}
	return line
}

func (q quoter) request(r api.Request) string {
	line := q.all(r.Method, r.Scheme, r.Authority, r.Path, r.Body)
	for _, f := range r.Fields {
		if f.Never {
			line += " never"
		}
		line += " " + q.all(f.Name, f.Value)
	}
	return line
}

func (q quoter) world(w api.World) string {
	l := []string{"world", "server " + setLine(w.Server), "client " + setLine(w.Client), fmt.Sprintf("conf %d %d %d %d", w.Conf.Entries, w.Conf.Bytes, w.Conf.Life, w.Conf.Pending)}
	for _, p := range w.Pages {
		l = append(l, "page "+q.page(p))
	}
	for _, r := range w.Rules {
		line := "rule " + q.all(r.Of.Authority, r.Of.Path)
		for _, x := range r.Push {
			line += " " + q.all(x.Authority, x.Path)
		}
		l = append(l, line)
	}
	for _, s := range w.Origins {
		l = append(l, "origin "+q(s))
	}
	return strings.Join(append(l, "end"), "\n")
}

func (q quoter) move(m api.Move) (string, bool) {
	switch m.Kind {
	case moveAsk:
		return "ask " + q.request(m.Request), true
	case movePut:
		return "put " + q.page(m.Page), true
	case moveSet:
		return "set " + setLine(m.Set), true
	case moveForge:
		return fmt.Sprintf("forge %d %s", m.N, q(m.Bytes)), true
	}
	for name, kind := range movesByNumber {
		if kind == m.Kind {
			return fmt.Sprint(name, " ", m.N), true
		}
	}
	return "", false
}

func (q quoter) command(c script.Command) (string, bool) {
	switch c.Kind {
	case world:
		return q.world(c.World), true
	case move:
		return q.move(c.Move)
	case rounds:
		return fmt.Sprint("rounds ", c.N), true
	case trace:
		return "trace " + map[bool]string{true: "server", false: "client"}[c.Server], true
	}
	for name, kind := range questions {
		if kind == c.Kind {
			return name, true
		}
	}
	return "", false
}

func modelPrint(l []script.Command, q quoter) (string, api.Errno) {
	var lines []string
	for _, c := range l {
		line, ok := q.command(c)
		if !ok {
			return "", scriptError
		}
		lines = append(lines, line)
	}
	if text := lined(lines...); !isTooLong(text) {
		return text, 0
	}
	return "", longError
}

// named is commands with nothing but what their kinds name.
func named(l []script.Command) []script.Command {
	var all []script.Command
	for _, c := range l {
		m := c.Move
		switch {
		case c.Kind == world:
			c = worldOf(c.World)
		case c.Kind == move && m.Kind == moveAsk:
			c = asked(m.Request)
		case c.Kind == move && m.Kind == movePut:
			c = putOf(m.Page)
		case c.Kind == move && m.Kind == moveSet:
			c = moved(api.Move{Kind: moveSet, Set: m.Set})
		case c.Kind == move && m.Kind == moveForge:
			c = forged(m.N, m.Bytes)
		case c.Kind == move:
			c = numbered(m.Kind, m.N)
		case c.Kind == rounds:
			c = script.Command{Kind: rounds, N: c.N}
		case c.Kind == trace:
			c = script.Command{Kind: trace, Server: c.Server}
		default:
			c = script.Command{Kind: c.Kind}
		}
		all = append(all, c)
	}
	return all
}

func modelFrame(f api.Frame) string {
	line := fmt.Sprintf("%d %d %d", f.Type, f.Flags, f.Stream)
	if f.Data != "" {
		line += " data " + modelQuote(f.Data)
	}
	for _, x := range []struct {
		name string
		n    int64
	}{{"pad", int64(f.Pad)}, {"dep", f.Dep}, {"excl", 0}, {"weight", int64(f.Weight)}, {"code", f.Code}, {"last", f.Last}} {
		switch {
		case x.name == "excl" && f.Excl:
			line += " excl"
		case x.n != 0:
			line += fmt.Sprintf(" %s %d", x.name, x.n)
		}
	}
	for _, p := range f.Params {
		line += fmt.Sprintf(" param %d %d", p.ID, p.Value)
	}
	return line
}
