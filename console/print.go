package console

import (
	"bytes"
	"strconv"
	"strings"

	"giro/amount"
	"giro/api"
	"giro/corpaction"
	"giro/date"
	"giro/engine"
	"giro/fraction"
	"giro/printer"
)

// eventNames and kindNames hold the names of the kinds of events and of accounts.
var (
	eventNames = [engine.NumEvents]string{
		"posted", "accepted", "matched", "settled", "part", "pledged", "changed", "cancelled",
		"failed", "phase", "recorded", "paid", "adjusted", "charged", "seized", "released",
	}
	kindNames = [api.NumKinds]string{"free", "reserved", "earmarked", "pledged", "issued"}
)

// Print returns the canonical line of a command.
func Print(c engine.Command) (string, api.Errno) {
	if e := c.Check(); e != api.OK {
		return "", e
	}
	line := canonical(c)
	again, e := Parse(line)
	if e != api.OK || !same(again, c) {
		return "", api.ErrSyntax
	}
	return line, api.OK
}

// Render returns an event as text.
func Render(x engine.Event) string {
	ref := x.Ref
	if ref == "" {
		ref = "-"
	}
	clock, _ := date.FormatClock(x.Clock)
	var b strings.Builder
	b.WriteString(strings.Join([]string{strconv.Itoa(x.Seq), clock, EventName(x.Kind), ref, number(x.Amount)}, " "))
	b.WriteString("\n")
	for _, p := range x.Postings {
		b.WriteString("  ")
		b.WriteString(strings.Join([]string{p.Account.Owner, KindName(p.Account.Kind), p.Account.Asset, number(p.Delta)}, " "))
		b.WriteString("\n")
	}
	return b.String()
}

// EventName returns the name of a kind of events.
func EventName(kind int) string {
	if kind < 0 || kind >= engine.NumEvents {
		return ""
	}
	return eventNames[kind]
}

// KindName returns the name of a kind of accounts.
func KindName(kind int) string {
	if kind < 0 || kind >= api.NumKinds {
		return ""
	}
	return kindNames[kind]
}

// canonical returns the line of a valid command, which may be a wrong one if a field cannot stand in a line.
func canonical(c engine.Command) string {
	var words []string
	switch c.Kind {
	case engine.Advance:
		clock, _ := date.FormatClock(c.Clock)
		words = []string{"time", clock}
	case engine.SetMember:
		words = memberWords(c)
	case engine.SetSecurity:
		words = []string{"security", c.Security.ISIN, "by", c.Security.Issuer, "lot", number(c.Security.Lot), activity(c.Security.Active)}
	case engine.SetPrice:
		words = []string{"price", c.Asset, cash(c.Amount)}
	case engine.SetHaircut:
		words = []string{"haircut", c.Asset, c.Ratio.String()}
	case engine.Issue:
		words = []string{"issue", c.Asset, "by", c.From, "to", c.To, quantity(c.Asset, c.Amount)}
	case engine.Redeem:
		words = []string{"redeem", c.Asset, "by", c.From, "from", c.To, quantity(c.Asset, c.Amount)}
	case engine.SetBilateral:
		words = []string{"limit", c.From, "against", c.To, limit(c.Amount)}
	case engine.SetMultilateral:
		words = []string{"limit", c.From, limit(c.Amount)}
	case engine.Reserve:
		words = []string{"reserve", c.From, cash(c.Amount)}
	case engine.Unreserve:
		words = []string{"unreserve", c.From, cash(c.Amount)}
	case engine.SetAuto:
		words = []string{"auto", c.From, "off"}
		if c.Amount == 1 {
			words[2] = "on"
		}
	case engine.Submit:
		line, _ := printer.Print(c.Request)
		return line
	case engine.Announce:
		words = actionLine(c.Action)
	case engine.Withdraw:
		words = []string{"withdraw", c.From}
	}
	return strings.Join(words, " ")
}

// memberWords returns the words of a member's line.
func memberWords(c engine.Command) []string {
	words := []string{"member", c.Member.Code}
	if c.Member.LEI != "" {
		words = append(words, "lei", c.Member.LEI)
	}
	return append(words, activity(c.Member.Active))
}

// actionLine returns the words of the line of a corporate action.
func actionLine(a corpaction.Event) []string {
	words := []string{"action", actionWords[a.Kind], a.Id, "by", a.Issuer, "isin", a.Asset}
	if a.Into != "" {
		words = append(words, "into", a.Into)
	}
	if a.Ratio != (fraction.Fraction{}) {
		words = append(words, "ratio", a.Ratio.String())
	}
	if a.Cash != (fraction.Fraction{}) {
		words = append(words, "cash", a.Cash.String())
	}
	if a.Price != 0 {
		words = append(words, "price", cash(a.Price))
	}
	return append(words, "ex", day(a.ExDay), "record", day(a.RecordDay), "pay", day(a.PayDay))
}

// same reports whether two valid commands are equal, for which they need the same encoding.
func same(a, b engine.Command) bool {
	x, e1 := engine.EncodeCommand(a)
	y, e2 := engine.EncodeCommand(b)
	return e1 == api.OK && e2 == api.OK && bytes.Equal(x, y)
}

func activity(active bool) string {
	if active {
		return "active"
	}
	return "inactive"
}

// limit returns the amount of a limit, or the word for none.
func limit(x int64) string {
	if x == -1 {
		return "none"
	}
	return cash(x)
}

// quantity returns an amount of an asset.
func quantity(asset string, x int64) string {
	if asset == api.Cash {
		return cash(x)
	}
	return number(x)
}

func cash(x int64) string {
	s, _ := amount.Format(x)
	return s
}

func day(n int) string {
	s, _ := date.Format(n)
	return s
}

func number(x int64) string { return strconv.FormatInt(x, 10) }
